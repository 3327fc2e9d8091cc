/-
  What package doctype's small functions answer: behindSpaces, name, quoted, inQuotes.
-/
import Derived.Test.YtbceopiipigljaaDtLaws
import Derived.Test.YtbceopiipigljaaP3
import Derived.Test.YtbceopiipigljaaP1
import Derived.Test.YtbceopiipigljaaP4
import Derived.Deep.RegionHeld3
namespace Go.Proofs.Ytbceopiipigljaa
open Go.RowKit Go.Lib

theorem tail_str (s : ByteArray) (k : Nat) : s.extract k s.size = ⟨(s.data.toList.drop k).toArray⟩ := str_ext (by
  rw [Lib.extract_data, List.toList_toArray, List.take_of_length_le]
  rw [List.length_drop, ← Lib.size_eq]; exact Nat.le_refl _)
theorem head_str (s : ByteArray) (k : Nat) : s.extract 0 k = ⟨(s.data.toList.take k).toArray⟩ := str_ext (by
  rw [Lib.extract_data, List.toList_toArray, List.drop_zero, Nat.sub_zero])
theorem tw_len_le (p : UInt8 → Bool) (l : Txt) : (l.takeWhile p).length ≤ l.length := (List.takeWhile_sublist p).length_le
theorem tw_all (p : UInt8 → Bool) : ∀ (l : Txt) (x : UInt8), x ∈ l.takeWhile p → p x = true
  | [], x, h => by simp at h
  | c :: l, x, h => by
    rw [List.takeWhile_cons] at h
    split at h
    · next hc =>
      rw [List.mem_cons] at h
      rcases h with rfl | h
      · exact hc
      · exact tw_all p l x h
    · simp at h
theorem take_tw_len (p : UInt8 → Bool) (l : Txt) : l.take (l.takeWhile p).length = l.takeWhile p := by
  conv => lhs; arg 2; rw [← List.takeWhile_append_dropWhile (p := p) (l := l)]
  rw [List.take_left]

set_option maxRecDepth 100000 in
set_option maxHeartbeats 1000000 in
theorem behindSpaces_any (s : ByteArray) (w : World) (hs : s.size ≤ 1048576) :
    Calls Try.prog 24 #[.string s] w fun e w' => e = .returned (.string ⟨(s.data.toList.dropWhile spaB).toArray⟩) ∧ w' = w := by
  have HS := fun (c : UInt8) w => Lib.hid (space ((c.toNat : Nat) : Int) w (by omega) (by have := c.toNat_lt; omega))
  have hd := seek_drop spaB s.data.toList 0
  rw [List.drop_zero] at hd
  rw [← hd]
  have hR0 := (seek_le spaB s 0 (Nat.zero_le _)).2
  obtain ⟨R, hR⟩ : ∃ R, seekP spaB s.data.toList 0 = R := ⟨_, rfl⟩
  rw [hR] at hR0
  rw [hR, ← tail_str]
  have HR := Lib.hid hR
  clear hR hd
  go_enter Try.func24, Try.ntmps24
  go_wp2
  go_loopw [3] (fun v wr => ∃ k : Nat, v = .int .i64 (k : Int) ∧ w = wr ∧ k ≤ s.size ∧ Hid (seekP spaB s.data.toList k = R)) (fun v _ => s.size - (intOf v).toNat)
  case atStart => exact ⟨0, rfl, rfl, Nat.zero_le _, HR⟩
  case round =>
    obtain ⟨k, rfl, rfl, hk, HK⟩ := hrel
    by_cases hlt : k < s.size
    · have HC := fun w => HS s[k] w
      cases hp : spaB s[k]
      · have hRk := (seek_no spaB s k hlt hp).symm.trans HK.out
        subst hRk
        rw [show spaceI ((s[k].toNat : Nat) : Int) = false from hp] at HC
        clear hp HS
        go_wp2_with (go_at_call 39; refine (HC _).out.mono ?_; rintro e w' ⟨rfl, rfl⟩)
        go_ret
        exact ⟨rfl, rfl⟩
      · have hRk := Lib.hid ((seek_yes spaB s k hlt hp).symm.trans HK.out)
        rw [show spaceI ((s[k].toNat : Nat) : Int) = true from hp] at HC
        clear hp HS
        go_wp2_with (go_at_call 39; refine (HC _).out.mono ?_; rintro e w' ⟨rfl, rfl⟩)
        go_roundw
        case rel => exact ⟨k + 1, by go_num, trivial, by omega, hRk⟩
        case measure => simp [intOf]; omega
    · obtain rfl : k = s.size := by omega
      have hRk := (seek_end spaB s _ (Nat.le_refl _)).symm.trans HK.out
      subst hRk
      go_wp2
      go_ret
      exact ⟨ret_str (str_ext (by simp)), rfl⟩

set_option maxRecDepth 100000 in
set_option maxHeartbeats 1000000 in
theorem name_any (s : ByteArray) (w : World) (hs : s.size ≤ 1048576) :
    Calls Try.prog 25 #[.string s] w fun e w' => e = .returned (.tuple #[.string ⟨(dtN s.data.toList).toArray⟩, .string ⟨(s.data.toList.dropWhile (fun c => !spaB c)).toArray⟩]) ∧ Below w.heap.size w w' := by
  have HS := fun (c : UInt8) w => Lib.hid (space ((c.toNat : Nat) : Int) w (by omega) (by have := c.toNat_lt; omega))
  have hd := seek_drop (fun c => !spaB c) s.data.toList 0
  rw [List.drop_zero] at hd
  rw [← hd]
  have hR0 := (seek_le (fun c => !spaB c) s 0 (Nat.zero_le _)).2
  have ht := seek_text (fun c => !spaB c) s 0
  rw [List.drop_zero] at ht
  unfold dtN
  rw [← ht]
  obtain ⟨R, hR⟩ : ∃ R, seekP (fun c => !spaB c) s.data.toList 0 = R := ⟨_, rfl⟩
  rw [hR] at hR0
  rw [hR, ← tail_str]
  have hxs : (s.extract 0 R).size ≤ 1048576 := by rw [ByteArray.size_extract]; omega
  have cL : Hid (∀ w', Below w.heap.size w w' → Calls Try.prog 17 #[.string (s.extract 0 R)] w' fun e w'' => e = .returned (.string (lowS (s.extract 0 R))) ∧ Below w.heap.size w w'') := Lib.hid (fun w' hb => by
    refine (lower _ w' (by omega)).mono ?_
    rintro e w'' ⟨rfl, hb''⟩
    exact ⟨rfl, hb.trans (hb''.mono hb.size)⟩)
  have cC : Hid (∀ w', Below w.heap.size w w' → Calls Try.prog 19 #[.string (lowS (s.extract 0 R))] w' fun e w'' => e = .returned (.string ⟨(cleanL (lowL (s.extract 0 R).data.toList)).toArray⟩) ∧ Below w.heap.size w w'') := Lib.hid (fun w' hb => by
    refine (clean_any _ w' (by rw [lowS_size]; omega)).mono ?_
    rintro e w'' ⟨rfl, hb''⟩
    exact ⟨by rw [lowS_list], hb.trans (hb''.mono hb.size)⟩)
  obtain ⟨X, hX⟩ : ∃ X : ByteArray, ⟨(cleanL (lowL (s.extract 0 R).data.toList)).toArray⟩ = X := ⟨_, rfl⟩
  rw [hX] at cC ⊢
  obtain ⟨Y, hY⟩ : ∃ Y : ByteArray, lowS (s.extract 0 R) = Y := ⟨_, rfl⟩
  rw [hY] at cC cL
  have HR := Lib.hid hR
  clear hR hd ht hX hY hxs
  have hd0 : Below w.heap.size w w.drew := (Below.refl _ w).drew
  go_enter Try.func25, Try.ntmps25
  go_wp2
  go_loopw [4] (fun v wr => ∃ k : Nat, v = .int .i64 (k : Int) ∧ w = wr ∧ k ≤ s.size ∧ Hid (seekP (fun c => !spaB c) s.data.toList k = R)) (fun v _ => s.size - (intOf v).toNat)
  case atStart => exact ⟨0, rfl, rfl, Nat.zero_le _, HR⟩
  case round =>
    obtain ⟨k, rfl, rfl, hk, HK⟩ := hrel
    by_cases hlt : k < s.size
    · have HC := fun w => HS s[k] w
      cases hp : spaB s[k]
      · have hRk := Lib.hid ((seek_yes (fun c => !spaB c) s k hlt (by rw [hp]; rfl)).symm.trans HK.out)
        rw [show spaceI ((s[k].toNat : Nat) : Int) = false from hp] at HC
        clear hp HS
        go_wp2_with (go_at_call 39; refine (HC _).out.mono ?_; rintro e w' ⟨rfl, rfl⟩)
        go_roundw
        case rel => exact ⟨k + 1, by go_num, trivial, by omega, hRk⟩
        case measure => simp [intOf]; omega
      · have hRk := (seek_no (fun c => !spaB c) s k hlt (by rw [hp]; rfl)).symm.trans HK.out
        subst hRk
        rw [show spaceI ((s[k].toNat : Nat) : Int) = true from hp] at HC
        clear hp HS HK HR
        have hki : (k : Int) ≤ (s.size : Int) := by omega
        go_wp2_with (go_at_call 39; refine (HC _).out.mono ?_; rintro e w2 ⟨rfl, hw2⟩; subst w2)
        go_region_held3 (fun w' => Below w.heap.size w w')
          (first | exact hd0 | assumption)
          (first | (go_at_call 17; with_reducible refine (cL.out _ ‹_›).mono ?_; rintro e w'' ⟨rfl, hb⟩) | (go_at_call 19; with_reducible refine (cC.out _ ‹_›).mono ?_; rintro e w'' ⟨rfl, hb⟩))
        go_wp2
        go_ret2
        exact ⟨rfl, by assumption⟩
    · obtain rfl : k = s.size := by omega
      have hRk := (seek_end (fun c => !spaB c) s _ (Nat.le_refl _)).symm.trans HK.out
      subst hRk
      clear HK HR HS
      have he : s.extract 0 s.size = s := str_ext (by rw [head_str, List.take_of_length_le (by rw [← Lib.size_eq]; exact Nat.le_refl _)])
      rw [he] at cL
      clear he
      go_wp2
      go_region_held3 (fun w' => Below w.heap.size w w')
        (first | exact hd0 | assumption)
        (first | (go_at_call 17; with_reducible refine (cL.out _ ‹_›).mono ?_; rintro e w'' ⟨rfl, hb⟩) | (go_at_call 19; with_reducible refine (cC.out _ ‹_›).mono ?_; rintro e w'' ⟨rfl, hb⟩))
      go_wp2
      go_ret2
      refine ⟨?_, by assumption⟩
      rw [show s.extract s.size s.size = ByteArray.empty from str_ext (by simp)]
      rfl

set_option maxRecDepth 100000 in
set_option maxHeartbeats 1000000 in
theorem quoted_any (s : ByteArray) (w : World) :
    Calls Try.prog 26 #[.string s] w fun e w' => e = .returned (.bool (s.data.toList.head?.any quoB)) ∧ w' = w := by
  by_cases h0 : s.size = 0
  · have hl : s.data.toList = [] := by rw [← List.length_eq_zero_iff, ← Lib.size_eq]; exact h0
    obtain rfl : s = ⟨#[]⟩ := str_ext (by rw [hl])
    clear h0 hl
    go_enter Try.func26, Try.ntmps26
    go_wp2
    go_ret
    exact ⟨rfl, rfl⟩
  · have hlt : 0 < s.size := by omega
    have hd : s.data.toList = s[0] :: s.data.toList.drop 1 := by
      have := drop_at s 0 hlt
      rw [List.drop_zero] at this; exact this
    have hne : ¬ s.toList = [] := fun h => by
      have := str_beq s ⟨#[]⟩
      rw [h, hd] at this
      simp at this
    have hem : s.toList.isEmpty = false := by
      cases h : s.toList with
      | nil => exact absurd h hne
      | cons a l => rfl
    rw [hd]
    simp only [List.head?_cons, Option.any_some]
    clear hd
    by_cases h34 : s[0] = 34
    · have b34 : (((s[0].toNat : Nat) : Int) == 34) = true := by rw [h34]; rfl
      rw [show quoB s[0] = true by rw [h34]; rfl]
      clear h34
      go_enter Try.func26, Try.ntmps26
      go_wp2
      go_ret
      exact ⟨rfl, rfl⟩
    · have b34 : (((s[0].toNat : Nat) : Int) == 34) = false := by
        rw [beq_eq_false_iff_ne]; exact fun h => h34 (u8_eq _ 34 (by decide) h)
      by_cases h39 : s[0] = 39
      · have b39 : (((s[0].toNat : Nat) : Int) == 39) = true := by rw [h39]; rfl
        rw [show quoB s[0] = true by rw [h39]; rfl]
        clear h34 h39
        go_enter Try.func26, Try.ntmps26
        go_wp2
        go_ret
        exact ⟨rfl, rfl⟩
      · have b39 : (((s[0].toNat : Nat) : Int) == 39) = false := by
          rw [beq_eq_false_iff_ne]; exact fun h => h39 (u8_eq _ 39 (by decide) h)
        rw [show quoB s[0] = false by unfold quoB; rw [beq_eq_false_iff_ne.2 h34, beq_eq_false_iff_ne.2 h39]; rfl]
        clear h34 h39
        go_enter Try.func26, Try.ntmps26
        go_wp2
        go_ret
        exact ⟨rfl, rfl⟩

set_option maxRecDepth 100000 in
set_option maxHeartbeats 1000000 in
theorem inQuotes_any (s : ByteArray) (c : UInt8) (t : Txt) (w : World) (hs : s.size ≤ 1048576) (hd : s.data.toList = c :: t) :
    Calls Try.prog 27 #[.string s] w fun e w' => e = .returned (.tuple #[.string ⟨(cleanL (t.takeWhile (· != c))).toArray⟩, .string ⟨(t.dropWhile (· != c)).tail.toArray⟩, .bool (!(t.dropWhile (· != c)).isEmpty)]) ∧ Below w.heap.size w w' := by
  have hlen : t.length + 1 = s.size := by rw [Lib.size_eq, hd]; rfl
  have h1 : s.extract 1 s.size = ⟨t.toArray⟩ := by rw [tail_str, hd]; rfl
  have h2 : s.extract 0 1 = ⟨#[c]⟩ := by rw [head_str, hd]; rfl
  have HC := fun w => Lib.hid (cut_any ⟨t.toArray⟩ c (t.takeWhile (· != c)) (t.dropWhile (· != c)) w (by rw [Lib.size_eq]; show t.length ≤ _; omega) (by simp) (fun h => by
      have := tw_all _ _ _ h
      simp at this) (by
      rcases dw_cases (· != c) t with h | ⟨d, z, h, hd⟩
      · exact .inl h
      · refine .inr ⟨z, ?_⟩
        rw [h, show d = c by simpa using hd]))
  unfold cutV at HC
  have hl := tw_len_le (· != c) t
  rw [← h1, ← h2] at HC
  obtain ⟨L, hL⟩ : ∃ L : ByteArray, ⟨(t.takeWhile (· != c)).toArray⟩ = L := ⟨_, rfl⟩
  have hLl : L.data.toList = t.takeWhile (· != c) := by rw [← hL, List.toList_toArray]
  have hCl := fun w => Lib.hid (clean_any L w (by rw [Lib.size_eq, hLl]; omega))
  rw [hL] at HC
  rw [← hLl]
  obtain ⟨X, hX⟩ : ∃ X : ByteArray, ⟨(cleanL L.data.toList).toArray⟩ = X := ⟨_, rfl⟩
  rw [hX] at hCl ⊢
  obtain ⟨Y, hY⟩ : ∃ Y : ByteArray, ⟨(t.dropWhile (· != c)).tail.toArray⟩ = Y := ⟨_, rfl⟩
  obtain ⟨b, hb⟩ : ∃ b, (!(t.dropWhile (· != c)).isEmpty) = b := ⟨_, rfl⟩
  rw [hY, hb] at HC ⊢
  have hpos : (1 : Int) ≤ (s.size : Int) := by omega
  clear h1 h2 hlen hd hl hL hLl hX hY hb
  go_enter Try.func27, Try.ntmps27
  go_wp2
  go_quiet ((go_at_call 18; refine (HC _).out.mono ?_; rintro e w'' ⟨rfl, n, rfl⟩; exact ⟨rfl, _, World.drewN_drewN ..⟩))
  go_wp2_with (fail)
  refine (hCl _).out.mono ?_
  rintro e w2 ⟨rfl, b2⟩
  go_wp2
  go_ret3
  exact ⟨rfl, (dr_below _ _ _).trans b2⟩
end Go.Proofs.Ytbceopiipigljaa
