/-
  What package attrs' valueAt and attribute answer.
-/
import Derived.Test.YtpdmnnfbdeiejaaGreatDoorAttEnds
namespace Go.Proofs.YtpdmnnfbdeiejaaGreatDoor
open Go.RowKit Go.Lib

theorem bh_drop (p : UInt8 → Bool) (l : Txt) (i : Nat) : l.drop (bhN p l i) = (l.drop i).dropWhile p := by
  unfold bhN; rw [← List.drop_drop, drop_tw]
theorem val_bare (l : Txt) (h : ∀ c, l.head? = some c → ¬ (c = 34 ∨ c = 39)) : valT l = (l.takeWhile valB, (l.takeWhile valB).length) := by
  cases l with
  | nil => rfl
  | cons c t => rw [valT_cons, if_neg (h c rfl)]
theorem att_at (l : Txt) (i : Nat) (h : i < l.length) :
    (l.drop i).take (bhN nameB l (i + 1) - i) = anT (l.drop i) ∧
    attT (l.drop i) = if (l.drop (bhN spB l (bhN nameB l (i + 1)))).head? = some 61
      then ((valT (l.drop (bhN spB l (bhN spB l (bhN nameB l (i + 1)) + 1)))).1, bhN spB l (bhN spB l (bhN nameB l (i + 1)) + 1) + (valT (l.drop (bhN spB l (bhN spB l (bhN nameB l (i + 1)) + 1)))).2 - i)
      else ([], bhN spB l (bhN nameB l (i + 1)) - i) := by
  have ht : l.drop i = l[i] :: l.drop (i + 1) := List.drop_eq_getElem_cons h
  have ea : anT (l.drop i) = l[i] :: (l.drop (i + 1)).takeWhile nameB := by rw [ht]; rfl
  have el : (anT (l.drop i)).length = ((l.drop (i + 1)).takeWhile nameB).length + 1 := by rw [ea]; rfl
  have e1 : bhN nameB l (i + 1) = i + (anT (l.drop i)).length := by rw [el]; unfold bhN; omega
  refine ⟨?_, ?_⟩
  · rw [e1, Nat.add_sub_cancel_left, el, ht, List.take_succ_cons, take_tw, ← ht, ea]
  · unfold attT
    rw [List.drop_drop, ← e1]
    obtain ⟨a, ha⟩ : ∃ a, bhN nameB l (i + 1) = a := ⟨_, rfl⟩
    rw [ha] at e1 ⊢
    have e2 : (anT (l.drop i)).length + ((l.drop a).takeWhile spB).length = bhN spB l a - i := by unfold bhN; omega
    have hb1 : i + 1 ≤ bhN spB l a := by unfold bhN; omega
    rw [e2, ← bh_drop]
    obtain ⟨b, hb⟩ : ∃ b, bhN spB l a = b := ⟨_, rfl⟩
    rw [hb] at hb1 ⊢
    unfold attV
    split
    · rw [List.drop_drop, ← bh_drop]
      congr 1
      have e3 : b - i + 1 + ((l.drop (b + 1)).takeWhile spB).length = bhN spB l (b + 1) - i := by unfold bhN; omega
      have hb3 : i ≤ bhN spB l (b + 1) := by unfold bhN; omega
      rw [e3]; omega
    · rfl
theorem low_is (n : Nat) (hn : n < 256) (hl : ¬ (97 ≤ n ∧ n ≤ 122)) (hu : ¬ (65 ≤ n ∧ n ≤ 90)) (c : UInt8) : (UInt8.ofNat n == lowB c) = (c == UInt8.ofNat n) := by
  have h1 := lowB_int c
  have h2 : (UInt8.ofNat n).toNat = n := by rw [UInt8.toNat_ofNat']; exact Nat.mod_eq_of_lt hn
  have h3 := c.toNat_lt
  rw [Bool.eq_iff_iff, beq_iff_eq, beq_iff_eq, ← UInt8.toNat_inj, ← UInt8.toNat_inj, h2]
  by_cases hc : 65 ≤ (c.toNat : Int) ∧ (c.toNat : Int) ≤ 90
  · rw [show lowI (c.toNat : Int) = (c.toNat : Int) + 32 from if_pos hc] at h1
    constructor <;> intro h <;> omega
  · rw [show lowI (c.toNat : Int) = (c.toNat : Int) from if_neg hc] at h1
    constructor <;> intro h <;> omega
theorem beg_eq (s : ByteArray) (i : Nat) (h : i ≤ s.size) : begS s (i : Int) ⟨#[61]⟩ = decide ((s.data.toList.drop i).head? = some 61) := by
  unfold begS
  rw [decide_eq_true (show 0 ≤ (i : Int) ∧ (i : Int) ≤ (s.size : Int) by omega), Bool.true_and, show ((i : Nat) : Int).toNat = i by omega]
  show [61].isPrefixOf _ = _
  cases s.data.toList.drop i with
  | nil => rfl
  | cons c t =>
    rw [lowL_cons, List.isPrefixOf_cons_cons, List.isPrefixOf_nil_left, Bool.and_true, show ((61 : UInt8) == lowB c) = (c == 61) from low_is 61 (by decide) (by decide) (by decide) c]
    rw [Bool.eq_iff_iff]; simp
theorem beg_close (s : ByteArray) (i : Nat) (h : i ≤ s.size) : begS s (i : Int) ⟨#[47, 62]⟩ = decide ((s.data.toList.drop i).head? = some 47 ∧ (s.data.toList.drop (i + 1)).head? = some 62) := by
  unfold begS
  rw [decide_eq_true (show 0 ≤ (i : Int) ∧ (i : Int) ≤ (s.size : Int) by omega), Bool.true_and, show ((i : Nat) : Int).toNat = i by omega, ← List.drop_drop]
  show [47, 62].isPrefixOf _ = _
  cases s.data.toList.drop i with
  | nil => rfl
  | cons c t =>
    cases t with
    | nil => 
      rw [lowL_cons, List.isPrefixOf_cons_cons]
      simp [lowL]
    | cons d r =>
      rw [lowL_cons, List.isPrefixOf_cons_cons, lowL_cons, List.isPrefixOf_cons_cons, List.isPrefixOf_nil_left, Bool.and_true, show ((47 : UInt8) == lowB c) = (c == 47) from low_is 47 (by decide) (by decide) (by decide) c,
        show ((62 : UInt8) == lowB d) = (d == 62) from low_is 62 (by decide) (by decide) (by decide) d]
      rw [Bool.eq_iff_iff]; simp

set_option maxRecDepth 100000 in
set_option maxHeartbeats 2000000 in
theorem valueAt_any (s : ByteArray) (a : Int) (i : Nat) (w : World) (hs : s.size ≤ 1099511627776) (ha : (i : Int) = a) (hi : i ≤ s.size) :
    Calls Tryz.prog 20 #[.string s, .int .i64 a] w fun e w' => e = .returned (.tuple #[.string ⟨(valT (s.data.toList.drop i)).1.toArray⟩, .int .i64 ((i + (valT (s.data.toList.drop i)).2 : Nat) : Int)]) ∧ ∃ n, w' = w.drewN n := by
  subst ha
  have hlen : (s.data.toList.drop i).length = s.size - i := by rw [List.length_drop, ← Lib.size_eq]
  by_cases hq : ∃ h : i < s.size, s[i] = 34 ∨ s[i] = 39
  · obtain ⟨hlt, hq⟩ := hq
    have hv : valT (s.data.toList.drop i) = ((s.data.toList.drop (i + 1)).takeWhile (· != s[i]), s.size - i - (((s.data.toList.drop (i + 1)).dropWhile (· != s[i])).tail).length) := by
      rw [drop_at s i hlt, valT_cons, if_pos hq, ← drop_at s i hlt, hlen]
    obtain ⟨t, ht⟩ : ∃ t, s.data.toList.drop (i + 1) = t := ⟨_, rfl⟩
    have htl : t.length = s.size - (i + 1) := by rw [← ht, List.length_drop, ← Lib.size_eq]
    have hxs : (s.extract (i + 1) s.size).size ≤ 1099511627776 := by rw [ByteArray.size_extract]; omega
    have hx : (s.extract (i + 1) s.size).data.toList = t.takeWhile (· != s[i]) ++ t.dropWhile (· != s[i]) := by
      rw [extract_data, List.take_of_length_le (by rw [List.length_drop, ← Lib.size_eq]; omega), ht, List.takeWhile_append_dropWhile]
    have hno : s[i] ∉ t.takeWhile (· != s[i]) := fun h => by
      have := List.all_eq_true.1 (List.all_takeWhile (l := t) (p := (· != s[i]))) _ h
      simp at this
    have hrest : t.dropWhile (· != s[i]) = [] ∨ ∃ z, t.dropWhile (· != s[i]) = s[i] :: z := by
      cases hd : t.dropWhile (· != s[i]) with
      | nil => exact .inl rfl
      | cons d z =>
        have := dw_head _ t d z hd
        have : d = s[i] := by simpa using this
        exact .inr ⟨z, by rw [this]⟩
    have HC := fun w => Lib.hid (cut_any (s.extract (i + 1) s.size) s[i] _ _ w hxs hx hno hrest)
    rw [show (⟨#[s[i]]⟩ : ByteArray) = s.extract i (i + 1) from str_ext (by rw [extract_one s i hlt])] at HC
    unfold cutV at HC
    obtain ⟨V, hV⟩ : ∃ V : ByteArray, ⟨(t.takeWhile (· != s[i])).toArray⟩ = V := ⟨_, rfl⟩
    obtain ⟨L, hL⟩ : ∃ L : ByteArray, ⟨(t.dropWhile (· != s[i])).tail.toArray⟩ = L := ⟨_, rfl⟩
    obtain ⟨B, hB⟩ : ∃ B : Bool, (!(t.dropWhile (· != s[i])).isEmpty) = B := ⟨_, rfl⟩
    have hLs : L.size = ((t.dropWhile (· != s[i])).tail).length := by rw [← hL, Lib.size_eq, List.toList_toArray]
    have hLle : L.size ≤ s.size - (i + 1) := by
      have h1 := List.length_tail (l := t.dropWhile (· != s[i]))
      have h2 := (List.dropWhile_sublist (l := t) (· != s[i])).length_le
      omega
    rw [hv, ht]
    simp only
    rw [hV, ← hLs]
    rw [hV, hL, hB] at HC
    have HR := Lib.hid (show ((s.size : Int) - (L.size : Int)) = ((i + (s.size - i - L.size) : Nat) : Int) by omega)
    rw [← HR.out]
    have i1 : (i : Int) + 1 ≤ (s.size : Int) := by omega
    have i2 : (i : Int) < (s.size : Int) := by omega
    have i3 : (0 : Int) ≤ (i : Int) + 1 := by omega
    have i4 : IntKind.i64.wrap ((i : Int) + 1) = (i : Int) + 1 := by rw [IntKind.wrap_i64]; omega
    have i5 : ((i : Int) + 1).toNat = i + 1 := by omega
    have i6 : (i : Int) ≤ (i : Int) + 1 := by omega
    have hc : ((s[i].toNat : Int) != 34) = false ∨ ((s[i].toNat : Int) != 34) = true ∧ ((s[i].toNat : Int) != 39) = false := by
      rcases hq with h | h <;> rw [h] <;> decide
    clear hv ht htl hxs hx hno hrest hV hL hB hq HR hlen hLs
    have d1 : ((i : Int) == (s.size : Int)) = false := by simp; omega
    rcases hc with h34 | ⟨h34, h39⟩
    all_goals
      go_enter Tryz.func20, Tryz.ntmps20
      go_wp2
      go_quiet ((go_at_call 25; refine (HC _).out.mono ?_; rintro e w'' ⟨rfl, n, rfl⟩; first | exact ⟨rfl, _, World.drewN_drewN ..⟩ | exact ⟨rfl, _, rfl⟩))
      go_wp2
      go_ret2
      exact ⟨rfl, _, rfl⟩
  · have hv := val_bare (s.data.toList.drop i) (fun c h => fun hc => hq (by
      have hlt : i < s.size := Nat.lt_of_not_le fun h2 => by
        rw [List.drop_eq_nil_of_le (by rw [← Lib.size_eq]; exact h2)] at h; simp at h
      refine ⟨hlt, ?_⟩
      rw [drop_at s i hlt, List.head?_cons, Option.some.injEq] at h
      rw [h]; exact hc))
    have HB := fun w => Lib.hid (behind_value s (i : Int) i w hs rfl hi)
    have hle := bhN_le valB s i hi
    have HV := Lib.hid (show s.extract i (bhN valB s.data.toList i) = ⟨((s.data.toList.drop i).takeWhile valB).toArray⟩ from str_ext (by
      rw [extract_data]; unfold bhN; rw [Nat.add_sub_cancel_left, take_tw]))
    rw [hv]
    simp only
    rw [← HV.out, show i + ((s.data.toList.drop i).takeWhile valB).length = bhN valB s.data.toList i from rfl]
    obtain ⟨E, hE⟩ : ∃ E, bhN valB s.data.toList i = E := ⟨_, rfl⟩
    rw [hE] at HB hle ⊢
    clear hv HV hE hlen
    by_cases hlt : i < s.size
    · have h34 : ((s[i].toNat : Int) != 34) = true := by
        have : ¬ s[i] = 34 := fun h => hq ⟨hlt, .inl h⟩
        rw [bne_iff_ne]; intro h; exact this (u8_eq _ 34 (by decide) h)
      have h39 : ((s[i].toNat : Int) != 39) = true := by
        have : ¬ s[i] = 39 := fun h => hq ⟨hlt, .inr h⟩
        rw [bne_iff_ne]; intro h; exact this (u8_eq _ 39 (by decide) h)
      have d1 : ((i : Int) == (s.size : Int)) = false := by simp; omega
      clear hq
      go_enter Tryz.func20, Tryz.ntmps20
      go_wp2_with (go_at_call 17; refine (HB _).out.mono ?_; rintro e w' ⟨rfl, rfl⟩)
      go_ret2
      exact ⟨rfl, 0, rfl⟩
    · obtain rfl : i = s.size := by omega
      clear hq
      go_enter Tryz.func20, Tryz.ntmps20
      go_wp2_with (go_at_call 17; refine (HB _).out.mono ?_; rintro e w' ⟨rfl, rfl⟩)
      go_ret2
      exact ⟨rfl, 0, rfl⟩

set_option maxRecDepth 100000 in
set_option maxHeartbeats 2000000 in
theorem attribute_any (s : ByteArray) (a : Int) (i : Nat) (w : World) (hs : s.size ≤ 1099511627776) (ha : (i : Int) = a) (hi : i < s.size) :
    Calls Tryz.prog 10 #[.string s, .int .i64 a] w fun e w' => e = .returned (.tuple #[.string ⟨(tellN (anT (s.data.toList.drop i))).toArray⟩, .string ⟨(attT (s.data.toList.drop i)).1.toArray⟩, .int .i64 ((i + (attT (s.data.toList.drop i)).2 : Nat) : Int)]) ∧ Below w.heap.size w w' := by
  subst ha
  obtain ⟨h1, h2⟩ := att_at s.data.toList i (by rw [← Lib.size_eq]; exact hi)
  have HB1 := fun w => Lib.hid (behind_name s ((i : Int) + 1) (i + 1) w hs (by omega) (by omega))
  have l1 := bhN_le nameB s (i + 1) (by omega)
  obtain ⟨e1, he1⟩ : ∃ e1, bhN nameB s.data.toList (i + 1) = e1 := ⟨_, rfl⟩
  rw [he1] at h1 h2 HB1 l1
  have HB2 := fun w => Lib.hid (behind_space s (e1 : Int) e1 w hs rfl l1.2)
  have l2 := bhN_le spB s e1 l1.2
  obtain ⟨e2, he2⟩ : ∃ e2, bhN spB s.data.toList e1 = e2 := ⟨_, rfl⟩
  rw [he2] at h2 HB2 l2
  have HG := fun w => Lib.hid (begins s (e2 : Int) ⟨#[61]⟩ w hs (by decide) (by omega) (by omega))
  rw [beg_eq s e2 l2.2] at HG
  obtain ⟨X, hX⟩ : ∃ X, s.extract i e1 = X := ⟨_, rfl⟩
  have hXl : X.data.toList = anT (s.data.toList.drop i) := by rw [← hX, extract_data, h1]
  have hXs : X.size ≤ 1099511627776 := by rw [← hX, ByteArray.size_extract]; omega
  have HL := fun w => Lib.hid (lower X w hXs)
  have HC := fun w => Lib.hid (clean_any (lowS X) w (by rw [lowS_size]; exact hXs))
  rw [lowS_list, hXl] at HC
  rw [show cleanL (lowL (anT (s.data.toList.drop i))) = tellN (anT (s.data.toList.drop i)) from rfl] at HC
  obtain ⟨N, hN⟩ : ∃ N : ByteArray, ⟨(tellN (anT (s.data.toList.drop i))).toArray⟩ = N := ⟨_, rfl⟩
  rw [hN] at HC ⊢
  have HX := Lib.hid hX
  have HX2 := Lib.hid hX.symm
  clear hXl hN h1 he1 he2 hXs
  by_cases h61 : (s.data.toList.drop e2).head? = some 61
  · rw [if_pos h61] at h2
    rw [decide_eq_true h61] at HG
    have hlt : e2 < s.size := Nat.lt_of_not_le fun h => by
      rw [List.drop_eq_nil_of_le (by rw [← Lib.size_eq]; exact h)] at h61; simp at h61
    have HB3 := fun w => Lib.hid (behind_space s ((e2 : Int) + 1) (e2 + 1) w hs (by omega) (by omega))
    have l3 := bhN_le spB s (e2 + 1) (by omega)
    obtain ⟨e3, he3⟩ : ∃ e3, bhN spB s.data.toList (e2 + 1) = e3 := ⟨_, rfl⟩
    rw [he3] at h2 HB3 l3
    have HV := fun w => Lib.hid (valueAt_any s (e3 : Int) e3 w hs rfl l3.2)
    rw [h2]
    simp only
    obtain ⟨V, hV⟩ : ∃ V : ByteArray, ⟨(valT (s.data.toList.drop e3)).1.toArray⟩ = V := ⟨_, rfl⟩
    obtain ⟨M, hM⟩ : ∃ M, e3 + (valT (s.data.toList.drop e3)).2 = M := ⟨_, rfl⟩
    rw [hV, hM] at HV
    have hMi : i + (M - i) = M := by omega
    rw [hV, hM, hMi]
    clear h2 hV hM hMi he3 h61 hX
    go_enter Tryz.func10, Tryz.ntmps10
    go_wp2_with (fail)
    refine (HB1 _).out.mono ?_
    rintro e w1 ⟨rfl, rfl⟩
    go_wp2_with (fail)
    rw [HX.out]
    refine (HL _).out.mono ?_
    rintro e w2 ⟨rfl, b2⟩
    go_wp2_with (fail)
    refine (HC _).out.mono ?_
    rintro e w3 ⟨rfl, b3⟩
    have c3 := b2.trans (b3.mono b2.size)
    go_wp2_with (fail)
    refine (HB2 _).out.mono ?_
    rintro e w4 ⟨rfl, rfl⟩
    go_wp2_with (fail)
    refine (HG _).out.mono ?_
    rintro e w5 ⟨rfl, n5, rfl⟩
    go_wp2_with (fail)
    refine (HB3 _).out.mono ?_
    rintro e w6 ⟨rfl, rfl⟩
    go_wp2_with (fail)
    refine (HV _).out.mono ?_
    rintro e w7 ⟨rfl, n7, rfl⟩
    go_wp2
    go_ret3
    exact ⟨rfl, c3.trans (dr_below _ _ _)⟩
  · rw [if_neg h61] at h2
    rw [decide_eq_false h61] at HG
    rw [h2]
    simp only
    have hMi : i + (e2 - i) = e2 := by omega
    rw [hMi]
    clear h2 hMi h61 hX
    go_enter Tryz.func10, Tryz.ntmps10
    go_wp2_with (fail)
    refine (HB1 _).out.mono ?_
    rintro e w1 ⟨rfl, rfl⟩
    go_wp2_with (fail)
    rw [HX.out]
    refine (HL _).out.mono ?_
    rintro e w2 ⟨rfl, b2⟩
    go_wp2_with (fail)
    refine (HC _).out.mono ?_
    rintro e w3 ⟨rfl, b3⟩
    have c3 := b2.trans (b3.mono b2.size)
    go_wp2_with (fail)
    refine (HB2 _).out.mono ?_
    rintro e w4 ⟨rfl, rfl⟩
    go_wp2_with (fail)
    refine (HG _).out.mono ?_
    rintro e w5 ⟨rfl, n5, rfl⟩
    go_wp2
    go_ret3
    exact ⟨rfl, c3.trans (dr_below _ _ _)⟩
end Go.Proofs.YtpdmnnfbdeiejaaGreatDoor
