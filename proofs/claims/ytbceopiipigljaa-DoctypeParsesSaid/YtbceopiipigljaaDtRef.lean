/-
  What the document's answers of layer 11 are, but for Parse.
-/
import Derived.Test.YtbceopiipigljaaDtLaws
import Derived.Test.YtbceopiipigljaaRec
import Derived.Test.YtbceopiipigljaaP1
import Derived.Test.YtbceopiipigljaaP4
namespace Go.Proofs.Ytbceopiipigljaa
open Go.RowKit Go.Lib

set_option maxRecDepth 100000 in
set_option maxHeartbeats 1000000 in
theorem ref11Pass_any (s : ByteArray) (a : Int) (i : Nat) (w : World) (hs : s.size ≤ 1048576) (ha : (i : Int) = a) (hi : i ≤ s.size) :
    Calls Try.prog 28 #[.string s, .int .i64 a] w fun e w' => e = .returned (.int .i64 (seekP spaB s.data.toList i : Int)) ∧ w' = w := by
  subst ha
  have HS := fun (c : UInt8) w => Lib.hid (refSpace ((c.toNat : Nat) : Int) w)
  obtain ⟨R, hR⟩ : ∃ R, seekP spaB s.data.toList i = R := ⟨_, rfl⟩
  rw [hR]
  have HR := Lib.hid hR
  clear hR
  go_enter Try.func28, Try.ntmps28
  go_wp2
  go_loopw [1] (fun v wr => ∃ k : Nat, v = .int .i64 (k : Int) ∧ w = wr ∧ k ≤ s.size ∧ Hid (seekP spaB s.data.toList k = R)) (fun v _ => s.size - (intOf v).toNat)
  case atStart => exact ⟨i, rfl, rfl, hi, HR⟩
  case round =>
    obtain ⟨k, rfl, rfl, hk, HK⟩ := hrel
    by_cases hlt : k < s.size
    · have HC := fun w => HS s[k] w
      cases hp : spaB s[k]
      · have hRk := Lib.hid ((seek_no spaB s k hlt hp).symm.trans HK.out)
        rw [show spaceI ((s[k].toNat : Nat) : Int) = false from hp] at HC
        clear hp HS
        go_wp2_with (go_at_call 29; refine (HC _).out.mono ?_; rintro e w' ⟨rfl, rfl⟩)
        go_ret
        exact ⟨ret_int (by rw [hRk.out]), rfl⟩
      · have hRk := Lib.hid ((seek_yes spaB s k hlt hp).symm.trans HK.out)
        rw [show spaceI ((s[k].toNat : Nat) : Int) = true from hp] at HC
        clear hp HS
        go_wp2_with (go_at_call 29; refine (HC _).out.mono ?_; rintro e w' ⟨rfl, rfl⟩)
        go_roundw
        case rel => exact ⟨k + 1, by go_num, trivial, by omega, hRk⟩
        case measure => simp [intOf]; omega
    · obtain rfl : k = s.size := by omega
      have hRk := Lib.hid ((seek_end spaB s _ (Nat.le_refl _)).symm.trans HK.out)
      go_wp2
      go_ret
      exact ⟨ret_int (by rw [hRk.out]), rfl⟩

set_option maxRecDepth 100000 in
set_option maxHeartbeats 1000000 in
theorem ref11Quote_any (s : ByteArray) (a : Int) (i : Nat) (w : World) (_hs : s.size ≤ 1048576) (ha : (i : Int) = a) (hi : i ≤ s.size) :
    Calls Try.prog 31 #[.string s, .int .i64 a] w fun e w' => e = .returned (.bool ((s.data.toList.drop i).head?.any quoB)) ∧ w' = w := by
  subst ha
  by_cases hlt : i < s.size
  · rw [drop_at s i hlt]
    simp only [List.head?_cons, Option.any_some]
    by_cases h34 : s[i] = 34
    · have b34 : (((s[i].toNat : Nat) : Int) == 34) = true := by rw [h34]; rfl
      rw [show quoB s[i] = true by rw [h34]; rfl]
      clear h34
      go_enter Try.func31, Try.ntmps31
      go_wp2
      go_ret
      exact ⟨rfl, rfl⟩
    · have b34 : (((s[i].toNat : Nat) : Int) == 34) = false := by
        rw [beq_eq_false_iff_ne]; exact fun h => h34 (u8_eq _ 34 (by decide) h)
      by_cases h39 : s[i] = 39
      · have b39 : (((s[i].toNat : Nat) : Int) == 39) = true := by rw [h39]; rfl
        rw [show quoB s[i] = true by rw [h39]; rfl]
        clear h34 h39
        go_enter Try.func31, Try.ntmps31
        go_wp2
        go_ret
        exact ⟨rfl, rfl⟩
      · have b39 : (((s[i].toNat : Nat) : Int) == 39) = false := by
          rw [beq_eq_false_iff_ne]; exact fun h => h39 (u8_eq _ 39 (by decide) h)
        rw [show quoB s[i] = false by unfold quoB; rw [beq_eq_false_iff_ne.2 h34, beq_eq_false_iff_ne.2 h39]; rfl]
        clear h34 h39
        go_enter Try.func31, Try.ntmps31
        go_wp2
        go_ret
        exact ⟨rfl, rfl⟩
  · rw [List.drop_eq_nil_of_le (by rw [← Lib.size_eq]; omega)]
    go_enter Try.func31, Try.ntmps31
    go_wp2
    go_ret
    exact ⟨rfl, rfl⟩

theorem ne_byte (c d : UInt8) : (((c.toNat : Nat) : Int) == ((d.toNat : Nat) : Int)) = !(c != d) := by
  rw [Bool.eq_iff_iff, beq_iff_eq]
  simp only [Bool.not_eq_true', bne_eq_false_iff_eq]
  rw [← UInt8.toNat_inj]; omega

set_option maxRecDepth 100000 in
set_option maxHeartbeats 1000000 in
theorem ref11Until_any (s : ByteArray) (a : Int) (i : Nat) (w : World) (hs : s.size ≤ 1048576) (ha : (i : Int) = a) (hi : i < s.size) :
    Calls Try.prog 32 #[.string s, .int .i64 a] w fun e w' => e = .returned (.int .i64 (seekP (· != s[i]) s.data.toList (i + 1) : Int)) ∧ ∃ n, w' = w.drewN n := by
  subst ha
  obtain ⟨R, hR⟩ : ∃ R, seekP (· != s[i]) s.data.toList (i + 1) = R := ⟨_, rfl⟩
  rw [hR]
  have HR := Lib.hid hR
  clear hR
  have hii : (i : Int) < (s.size : Int) := by omega
  go_enter Try.func32, Try.ntmps32
  go_wp2
  go_loopw [5] (fun v wr => ∃ k n : Nat, v = .int .i64 (k : Int) ∧ wr = w.drewN n ∧ k ≤ s.size ∧ Hid (seekP (· != s[i]) s.data.toList k = R)) (fun v _ => s.size - (intOf v).toNat)
  case atStart => exact ⟨i + 1, 0, by go_num, rfl, hi, HR⟩
  case round =>
    obtain ⟨k, n, rfl, rfl, hk, HK⟩ := hrel
    by_cases hlt : k < s.size
    · have hb := ne_byte s[k] s[i]
      cases hp : (s[k] != s[i])
      · have hRk := Lib.hid ((seek_no (· != s[i]) s k hlt hp).symm.trans HK.out)
        rw [hp] at hb
        have hb : (((s[k].toNat : Nat) : Int) == ((s[i].toNat : Nat) : Int)) = true := hb
        have he : s[k] = s[i] := by simpa using hp
        have hb2 : (s[k].toNat == s[i].toNat) = true := by rw [he]; exact beq_self_eq_true _
        clear hp he
        go_wp2
        go_quiet (fail)
        go_wp2
        go_ret
        exact ⟨ret_int (by rw [hRk.out]), _, World.drewN_drewN ..⟩
      · have hRk := Lib.hid ((seek_yes (· != s[i]) s k hlt hp).symm.trans HK.out)
        rw [hp] at hb
        have hb : (((s[k].toNat : Nat) : Int) == ((s[i].toNat : Nat) : Int)) = false := hb
        have hb2 : (s[k].toNat == s[i].toNat) = false := by
          rw [beq_eq_false_iff_ne]; intro e; rw [UInt8.toNat_inj] at e; simp [e] at hp
        clear hp
        go_wp2
        go_quiet (fail)
        go_wp2
        go_roundw
        case rel => exact ⟨k + 1, _, by go_num, rfl, by omega, hRk⟩
        case measure => simp [intOf]; omega
    · obtain rfl : k = s.size := by omega
      have hRk := Lib.hid ((seek_end (· != s[i]) s _ (Nat.le_refl _)).symm.trans HK.out)
      go_wp2
      go_ret
      exact ⟨ret_int (by rw [hRk.out]), _, rfl⟩

theorem beg_dct (s : ByteArray) (a : Int) : begS s a ⟨#[60, 33, 100, 111, 99, 116, 121, 112, 101]⟩ = dbegV s.data.toList a := by
  by_cases h : 0 ≤ a ∧ a ≤ (s.size : Int)
  · unfold begS dbegV
    rw [decide_eq_true h, decide_eq_true h.1]
    rfl
  · rw [dbeg_out _ _ (fun e => h ⟨e.1, by rw [Lib.size_eq]; omega⟩)]
    unfold begS
    rw [decide_eq_false h, Bool.false_and]

set_option maxRecDepth 100000 in
set_option maxHeartbeats 1000000 in
theorem refBegins11_any (s : ByteArray) (a : Int) (w : World) (hs : s.size ≤ 1048576) (ha : -9223372036854775808 ≤ a ∧ a ≤ 9223372036854775807) :
    Calls Try.prog 14 #[.string s, .int .i64 a] w fun e w' => e = .returned (.bool (dbegV s.data.toList a)) ∧ Below w.heap.size w w' := by
  have HB := fun w => Lib.hid (refBegins s a ⟨#[60, 33, 100, 111, 99, 116, 121, 112, 101]⟩ w (by omega) (by decide) ha.1 ha.2)
  rw [beg_dct] at HB
  obtain ⟨B, hB⟩ : ∃ B, dbegV s.data.toList a = B := ⟨_, rfl⟩
  rw [hB] at HB ⊢
  clear hB
  go_enter Try.func14, Try.ntmps14
  go_wp2_with (fail)
  refine (HB _).out.mono ?_
  rintro e w1 ⟨rfl, b1⟩
  go_wp2
  go_ret
  exact ⟨rfl, b1⟩

set_option maxRecDepth 100000 in
set_option maxHeartbeats 4000000 in
theorem refRead11_any (s : ByteArray) (a : Int) (w : World) (hs : s.size ≤ 1048576) (ha : -9223372036854775808 ≤ a ∧ a ≤ 9223372036854775807) :
    Calls Try.prog 11 #[.string s, .int .i64 a] w (TellG (dctV s.data.toList a) w) := by
  have HBg := fun w => Lib.hid (refBegins11_any s a w hs ha)
  cases hb : dbegV s.data.toList a
  · rw [hb] at HBg
    have HV := Lib.hid (dct_no s.data.toList a hb)
    clear hb ha
    go_enter Try.func11, Try.ntmps11
    go_wp2_with (fail)
    refine (HBg _).out.mono ?_
    rintro e w1 ⟨rfl, b1⟩
    have HB := Lib.hid ((b1.block _ (by simp)).trans (heap_alloc_new w _))
    have B1 := Lib.hid (((Below.refl _ w).alloc (Nat.le_refl _) _).trans (b1.mono (by simp)))
    clear b1
    go_wp2_with (refine wpList_store_tok rfl _ _ rfl w.heap.size zeroT none 0 0 rfl rfl _ HB.out rfl ?_; intro w2 hb2 hg2)
    have B2 := B1.out.grown hg2 B1.out.size (fun j hj => by cases hj; exact Nat.le_refl _)
    refine bodyPost_ret (results_tok rfl _ _ w.heap.size zeroT none 0 0 rfl (tokAt_row hb2)) rfl ?_
    exact ⟨zeroT, none, 0, 0, _, false, rfl, isRows_none _, HV.out, B2⟩
  have hin : 0 ≤ a ∧ a + 9 ≤ (s.size : Int) := by
    by_cases h : 0 ≤ a ∧ a + 9 ≤ (s.size : Int)
    · exact h
    · rw [dbeg_out _ _ (by rw [← Lib.size_eq]; exact h)] at hb; cases hb
  obtain ⟨k, rfl⟩ : ∃ k : Nat, a = k := ⟨a.toNat, by omega⟩
  rw [hb] at HBg
  rw [dbeg_in] at hb
  have hk9 : k + 9 ≤ s.size := by omega
  have hv := dct_in s.data.toList k hb
  rw [← seek_text (· != 62) s (k + 9), ← Lib.size_eq] at hv
  have hle := seek_le (· != 62) s (k + 9) hk9
  obtain ⟨E, hE⟩ : ∃ E, seekP (· != 62) s.data.toList (k + 9) = E := ⟨_, rfl⟩
  rw [hE] at hv hle
  have HE := Lib.hid hE
  have HV := Lib.hid hv
  have hk : k ≤ 1048576 := by omega
  clear hb hv hE ha hin
  go_enter Try.func11, Try.ntmps11
  go_wp2_with (fail)
  refine (HBg _).out.mono ?_
  rintro e w1 ⟨rfl, bb1⟩
  have HB := Lib.hid ((bb1.block _ (by simp)).trans (heap_alloc_new w _))
  have B1 := Lib.hid (((Below.refl _ w).alloc (Nat.le_refl _) _).trans (bb1.mono (by simp)))
  have hlt1 : w.heap.size < w1.heap.size := (Array.getElem?_eq_some_iff.1 HB.out).1
  clear bb1
  go_wp2
  go_loopw [8] (fun v wr => ∃ i : Nat, v = .int .i64 (i : Int) ∧ w1 = wr ∧ i ≤ s.size ∧ k + 9 ≤ i ∧ Hid (seekP (· != 62) s.data.toList i = E)) (fun v _ => s.size - (intOf v).toNat)
  case atStart => exact ⟨k + 9, by go_num, rfl, hk9, Nat.le_refl _, HE⟩
  case round =>
    obtain ⟨i, rfl, rfl, hi, hKi, HI⟩ := hrel
    have hi9 : (k : Int) + 9 ≤ (i : Int) := by omega
    by_cases hlt : i < s.size
    · by_cases c62 : s[i] = 62
      · have b62 : (((s[i].toNat : Nat) : Int) == 62) = true := by rw [c62]; rfl
        have HEi := Lib.hid ((seek_no (· != 62) s i hlt (by rw [c62]; rfl)).symm.trans HI.out)
        have HV2 : Hid (dctV s.data.toList (k : Int) = (dctT (s.extract (k + 9) i).data.toList, (i : Int) + 1, true)) := Lib.hid (by
          rw [HV.out, ← HEi.out, if_pos hlt, Int.natCast_add]; rfl)
        have HC := fun w => Lib.hid (refClean_any (s.extract (k + 9) i) w (by rw [ByteArray.size_extract]; omega))
        have ht : dctT (s.extract (k + 9) i).data.toList = ⟨4, [], cleanL (s.extract (k + 9) i).data.toList, [], false⟩ := rfl
        obtain ⟨X, hX⟩ : ∃ X, cleanL (s.extract (k + 9) i).data.toList = X := ⟨_, rfl⟩
        rw [hX] at HC ht
        rw [ht] at HV2
        clear c62 ht hX
        go_wp2_with (fail)
        refine (HC _).out.mono ?_
        rintro e w4 ⟨rfl, b4⟩
        have HB4 := Lib.hid ((b4.block _ hlt1).trans HB.out)
        have B4 := Lib.hid (B1.out.trans (b4.mono B1.out.size))
        clear b4
        go_wp2_with (refine wpList_store_tok rfl _ _ rfl w.heap.size ⟨4, [], X, [], false⟩ none 0 0 rfl rfl _ HB4.out rfl ?_; intro w5 hb5 hg5)
        have B5 := B4.out.grown hg5 B4.out.size (fun j hj => by cases hj; exact Nat.le_refl _)
        refine bodyPost_ret (results_tok rfl _ _ w.heap.size ⟨4, [], X, [], false⟩ none 0 0 rfl (tokAt_row hb5)) rfl ?_
        exact ⟨⟨4, [], X, [], false⟩, none, 0, 0, _, true, rfl, isRows_none _, HV2.out, B5⟩
      · have b62 : (((s[i].toNat : Nat) : Int) == 62) = false := by
          rw [beq_eq_false_iff_ne]; exact fun h => c62 (u8_eq _ 62 (by decide) h)
        have HN := Lib.hid ((seek_yes (· != 62) s i hlt (by simpa using c62)).symm.trans HI.out)
        clear c62
        go_wp2
        go_roundw
        case rel => exact ⟨i + 1, by go_num, trivial, by omega, by omega, HN⟩
        case measure => simp [intOf]; omega
    · obtain rfl : i = s.size := by omega
      have HEi := Lib.hid ((seek_end (· != 62) s _ (Nat.le_refl _)).symm.trans HI.out)
      have HV2 : Hid (dctV s.data.toList (k : Int) = (dctT (s.extract (k + 9) s.size).data.toList, (s.size : Int), true)) := Lib.hid (by
        rw [HV.out, ← HEi.out, if_neg (by omega)])
      have HC := fun w => Lib.hid (refClean_any (s.extract (k + 9) s.size) w (by rw [ByteArray.size_extract]; omega))
      have ht : dctT (s.extract (k + 9) s.size).data.toList = ⟨4, [], cleanL (s.extract (k + 9) s.size).data.toList, [], false⟩ := rfl
      obtain ⟨X, hX⟩ : ∃ X, cleanL (s.extract (k + 9) s.size).data.toList = X := ⟨_, rfl⟩
      rw [hX] at HC ht
      rw [ht] at HV2
      clear ht hX
      go_wp2_with (fail)
      refine (HC _).out.mono ?_
      rintro e w4 ⟨rfl, b4⟩
      have HB4 := Lib.hid ((b4.block _ hlt1).trans HB.out)
      have B4 := Lib.hid (B1.out.trans (b4.mono B1.out.size))
      clear b4
      go_wp2_with (refine wpList_store_tok rfl _ _ rfl w.heap.size ⟨4, [], X, [], false⟩ none 0 0 rfl rfl _ HB4.out rfl ?_; intro w5 hb5 hg5)
      have B5 := B4.out.grown hg5 B4.out.size (fun j hj => by cases hj; exact Nat.le_refl _)
      refine bodyPost_ret (results_tok rfl _ _ w.heap.size ⟨4, [], X, [], false⟩ none 0 0 rfl (tokAt_row hb5)) rfl ?_
      exact ⟨⟨4, [], X, [], false⟩, none, 0, 0, _, true, rfl, isRows_none _, HV2.out, B5⟩
end Go.Proofs.Ytbceopiipigljaa
