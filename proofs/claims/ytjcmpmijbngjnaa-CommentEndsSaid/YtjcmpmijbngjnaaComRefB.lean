/-
  What the document's Read of layer 10 answers.
-/
import Derived.Test.YtjcmpmijbngjnaaComRef
namespace Go.Proofs.Ytjcmpmijbngjnaa
open Go.RowKit Go.Lib

/-- where the next bracket stands, or the end -/
def bogE (l : Txt) (f : Nat) : Nat := f + ((l.drop f).takeWhile (· != 62)).length
theorem bogE_yes (s : ByteArray) (i : Nat) (h : i < s.size) (hp : s[i] ≠ 62) : bogE s.data.toList i = bogE s.data.toList (i + 1) := by
  unfold bogE
  rw [drop_at s i h, List.takeWhile_cons, if_pos (by simpa using hp), List.length_cons]; omega
theorem bogE_no (s : ByteArray) (i : Nat) (h : i < s.size) (hp : s[i] = 62) : bogE s.data.toList i = i := by
  unfold bogE
  rw [drop_at s i h, List.takeWhile_cons, if_neg (by simp [hp])]; rfl
theorem bogE_end (s : ByteArray) : bogE s.data.toList s.size = s.size := by
  unfold bogE
  rw [List.drop_eq_nil_of_le (by rw [← Lib.size_eq]; exact Nat.le_refl _)]; rfl
theorem bog_at (s : ByteArray) (f : Nat) (hf : f ≤ s.size) : f ≤ bogE s.data.toList f ∧ bogE s.data.toList f ≤ s.size ∧ (bogC (s.data.toList.drop f)).1 = (s.extract f (bogE s.data.toList f)).data.toList ∧
    f + (bogC (s.data.toList.drop f)).2 = if bogE s.data.toList f < s.size then bogE s.data.toList f + 1 else s.size := by
  have h1 : (List.takeWhile (· != 62) (s.data.toList.drop f)).length + (List.dropWhile (· != 62) (s.data.toList.drop f)).length = s.size - f := by
    rw [← List.length_append, List.takeWhile_append_dropWhile, List.length_drop, ← Lib.size_eq]
  have h2 := List.length_tail (l := List.dropWhile (· != 62) (s.data.toList.drop f))
  have e1 : bogE s.data.toList f = f + (List.takeWhile (· != 62) (s.data.toList.drop f)).length := rfl
  refine ⟨by omega, by omega, ?_, ?_⟩
  · rw [Lib.extract_data, e1, Nat.add_sub_cancel_left]
    unfold bogC
    conv => rhs; arg 2; rw [← List.takeWhile_append_dropWhile (p := (· != 62)) (l := s.data.toList.drop f)]
    rw [List.take_left]
  · unfold bogC
    simp only [List.length_drop, ← Lib.size_eq, h2]
    split <;> omega

set_option maxRecDepth 100000 in
set_option maxHeartbeats 4000000 in
theorem refRead10_any (s : ByteArray) (a : Int) (w : World) (hs : s.size ≤ 1048576) (ha : -9223372036854775808 ≤ a ∧ a ≤ 9223372036854775807) :
    Calls Try.prog 10 #[.string s, .int .i64 a] w (TellG (comV s.data.toList a) w) := by
  have HBg := fun w => Lib.hid (refBegins10_any s a w hs ha)
  cases hb : cbegV s.data.toList a
  · rw [hb] at HBg
    have HV := Lib.hid (com_no s.data.toList a hb)
    clear hb ha
    go_enter Try.func10, Try.ntmps10
    go_wp2_with (fail)
    refine (HBg _).out.mono ?_
    rintro e w1 ⟨rfl, b1⟩
    have HB := Lib.hid ((b1.block _ (by simp)).trans (heap_alloc_new w _))
    have B1 := Lib.hid (((Below.refl _ w).alloc (Nat.le_refl _) _).trans (b1.mono (by simp)))
    clear b1
    go_wp2_with (refine wpList_store_tok rfl _ _ rfl w.heap.size zeroT none 0 0 rfl rfl _ HB.out rfl ?_; intro w2 hb2 hg2)
    have B2 := B1.out.grown hg2 B1.out.size (fun j hj => by cases hj; exact Nat.le_refl _)
    refine bodyPost_ret (results_tok rfl _ _ w.heap.size zeroT none 0 0 rfl (tokAt_row hb2)) rfl ?_
    exact ⟨zeroT, none, 0, 0, _, false, rfl, isRows_none _, HV.out, B2⟩
  obtain ⟨k, rfl⟩ : ∃ k : Nat, a = k := ⟨a.toNat, by
    unfold cbegV at hb
    rw [Bool.and_eq_true, decide_eq_true_iff] at hb; omega⟩
  rw [hb] at HBg
  rw [cbeg_in] at hb
  have hk1 : k + 1 < s.size := Nat.lt_of_not_le fun h => by
    rw [begC_short _ (by rw [List.length_drop, ← Lib.size_eq]; omega)] at hb; cases hb
  have hk : k ≤ 1048576 := by omega
  have hv := com_in s.data.toList k hb
  have HX := fun w => Lib.hid (ref1Begins_any (s.extract k s.size) ⟨#[60, 33, 45, 45]⟩ w (by rw [ByteArray.size_extract]; omega) (by decide))
  rw [drop_text] at HX
  unfold comR at hv
  clear ha hb
  by_cases hp : [60, 33, 45, 45].isPrefixOf (s.data.toList.drop k) = true
  · rw [if_pos hp] at hv
    rw [show (⟨#[60, 33, 45, 45]⟩ : ByteArray).data.toList.isPrefixOf (s.data.toList.drop k) = true from hp] at HX
    have hk4 : k + 4 ≤ s.size := by
      have := (List.isPrefixOf_iff_prefix.1 hp).length_le
      rw [List.length_drop, ← Lib.size_eq] at this
      simp at this; omega
    have HP := fun w => Lib.hid (ref10Plain_any (s.extract (k + 4) s.size) w (by rw [ByteArray.size_extract]; omega))
    rw [drop_text] at HP
    rw [List.drop_drop] at hv
    have hn := plain_n (s.data.toList.drop (k + 4))
    have hl := plain_le (s.data.toList.drop (k + 4))
    rw [List.length_drop, ← Lib.size_eq] at hn hl
    obtain ⟨T, hT⟩ : ∃ T, (plainC (s.data.toList.drop (k + 4))).1 = T := ⟨_, rfl⟩
    obtain ⟨N, hN⟩ : ∃ N, (plainC (s.data.toList.drop (k + 4))).2 = N := ⟨_, rfl⟩
    rw [hT, hN] at HP hv
    rw [hT] at hl
    rw [hN] at hn
    have HV := Lib.hid (show comV s.data.toList (k : Int) = (comT T, (k : Int) + 4 + (N : Int), true) by
      rw [hv]; simp only [Prod.mk.injEq, true_and, and_true]; omega)
    have HC := fun w => Lib.hid (refClean_any ⟨T.toArray⟩ w (by rw [Lib.size_eq, List.toList_toArray]; omega))
    rw [List.toList_toArray] at HC
    obtain ⟨TB, hTB⟩ : ∃ TB : ByteArray, ⟨T.toArray⟩ = TB := ⟨_, rfl⟩
    rw [hTB] at HP HC
    have hkk : (k : Int) + 4 ≤ (s.size : Int) := by omega
    clear hp hv hT hN hTB hl
    go_enter Try.func10, Try.ntmps10
    go_wp2_with (fail)
    refine (HBg _).out.mono ?_
    rintro e w1 ⟨rfl, b1⟩
    have HB := Lib.hid ((b1.block _ (by simp)).trans (heap_alloc_new w _))
    have B1 := Lib.hid (((Below.refl _ w).alloc (Nat.le_refl _) _).trans (b1.mono (by simp)))
    have hlt1 : w.heap.size < w1.heap.size := (Array.getElem?_eq_some_iff.1 HB.out).1
    clear b1
    go_wp2_with (fail)
    refine (HX _).out.mono ?_
    rintro e w2 ⟨rfl, rfl⟩
    go_wp2_with (fail)
    refine (HP _).out.mono ?_
    rintro e w3 ⟨rfl, rfl⟩
    go_wp2_with (fail)
    refine (HC _).out.mono ?_
    rintro e w4 ⟨rfl, b4⟩
    have HB4 := Lib.hid ((b4.block _ hlt1).trans HB.out)
    have B4 := Lib.hid (B1.out.trans (b4.mono B1.out.size))
    clear b4
    go_wp2_with (refine wpList_store_tok rfl _ _ rfl w.heap.size (comT T) none 0 0 rfl rfl _ HB4.out rfl ?_; intro w5 hb5 hg5)
    have B5 := B4.out.grown hg5 B4.out.size (fun j hj => by cases hj; exact Nat.le_refl _)
    refine bodyPost_ret (results_tok rfl _ _ w.heap.size (comT T) none 0 0 rfl (tokAt_row hb5)) rfl ?_
    exact ⟨comT T, none, 0, 0, _, true, rfl, isRows_none _, HV.out, B5⟩
  · rw [if_neg hp] at hv
    rw [show (⟨#[60, 33, 45, 45]⟩ : ByteArray).data.toList.isPrefixOf (s.data.toList.drop k) = false from Bool.eq_false_iff.2 hp] at HX
    have hh : ((s.data.toList.drop k).drop 1).head? = some s[k + 1] := by rw [List.drop_drop, drop_at s (k + 1) hk1]; rfl
    rw [hh, List.drop_drop, List.drop_drop] at hv
    -- where the text begins
    obtain ⟨f, hf, hfk, hv2⟩ : ∃ f, (f = k + 1 ∧ s[k + 1] = 63 ∨ f = k + 2 ∧ s[k + 1] ≠ 63) ∧ f ≤ s.size ∧ comV s.data.toList (k : Int) = (comT (bogC (s.data.toList.drop f)).1, ((f + (bogC (s.data.toList.drop f)).2 : Nat) : Int), true) := by
      by_cases h63 : s[k + 1] = 63
      · rw [if_pos (by rw [h63])] at hv
        refine ⟨k + 1, .inl ⟨rfl, h63⟩, by omega, ?_⟩
        rw [hv]
        simp only [Prod.mk.injEq, true_and, and_true]; omega
      · rw [if_neg (fun e => h63 (Option.some.inj e))] at hv
        refine ⟨k + 2, .inr ⟨rfl, h63⟩, by omega, ?_⟩
        rw [hv]
        simp only [Prod.mk.injEq, true_and, and_true]; omega
    clear hv
    obtain ⟨b1, b2, b3, b4⟩ := bog_at s f hfk
    rw [b3, b4] at hv2
    obtain ⟨E, hE⟩ : ∃ E, bogE s.data.toList f = E := ⟨_, rfl⟩
    rw [hE] at hv2 b1 b2
    have HE := Lib.hid hE
    have HC := fun w => Lib.hid (refClean_any (s.extract f E) w (by rw [ByteArray.size_extract]; omega))
    have HV := Lib.hid hv2
    have hf2 : f ≤ 1048576 := by omega
    have hcase : (f = k + 1 ∧ (((s[k + 1].toNat : Nat) : Int) == 63) = true) ∨ (f = k + 2 ∧ (((s[k + 1].toNat : Nat) : Int) == 63) = false) := by
      rcases hf with ⟨h1, h2⟩ | ⟨h1, h2⟩
      · exact .inl ⟨h1, by rw [h2]; rfl⟩
      · exact .inr ⟨h1, by rw [beq_eq_false_iff_ne]; exact fun h => h2 (u8_eq _ 63 (by decide) h)⟩
    clear hp hh hv2 hE b3 b4 hf
    rcases hcase with ⟨hfe, h63⟩ | ⟨hfe, h63⟩
    · have HFE := Lib.hid hfe
      subst hfe
      go_enter Try.func10, Try.ntmps10
      go_wp2_with (fail)
      refine (HBg _).out.mono ?_
      rintro e w1 ⟨rfl, bb1⟩
      have HB := Lib.hid ((bb1.block _ (by simp)).trans (heap_alloc_new w _))
      have B1 := Lib.hid (((Below.refl _ w).alloc (Nat.le_refl _) _).trans (bb1.mono (by simp)))
      have hlt1 : w.heap.size < w1.heap.size := (Array.getElem?_eq_some_iff.1 HB.out).1
      clear bb1
      go_wp2_with (fail)
      refine (HX _).out.mono ?_
      rintro e w2 ⟨rfl, rfl⟩
      go_wp2
      go_loopw [11] (fun v wr => ∃ i : Nat, v = .int .i64 (i : Int) ∧ w2 = wr ∧ i ≤ s.size ∧ k + 1 ≤ i ∧ Hid (bogE s.data.toList i = E)) (fun v _ => s.size - (intOf v).toNat)
      case atStart => exact ⟨_, by go_num, rfl, hfk, Nat.le_refl _, HE⟩
      case round =>
        obtain ⟨i, rfl, rfl, hi, hKi, HI⟩ := hrel
        by_cases hlt : i < s.size
        · by_cases c62 : s[i] = 62
          · have b62 : (((s[i].toNat : Nat) : Int) == 62) = true := by rw [c62]; rfl
            have HEi := Lib.hid ((bogE_no s i hlt c62).symm.trans HI.out)
            have HV2 : Hid (comV s.data.toList (k : Int) = (comT (s.extract (k + 1) i).data.toList, (i : Int) + 1, true)) := Lib.hid (by
              rw [HV.out, ← HEi.out, if_pos hlt, Int.natCast_add]; rfl)
            have HC := fun w => Lib.hid (refClean_any (s.extract (k + 1) i) w (by rw [ByteArray.size_extract]; omega))
            have ht : comT (s.extract (k + 1) i).data.toList = ⟨3, [], cleanL (s.extract (k + 1) i).data.toList, [], false⟩ := rfl
            obtain ⟨X, hX⟩ : ∃ X, cleanL (s.extract (k + 1) i).data.toList = X := ⟨_, rfl⟩
            rw [hX] at HC ht
            rw [ht] at HV2
            clear c62 ht hX
            go_wp2_with (fail)
            refine (HC _).out.mono ?_
            rintro e w4 ⟨rfl, b4⟩
            have HB4 := Lib.hid ((b4.block _ hlt1).trans HB.out)
            have B4 := Lib.hid (B1.out.trans (b4.mono B1.out.size))
            clear b4
            go_wp2_with (refine wpList_store_tok rfl _ _ rfl w.heap.size ⟨3, [], X, [], false⟩ none 0 0 rfl rfl _ HB4.out rfl ?_; intro w5 hb5 hg5)
            have B5 := B4.out.grown hg5 B4.out.size (fun j hj => by cases hj; exact Nat.le_refl _)
            refine bodyPost_ret (results_tok rfl _ _ w.heap.size ⟨3, [], X, [], false⟩ none 0 0 rfl (tokAt_row hb5)) rfl ?_
            exact ⟨⟨3, [], X, [], false⟩, none, 0, 0, _, true, rfl, isRows_none _, HV2.out, B5⟩
          · have b62 : (((s[i].toNat : Nat) : Int) == 62) = false := by
              rw [beq_eq_false_iff_ne]; exact fun h => c62 (u8_eq _ 62 (by decide) h)
            have HN := Lib.hid ((bogE_yes s i hlt c62).symm.trans HI.out)
            clear c62
            go_wp2
            go_roundw
            case rel => exact ⟨i + 1, by go_num, trivial, by omega, by omega, HN⟩
            case measure => simp [intOf]; omega
        · obtain rfl : i = s.size := by omega
          have HEi := Lib.hid ((bogE_end s).symm.trans HI.out)
          have HV2 : Hid (comV s.data.toList (k : Int) = (comT (s.extract (k + 1) s.size).data.toList, (s.size : Int), true)) := Lib.hid (by
            rw [HV.out, ← HEi.out, if_neg (by omega)])
          have HC := fun w => Lib.hid (refClean_any (s.extract (k + 1) s.size) w (by rw [ByteArray.size_extract]; omega))
          have ht : comT (s.extract (k + 1) s.size).data.toList = ⟨3, [], cleanL (s.extract (k + 1) s.size).data.toList, [], false⟩ := rfl
          obtain ⟨X, hX⟩ : ∃ X, cleanL (s.extract (k + 1) s.size).data.toList = X := ⟨_, rfl⟩
          rw [hX] at HC ht
          rw [ht] at HV2
          clear ht hX
          go_wp2_with (fail)
          refine (HC _).out.mono ?_
          rintro e w4 ⟨rfl, b4⟩
          have HB4 := Lib.hid ((b4.block _ hlt1).trans HB.out)
          have B4 := Lib.hid (B1.out.trans (b4.mono B1.out.size))
          clear b4
          go_wp2_with (refine wpList_store_tok rfl _ _ rfl w.heap.size ⟨3, [], X, [], false⟩ none 0 0 rfl rfl _ HB4.out rfl ?_; intro w5 hb5 hg5)
          have B5 := B4.out.grown hg5 B4.out.size (fun j hj => by cases hj; exact Nat.le_refl _)
          refine bodyPost_ret (results_tok rfl _ _ w.heap.size ⟨3, [], X, [], false⟩ none 0 0 rfl (tokAt_row hb5)) rfl ?_
          exact ⟨⟨3, [], X, [], false⟩, none, 0, 0, _, true, rfl, isRows_none _, HV2.out, B5⟩
    · have HFE := Lib.hid hfe
      subst hfe
      go_enter Try.func10, Try.ntmps10
      go_wp2_with (fail)
      refine (HBg _).out.mono ?_
      rintro e w1 ⟨rfl, bb1⟩
      have HB := Lib.hid ((bb1.block _ (by simp)).trans (heap_alloc_new w _))
      have B1 := Lib.hid (((Below.refl _ w).alloc (Nat.le_refl _) _).trans (bb1.mono (by simp)))
      have hlt1 : w.heap.size < w1.heap.size := (Array.getElem?_eq_some_iff.1 HB.out).1
      clear bb1
      go_wp2_with (fail)
      refine (HX _).out.mono ?_
      rintro e w2 ⟨rfl, rfl⟩
      go_wp2
      go_loopw [11] (fun v wr => ∃ i : Nat, v = .int .i64 (i : Int) ∧ w2 = wr ∧ i ≤ s.size ∧ k + 2 ≤ i ∧ Hid (bogE s.data.toList i = E)) (fun v _ => s.size - (intOf v).toNat)
      case atStart => exact ⟨_, by go_num, rfl, hfk, Nat.le_refl _, HE⟩
      case round =>
        obtain ⟨i, rfl, rfl, hi, hKi, HI⟩ := hrel
        by_cases hlt : i < s.size
        · by_cases c62 : s[i] = 62
          · have b62 : (((s[i].toNat : Nat) : Int) == 62) = true := by rw [c62]; rfl
            have HEi := Lib.hid ((bogE_no s i hlt c62).symm.trans HI.out)
            have HV2 : Hid (comV s.data.toList (k : Int) = (comT (s.extract (k + 2) i).data.toList, (i : Int) + 1, true)) := Lib.hid (by
              rw [HV.out, ← HEi.out, if_pos hlt, Int.natCast_add]; rfl)
            have HC := fun w => Lib.hid (refClean_any (s.extract (k + 2) i) w (by rw [ByteArray.size_extract]; omega))
            have ht : comT (s.extract (k + 2) i).data.toList = ⟨3, [], cleanL (s.extract (k + 2) i).data.toList, [], false⟩ := rfl
            obtain ⟨X, hX⟩ : ∃ X, cleanL (s.extract (k + 2) i).data.toList = X := ⟨_, rfl⟩
            rw [hX] at HC ht
            rw [ht] at HV2
            clear c62 ht hX
            go_wp2_with (fail)
            refine (HC _).out.mono ?_
            rintro e w4 ⟨rfl, b4⟩
            have HB4 := Lib.hid ((b4.block _ hlt1).trans HB.out)
            have B4 := Lib.hid (B1.out.trans (b4.mono B1.out.size))
            clear b4
            go_wp2_with (refine wpList_store_tok rfl _ _ rfl w.heap.size ⟨3, [], X, [], false⟩ none 0 0 rfl rfl _ HB4.out rfl ?_; intro w5 hb5 hg5)
            have B5 := B4.out.grown hg5 B4.out.size (fun j hj => by cases hj; exact Nat.le_refl _)
            refine bodyPost_ret (results_tok rfl _ _ w.heap.size ⟨3, [], X, [], false⟩ none 0 0 rfl (tokAt_row hb5)) rfl ?_
            exact ⟨⟨3, [], X, [], false⟩, none, 0, 0, _, true, rfl, isRows_none _, HV2.out, B5⟩
          · have b62 : (((s[i].toNat : Nat) : Int) == 62) = false := by
              rw [beq_eq_false_iff_ne]; exact fun h => c62 (u8_eq _ 62 (by decide) h)
            have HN := Lib.hid ((bogE_yes s i hlt c62).symm.trans HI.out)
            clear c62
            go_wp2
            go_roundw
            case rel => exact ⟨i + 1, by go_num, trivial, by omega, by omega, HN⟩
            case measure => simp [intOf]; omega
        · obtain rfl : i = s.size := by omega
          have HEi := Lib.hid ((bogE_end s).symm.trans HI.out)
          have HV2 : Hid (comV s.data.toList (k : Int) = (comT (s.extract (k + 2) s.size).data.toList, (s.size : Int), true)) := Lib.hid (by
            rw [HV.out, ← HEi.out, if_neg (by omega)])
          have HC := fun w => Lib.hid (refClean_any (s.extract (k + 2) s.size) w (by rw [ByteArray.size_extract]; omega))
          have ht : comT (s.extract (k + 2) s.size).data.toList = ⟨3, [], cleanL (s.extract (k + 2) s.size).data.toList, [], false⟩ := rfl
          obtain ⟨X, hX⟩ : ∃ X, cleanL (s.extract (k + 2) s.size).data.toList = X := ⟨_, rfl⟩
          rw [hX] at HC ht
          rw [ht] at HV2
          clear ht hX
          go_wp2_with (fail)
          refine (HC _).out.mono ?_
          rintro e w4 ⟨rfl, b4⟩
          have HB4 := Lib.hid ((b4.block _ hlt1).trans HB.out)
          have B4 := Lib.hid (B1.out.trans (b4.mono B1.out.size))
          clear b4
          go_wp2_with (refine wpList_store_tok rfl _ _ rfl w.heap.size ⟨3, [], X, [], false⟩ none 0 0 rfl rfl _ HB4.out rfl ?_; intro w5 hb5 hg5)
          have B5 := B4.out.grown hg5 B4.out.size (fun j hj => by cases hj; exact Nat.le_refl _)
          refine bodyPost_ret (results_tok rfl _ _ w.heap.size ⟨3, [], X, [], false⟩ none 0 0 rfl (tokAt_row hb5)) rfl ?_
          exact ⟨⟨3, [], X, [], false⟩, none, 0, 0, _, true, rfl, isRows_none _, HV2.out, B5⟩
end Go.Proofs.Ytjcmpmijbngjnaa
