/-
  The chapter's examples of layer 3; small facts for its laws.
-/
import Derived.Test.YtloabbfahpgbcaaSignBeg
import Derived.Test.YtloabbfahpgbcaaSignLow
import Derived.Test.YtloabbfahpgbcaaSignRefB
namespace Go.Proofs.Ytloabbfahpgbcaa
open Go.RowKit Go.Lib

theorem below_drewN (B : Nat) (w : World) (n : Nat) : Below B w (w.drewN n) := ⟨rfl, rfl, rfl, Nat.le_refl _, fun _ _ => rfl⟩
theorem beginsB (s : ByteArray) (a : Int) (low : ByteArray) (w : World) (hs : s.size ≤ 1099511627776) (hl : low.size ≤ 1099511627776) (ha : -9223372036854775808 ≤ a) (hb : a ≤ 9223372036854775807) :
    Calls Try.prog 20 #[.string s, .int .i64 a, .string low] w fun e w' => e = .returned (.bool (begS s a low)) ∧ Below w.heap.size w w' := by
  refine (begins s a low w hs hl ha hb).mono ?_
  rintro e w' ⟨rfl, n, rfl⟩
  exact ⟨rfl, below_drewN _ _ n⟩

theorem letter_cases (q : Int) (h : letterI q = true) : 65 ≤ q ∧ q ≤ 90 ∧ lowI q = q + 32 ∨ 97 ≤ q ∧ q ≤ 122 ∧ lowI q = q := by
  unfold letterI at h
  rw [decide_eq_true_eq] at h
  unfold lowI
  by_cases h1 : 65 ≤ q ∧ q ≤ 90
  · exact .inl ⟨h1.1, h1.2, if_pos h1⟩
  · exact .inr ⟨by omega, by omega, if_neg h1⟩
theorem hex_small (q : Int) (h : 97 ≤ q ∧ q ≤ 122) : hexI q = if q ≤ 102 then q - 87 else -1 := by
  unfold hexI
  rw [if_neg (by omega), if_neg (by omega)]
  by_cases h1 : q ≤ 102
  · rw [if_pos h1, if_pos (by omega)]
  · rw [if_neg h1, if_neg (by omega)]
theorem hex_low (q : Int) (h : letterI q = true) : hexI (lowI q) = hexI q := by
  rcases letter_cases q h with ⟨h1, h2, h3⟩ | ⟨h1, h2, h3⟩
  · rw [h3, hex_small _ (by omega)]
    by_cases h4 : q ≤ 70
    · have e : hexI q = q - 55 := by unfold hexI; rw [if_neg (by omega), if_pos (by omega)]
      rw [e, if_pos (by omega)]; omega
    · have e : hexI q = -1 := by unfold hexI; rw [if_neg (by omega), if_neg (by omega), if_neg (by omega)]
      rw [e, if_neg (by omega)]
  · rw [h3]
theorem hex_letter (q : Int) (h : letterI q = true) : lowI q ≤ 102 ∧ 0 ≤ hexI q ∧ hexI q = lowI q - 87 ∨ 102 < lowI q ∧ hexI q = -1 := by
  rw [← hex_low q h]
  rcases letter_cases q h with ⟨h1, h2, h3⟩ | ⟨h1, h2, h3⟩
  all_goals
    rw [hex_small _ (by omega)]
    by_cases h4 : lowI q ≤ 102
    · rw [if_pos h4]; exact .inl ⟨h4, by omega, rfl⟩
    · rw [if_neg h4]; exact .inr ⟨by omega, rfl⟩
theorem hex_other (q : Int) (h : letterI q = false) : digitI q = true ∧ 0 ≤ hexI q ∧ hexI q = q - 48 ∨ digitI q = false ∧ hexI q = -1 := by
  unfold letterI at h
  rw [decide_eq_false_iff_not] at h
  unfold digitI hexI
  by_cases h1 : 48 ≤ q ∧ q ≤ 57
  · rw [if_pos h1]; exact .inl ⟨decide_eq_true h1, by omega, rfl⟩
  · rw [if_neg h1, if_neg (by omega), if_neg (by omega)]; exact .inr ⟨decide_eq_false h1, rfl⟩
theorem space_word (q : Int) (h : letterI q = false) (hs : spaceI q = true) : wordI q = false := by
  unfold spaceI at hs
  rw [decide_eq_true_eq] at hs
  rw [wordI, h, digitI, decide_eq_false (by omega)]; rfl

/-- what stands at a place stands there -/
theorem beg_here (s A : ByteArray) (k m : Nat) (hA : lowS s = A) (h : k + m ≤ s.size) : begS s (k : Int) (A.extract k (k + m)) = true := by
  unfold begS
  rw [decide_eq_true (by omega), Bool.true_and, List.isPrefixOf_iff_prefix, extract_data, ← hA, lowS_list, lowL_drop]
  exact List.take_prefix _ _
theorem beg_low (s A : ByteArray) (k m : Nat) (hA : lowS s = A) (h : k + m ≤ s.size) : begS A (k : Int) (A.extract k (k + m)) = true := by
  have hsz : A.size = s.size := by rw [← hA, lowS_size]
  exact beg_here A A k m (by rw [← hA, lowS_twice]) (by omega)
theorem beg_more (s A : ByteArray) (k : Nat) (hA : lowS s = A) (h : k ≤ s.size) : begS s (k : Int) (A.extract k A.size ++ ⟨#[97]⟩) = false := by
  have hsz : A.size = s.size := by rw [← hA, lowS_size]
  unfold begS
  rw [show ((k : Nat) : Int).toNat = k by omega, pre_long s _ k ?_ h, Bool.and_false]
  rw [ByteArray.size_append, ByteArray.size_extract, hsz]
  have : (ByteArray.mk #[97]).size = 1 := rfl
  omega

theorem beg_join (a b : ByteArray) : begS (a ++ b) (a.size : Int) (lowS b) = true := by
  unfold begS
  rw [show ((a.size : Nat) : Int).toNat = a.size by omega, decide_eq_true (by rw [ByteArray.size_append]; omega), Bool.true_and, List.isPrefixOf_iff_prefix, lowS_list, ByteArray.data_append, Array.toList_append, Lib.size_eq a, List.drop_left]
  exact List.prefix_refl _
theorem low_stay (a b : ByteArray) (i : Nat) (h : i < a.size) (h' : i < (lowS (a ++ b)).size) (hl : letterI (a[i].toNat : Int) = false) : (lowS (a ++ b))[i] = a[i] := by
  rw [lowS_at (a ++ b) i (by rw [ByteArray.size_append]; omega) h', ByteArray.getElem_append_left h]
  rw [← UInt8.toNat_inj]
  have h1 := lowB_int a[i]
  unfold letterI at hl
  rw [decide_eq_false_iff_not] at hl
  rw [lowI, if_neg (by omega)] at h1
  omega

set_option maxRecDepth 100000 in
set_option maxHeartbeats 4000000 in
theorem awake_any (w : World) :
    Calls Try.prog 8 #[] w fun e w' => e = .returned (.bool true) ∧ Below w.heap.size w w' := by
  have e1 : hexI 98 = 11 := by decide
  have e2 : begS ⟨#[97, 66, 67]⟩ 1 ⟨#[98, 99]⟩ = true := by decide +kernel
  have e3 : spaceI 32 = true := by decide
  have e4 : letterI 90 = true := by decide
  have e5 : digitI 48 = true := by decide
  have e6 : wordI 113 = true := by decide
  have e7 : lowS ⟨#[65, 98]⟩ = ⟨#[97, 98]⟩ := by
    rw [lowS, show lowL (ByteArray.mk #[65, 98]).data.toList = [97, 98] by decide +kernel]
  have H1 := Lib.hid e1
  have H2 := Lib.hid e2
  have H3 := Lib.hid e3
  have H4 := Lib.hid e4
  have H5 := Lib.hid e5
  have H6 := Lib.hid e6
  have H7 := Lib.hid e7
  clear e1 e2 e3 e4 e5 e6 e7
  go_enter Try.func8, Try.ntmps8
  go_wp2_with (fail)
  refine (hex _ _ (by decide) (by decide)).mono ?_
  rintro e w1 ⟨rfl, rfl⟩
  rw [H1.out]
  go_wp2_with (fail)
  refine (beginsB _ _ _ _ (by decide) (by decide) (by decide) (by decide)).mono ?_
  rintro e w2 ⟨rfl, hb2⟩
  rw [H2.out]
  go_wp2_with (fail)
  refine (space _ _ (by decide) (by decide)).mono ?_
  rintro e w3 ⟨rfl, rfl⟩
  rw [H3.out]
  go_wp2_with (fail)
  refine (letter _ _ (by decide) (by decide)).mono ?_
  rintro e w4 ⟨rfl, rfl⟩
  rw [H4.out]
  go_wp2_with (fail)
  refine (digit _ _ (by decide) (by decide)).mono ?_
  rintro e w5 ⟨rfl, rfl⟩
  rw [H5.out]
  go_wp2_with (fail)
  refine (word _ _ (by decide) (by decide)).mono ?_
  rintro e w6 ⟨rfl, rfl⟩
  rw [H6.out]
  go_wp2_with (fail)
  refine (lower _ _ (by decide)).mono ?_
  rintro e w7 ⟨rfl, hb7⟩
  rw [H7.out]
  go_wp2
  go_ret
  exact ⟨rfl, hb2.trans (hb7.mono hb2.size)⟩

end Go.Proofs.Ytloabbfahpgbcaa
