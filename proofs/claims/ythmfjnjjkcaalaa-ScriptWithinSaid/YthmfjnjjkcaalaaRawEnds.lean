/-
  What package raw's Ends answers.
-/
import Derived.Test.YthmfjnjjkcaalaaRawMark
import Derived.Test.YthmfjnjjkcaalaaP1
import Derived.Test.YthmfjnjjkcaalaaP3
namespace Go.Proofs.Ythmfjnjjkcaalaa
open Go.RowKit Go.Lib

theorem name_none (b : ByteArray) (h : b.size = 0) : b = ⟨#[]⟩ := str_ext (by
  have : b.data.toList = [] := List.length_eq_zero_iff.1 (by rw [← Lib.size_eq]; exact h)
  rw [this])
theorem raw_tail (s : ByteArray) (k : Nat) : (s.extract k s.size).data.toList = s.data.toList.drop k := by
  rw [ByteArray.data_extract, Array.toList_extract, List.extract_eq_take_drop, List.take_of_length_le]
  rw [List.length_drop, ← Lib.size_eq]; exact Nat.le_refl _
theorem name_some (b : ByteArray) (h : 0 < b.size) : ¬ b.toList = [] ∧ b.toList.isEmpty = false := by
  have : b.toList ≠ [] := fun e => by
    rw [ByteArray.toList_eq] at e
    rw [Lib.size_eq, e] at h; exact absurd h (by decide)
  exact ⟨this, List.isEmpty_eq_false_iff.2 this⟩

set_option maxRecDepth 100000 in
set_option maxHeartbeats 1000000 in
theorem closed_any (b : ByteArray) (w : World) (hb : b.size ≤ 1048576) :
    Calls Try.prog 25 #[.string b] w fun e w' => e = .returned (.bool (b.data.toList.head?.any tailB)) ∧ w' = w := by
  by_cases h0 : b.size = 0
  · obtain rfl := name_none b h0
    clear h0 hb
    go_enter Try.func25, Try.ntmps25
    go_wp2
    go_ret
    exact ⟨rfl, rfl⟩
  obtain ⟨n0, n1⟩ := name_some b (by omega)
  have hp : 0 < b.size := by omega
  have hd : b.data.toList.head?.any tailB = tailB b[0] := by
    have := drop_at b 0 hp
    rw [List.drop_zero] at this
    rw [this]; rfl
  rw [hd, tailB_int]
  have hlt := b[0].toNat_lt
  have HS := fun w => Lib.hid (space ((b[0].toNat : Nat) : Int) w (by omega) (by omega))
  obtain ⟨S, hS⟩ : ∃ S, spaceI ((b[0].toNat : Nat) : Int) = S := ⟨_, rfl⟩
  obtain ⟨T, hT⟩ : ∃ S, (((b[0].toNat : Nat) : Int) == 47) = S := ⟨_, rfl⟩
  obtain ⟨U, hU⟩ : ∃ S, (((b[0].toNat : Nat) : Int) == 62) = S := ⟨_, rfl⟩
  rw [hS] at HS
  rw [hS, hT, hU]
  clear hS hd h0 hlt
  cases T
  · cases U
    · go_enter Try.func25, Try.ntmps25
      go_wp2_with (go_at_call 36; refine (HS _).out.mono ?_; rintro e w' ⟨rfl, rfl⟩)
      go_ret
      exact ⟨ret_bool (by simp), rfl⟩
    · go_enter Try.func25, Try.ntmps25
      go_wp2_with (go_at_call 36; refine (HS _).out.mono ?_; rintro e w' ⟨rfl, rfl⟩)
      go_ret
      exact ⟨ret_bool (by simp), rfl⟩
  · go_enter Try.func25, Try.ntmps25
    go_wp2_with (go_at_call 36; refine (HS _).out.mono ?_; rintro e w' ⟨rfl, rfl⟩)
    go_ret
    exact ⟨ret_bool (by simp), rfl⟩

/-- a name, a tag's end: part by part -/
theorem endV_parts (nm s : ByteArray) (k : Nat) (hk : k + 2 ≤ s.size) (h0 : 0 < nm.size) (h1 : begS s (k : Int) ⟨#[60, 47]⟩ = true) :
    endV nm.data.toList s.data.toList (k : Int) = (begS s ((k + 2 : Nat) : Int) nm && (s.data.toList.drop (k + 2 + nm.size)).head?.any tailB) := by
  rw [endV_in]
  unfold begS at h1 ⊢
  rw [decide_eq_true (by omega), Bool.true_and, show ((k : Nat) : Int).toNat = k by omega] at h1
  rw [decide_eq_true (by omega), Bool.true_and, show ((k + 2 : Nat) : Int).toNat = k + 2 by omega]
  unfold endR
  rw [show nm.data.toList.isEmpty = false by
    cases hh : nm.data.toList with
    | nil => rw [Lib.size_eq, hh] at h0; exact absurd h0 (by decide)
    | cons => rfl, List.drop_drop, ← Lib.size_eq, show k + (2 + nm.size) = k + 2 + nm.size by omega]
  rw [Bool.not_false, Bool.true_and]
  congr 1
  obtain ⟨r, hr⟩ := List.isPrefixOf_iff_prefix.1 h1
  have hr2 : lowL (s.data.toList.drop k) = 60 :: 47 :: r := hr.symm
  have hr3 : lowL (s.data.toList.drop (k + 2)) = r := by
    rw [← List.drop_drop, lowL_drop, hr2]; rfl
  rw [hr2, hr3]
  simp [List.isPrefixOf]
theorem endV_no (nm s : ByteArray) (a : Int) (h1 : begS s a ⟨#[60, 47]⟩ = false) : endV nm.data.toList s.data.toList a = false := by
  by_cases h : 0 ≤ a ∧ a < (s.size : Int)
  · obtain ⟨k, rfl⟩ : ∃ k : Nat, a = k := ⟨a.toNat, by omega⟩
    rw [endV_in, Bool.eq_false_iff]
    intro e
    have hm := endR_mk _ _ e
    unfold begS at h1
    rw [decide_eq_true (by omega), Bool.true_and, show ((k : Nat) : Int).toNat = k by omega] at h1
    rw [Bool.eq_false_iff] at h1
    refine h1 ?_
    unfold mkL at hm
    obtain ⟨r, hr⟩ := List.isPrefixOf_iff_prefix.1 hm
    rw [← hr]
    simp [lowL, List.isPrefixOf]
    decide
  · exact endV_out _ _ _ (by rw [← Lib.size_eq]; omega)
theorem beg_room (s nm : ByteArray) (k : Nat) (h : begS s (k : Int) nm = true) : k + nm.size ≤ s.size := by
  unfold begS at h
  rw [Bool.and_eq_true, decide_eq_true_iff, show ((k : Nat) : Int).toNat = k by omega] at h
  have := (List.isPrefixOf_iff_prefix.1 h.2).length_le
  rw [lowL_len, List.length_drop, ← Lib.size_eq, ← Lib.size_eq] at this
  omega

set_option maxRecDepth 100000 in
set_option maxHeartbeats 2000000 in
theorem ends_any (s : ByteArray) (a : Int) (nm : ByteArray) (w : World) (hs : s.size ≤ 1048576) (hn : nm.size ≤ 1048576) (ha : -9223372036854775808 ≤ a ∧ a ≤ 9223372036854775807) :
    Calls Try.prog 15 #[.string s, .int .i64 a, .string nm] w fun e w' => e = .returned (.bool (endV nm.data.toList s.data.toList a)) ∧ Below w.heap.size w w' := by
  by_cases h0 : nm.size = 0
  · have hv : endV nm.data.toList s.data.toList a = false := by
      have : nm.data.toList = [] := List.length_eq_zero_iff.1 (by rw [← Lib.size_eq]; exact h0)
      unfold endV endR; rw [this]; simp
    rw [hv]
    obtain rfl := name_none nm h0
    clear hv h0 hn ha
    go_enter Try.func15, Try.ntmps15
    go_wp2
    go_ret
    exact ⟨rfl, Below.refl _ _⟩
  obtain ⟨n0, n1⟩ := name_some nm (by omega)
  have HB := fun w => Lib.hid (begins s a ⟨#[60, 47]⟩ w (by omega) (by decide) ha.1 ha.2)
  obtain ⟨B, hB⟩ : ∃ B, begS s a ⟨#[60, 47]⟩ = B := ⟨_, rfl⟩
  rw [hB] at HB
  cases B
  · rw [endV_no nm s a hB]
    clear hB ha h0
    go_enter Try.func15, Try.ntmps15
    go_wp2_with (fail)
    refine (HB _).out.mono ?_
    rintro e w1 ⟨rfl, m1, rfl⟩
    go_wp2
    go_ret
    exact ⟨rfl, dr_below _ _ _⟩
  obtain ⟨k, rfl⟩ : ∃ k : Nat, a = k := ⟨a.toNat, by
    unfold begS at hB
    rw [Bool.and_eq_true, decide_eq_true_iff] at hB; omega⟩
  have hr := beg_room s ⟨#[60, 47]⟩ k hB
  have hr : k + 2 ≤ s.size := hr
  rw [endV_parts nm s k hr (by omega) hB]
  have HN := fun w => Lib.hid (begins s ((k + 2 : Nat) : Int) nm w (by omega) (by omega) (by omega) (by omega))
  obtain ⟨C, hC⟩ : ∃ C, begS s ((k + 2 : Nat) : Int) nm = C := ⟨_, rfl⟩
  rw [hC] at HN ⊢
  obtain ⟨j, hj⟩ : ∃ j, k + 2 = j := ⟨_, rfl⟩
  have hjj : (k : Int) + 2 = (j : Int) := by omega
  rw [hj] at HN hC hr
  have hkk : k ≤ 1048576 := by omega
  have hj2 : j ≤ 1048576 := by omega
  cases C
  · rw [Bool.false_and]
    clear hB ha h0 hC hj
    go_enter Try.func15, Try.ntmps15
    go_wp2_with (fail)
    refine (HB _).out.mono ?_
    rintro e w1 ⟨rfl, m1, rfl⟩
    go_wp2_with (fail)
    refine (HN _).out.mono ?_
    rintro e w2 ⟨rfl, m2, rfl⟩
    go_wp2
    go_ret
    exact ⟨rfl, dr_below _ _ _⟩
  · rw [Bool.true_and]
    have hm := beg_room s nm j hC
    obtain ⟨m, hmm⟩ : ∃ m, j + nm.size = m := ⟨_, rfl⟩
    have hmi : (j : Int) + (nm.size : Int) = (m : Int) := by omega
    rw [hj, hmm]
    rw [hmm] at hm
    have hm2 : m ≤ 1048576 := by omega
    have HC := fun w => Lib.hid (closed_any (s.extract m s.size) w (by rw [ByteArray.size_extract]; omega))
    rw [raw_tail] at HC
    obtain ⟨D, hD⟩ : ∃ D, (s.data.toList.drop m).head?.any tailB = D := ⟨_, rfl⟩
    rw [hD] at HC ⊢
    clear hB ha h0 hC hj hmm hD
    go_enter Try.func15, Try.ntmps15
    go_wp2_with (fail)
    refine (HB _).out.mono ?_
    rintro e w1 ⟨rfl, m1, rfl⟩
    go_wp2_with (fail)
    refine (HN _).out.mono ?_
    rintro e w2 ⟨rfl, m2, rfl⟩
    go_wp2_with (fail)
    refine (HC _).out.mono ?_
    rintro e w3 ⟨rfl, rfl⟩
    go_wp2
    go_ret
    exact ⟨rfl, dr_below _ _ _⟩
end Go.Proofs.Ythmfjnjjkcaalaa
