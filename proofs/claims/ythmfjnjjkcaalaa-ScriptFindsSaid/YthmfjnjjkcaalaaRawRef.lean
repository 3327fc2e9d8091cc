/-
  What the document's answers of layer 12 are.
-/
import Derived.Test.YthmfjnjjkcaalaaRawMath
import Derived.Test.YthmfjnjjkcaalaaP1
namespace Go.Proofs.Ythmfjnjjkcaalaa
open Go.RowKit Go.Lib

/-- </ and a name -/
theorem beg_tag (s : ByteArray) (k : Nat) (nm : ByteArray) (h : k ≤ s.size) : begS s (k : Int) (⟨#[60, 47]⟩ ++ nm) = (60 :: 47 :: nm.data.toList).isPrefixOf (lowL (s.data.toList.drop k)) := by
  unfold begS
  rw [decide_eq_true (show 0 ≤ (k : Int) ∧ (k : Int) ≤ (s.size : Int) by omega), Bool.true_and, show ((k : Nat) : Int).toNat = k by omega, ByteArray.data_append, Array.toList_append]
  rfl
set_option maxRecDepth 100000 in
set_option maxHeartbeats 2000000 in
theorem refEnds12_any (s : ByteArray) (a : Int) (nm : ByteArray) (w : World) (hs : s.size ≤ 1048576) (hn : nm.size ≤ 1048576) (ha : -9223372036854775808 ≤ a ∧ a ≤ 9223372036854775807) :
    Calls Try.prog 19 #[.string s, .int .i64 a, .string nm] w fun e w' => e = .returned (.bool (endV nm.data.toList s.data.toList a)) ∧ Below w.heap.size w w' := by
  by_cases h0 : nm.size = 0
  · have hv : endV nm.data.toList s.data.toList a = false := by
      have : nm.data.toList = [] := List.length_eq_zero_iff.1 (by rw [← Lib.size_eq]; exact h0)
      unfold endV endR; rw [this]; simp
    rw [hv]
    have b0 : ((nm.size : Int) == 0) = true := by rw [h0]; rfl
    have H0 := Lib.hid h0
    clear hv h0
    go_enter Try.func19, Try.ntmps19
    go_wp2
    go_ret
    exact ⟨rfl, Below.refl _ _⟩
  have b0 : ((nm.size : Int) == 0) = false := by rw [beq_eq_false_iff_ne]; omega
  by_cases hin : 0 ≤ a ∧ a < (s.size : Int)
  · obtain ⟨k, rfl⟩ : ∃ k : Nat, a = k := ⟨a.toNat, by omega⟩
    have hk : k < s.size := by omega
    have d0 : decide ((k : Int) < 0) = false := decide_eq_false (by omega)
    have d1 : decide ((s.size : Int) ≤ (k : Int)) = false := decide_eq_false (by omega)
    have g1 : ¬ 9223372036854775807 < (⟨#[60, 47]⟩ : ByteArray).size + nm.size := by
      rw [show (⟨#[60, 47]⟩ : ByteArray).size = 2 from rfl]; omega
    have HB := fun w => Lib.hid (refBegins s (k : Int) (⟨#[60, 47]⟩ ++ nm) w (by omega) (by rw [ByteArray.size_append, show (⟨#[60, 47]⟩ : ByteArray).size = 2 from rfl]; omega) (by omega) (by omega))
    rw [beg_tag s k nm (by omega)] at HB
    have hv : endV nm.data.toList s.data.toList (k : Int) = ((60 :: 47 :: nm.data.toList).isPrefixOf (lowL (s.data.toList.drop k)) && (s.data.toList.drop (k + 2 + nm.size)).head?.any tailB) := by
      rw [endV_in]
      unfold endR
      rw [show nm.data.toList.isEmpty = false by
        cases hh : nm.data.toList with
        | nil => exact (h0 (by rw [Lib.size_eq, hh]; rfl)).elim
        | cons => rfl, List.drop_drop, ← Lib.size_eq, show k + (2 + nm.size) = k + 2 + nm.size by omega]
      rfl
    rw [hv]
    have hp : (60 :: 47 :: nm.data.toList).isPrefixOf (lowL (s.data.toList.drop k)) = true → k + 2 + nm.size ≤ s.size := fun h => by
      have := (List.isPrefixOf_iff_prefix.1 h).length_le
      rw [lowL_len, List.length_drop, List.length_cons, List.length_cons, ← Lib.size_eq, ← Lib.size_eq] at this; omega
    obtain ⟨B, hB⟩ : ∃ B, (60 :: 47 :: nm.data.toList).isPrefixOf (lowL (s.data.toList.drop k)) = B := ⟨_, rfl⟩
    rw [hB] at HB hp ⊢
    clear hB hv ha hin h0
    cases B
    · rw [Bool.false_and]
      clear hp
      go_enter Try.func19, Try.ntmps19
      go_wp2_with (fail)
      refine (HB _).out.mono ?_
      rintro e w1 ⟨rfl, b1⟩
      go_wp2
      go_ret
      exact ⟨rfl, b1⟩
    · rw [Bool.true_and]
      have hle := hp rfl
      clear hp
      obtain ⟨j, hj⟩ : ∃ j, k + 2 + nm.size = j := ⟨_, rfl⟩
      rw [hj] at hle ⊢
      have hjj : (k : Int) + 2 + (nm.size : Int) = (j : Int) := by omega
      have hk20 : k ≤ 1048576 := by omega
      have hj2 : j ≤ 1048576 := by omega
      clear hj
      by_cases hlt : j < s.size
      · have dj : decide ((s.size : Int) ≤ (j : Int)) = false := decide_eq_false (by omega)
        rw [drop_at s j hlt]
        simp only [List.head?_cons, Option.any_some]
        rw [tailB_int]
        have HS := fun w => Lib.hid (refSpace ((s[j].toNat : Nat) : Int) w)
        obtain ⟨S, hS⟩ : ∃ S, spaceI ((s[j].toNat : Nat) : Int) = S := ⟨_, rfl⟩
        obtain ⟨T, hT⟩ : ∃ S, (((s[j].toNat : Nat) : Int) == 47) = S := ⟨_, rfl⟩
        obtain ⟨U, hU⟩ : ∃ S, (((s[j].toNat : Nat) : Int) == 62) = S := ⟨_, rfl⟩
        rw [hS] at HS
        rw [hS, hT, hU]
        clear hS
        cases S
        · cases T
          · cases U
            all_goals
              go_enter Try.func19, Try.ntmps19
              go_wp2_with (fail)
              refine (HB _).out.mono ?_
              rintro e w1 ⟨rfl, b1⟩
              go_wp2_with (fail)
              refine (HS _).out.mono ?_
              rintro e w2 ⟨rfl, rfl⟩
              go_wp2
              go_ret
              exact ⟨rfl, b1⟩
          · go_enter Try.func19, Try.ntmps19
            go_wp2_with (fail)
            refine (HB _).out.mono ?_
            rintro e w1 ⟨rfl, b1⟩
            go_wp2_with (fail)
            refine (HS _).out.mono ?_
            rintro e w2 ⟨rfl, rfl⟩
            go_wp2
            go_ret
            exact ⟨rfl, b1⟩
        · go_enter Try.func19, Try.ntmps19
          go_wp2_with (fail)
          refine (HB _).out.mono ?_
          rintro e w1 ⟨rfl, b1⟩
          go_wp2_with (fail)
          refine (HS _).out.mono ?_
          rintro e w2 ⟨rfl, rfl⟩
          go_wp2
          go_ret
          exact ⟨rfl, b1⟩
      · have dj : decide ((s.size : Int) ≤ (j : Int)) = true := decide_eq_true (by omega)
        rw [List.drop_eq_nil_of_le (by rw [← Lib.size_eq]; omega)]
        have hje : s.size ≤ j := by omega
        clear hlt hle
        go_enter Try.func19, Try.ntmps19
        go_wp2_with (fail)
        refine (HB _).out.mono ?_
        rintro e w1 ⟨rfl, b1⟩
        go_wp2
        go_ret
        exact ⟨rfl, b1⟩
  · have hv : endV nm.data.toList s.data.toList a = false := endV_out _ _ _ (by rw [← Lib.size_eq]; omega)
    rw [hv]
    clear hv
    by_cases hn0 : a < 0
    · clear hin
      go_enter Try.func19, Try.ntmps19
      go_wp2
      go_ret
      exact ⟨rfl, Below.refl _ _⟩
    · have d0 : decide (a < 0) = false := decide_eq_false hn0
      have d1 : decide ((s.size : Int) ≤ a) = true := decide_eq_true (by omega)
      clear hin hn0
      go_enter Try.func19, Try.ntmps19
      go_wp2
      go_ret
      exact ⟨rfl, Below.refl _ _⟩

end Go.Proofs.Ythmfjnjjkcaalaa
