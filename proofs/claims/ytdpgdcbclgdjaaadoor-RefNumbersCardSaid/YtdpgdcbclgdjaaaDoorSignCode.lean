/-
  What package sign's functions on one byte answer, and Begins, for every input.
-/
import Derived.Test.YtdpgdcbclgdjaaaDoorSignMath
import Derived.Test.YtdpgdcbclgdjaaaDoorProg
import Derived.WalkKit
import Derived.Deep.QuietTactic
import Derived.BigQuiet
namespace Go.Proofs.YtdpgdcbclgdjaaaDoor
open Go.RowKit Go.Lib

set_option maxRecDepth 100000 in
set_option maxHeartbeats 1000000 in
theorem kindsOf (q : Int) (w : World) (h0 : 0 ≤ q) (h1 : q < 256) :
    Calls Tryd.prog 52 #[.int .u8 q] w fun e w' => e = .returned (.int .u8 (kindI q)) ∧ w' = w := by
  by_cases hA : 65 ≤ q ∧ q ≤ 90
  · rw [show kindI q = 14 from if_pos hA]
    obtain ⟨ha, hb⟩ := hA
    go_enter Tryd.func52, Tryd.ntmps52
    go_wp2
    go_ret
    exact ⟨ret_int (by decide), rfl⟩
  · by_cases hB : 97 ≤ q ∧ q ≤ 122
    · rw [show kindI q = 12 by unfold kindI; rw [if_neg hA, if_pos hB]]
      obtain ⟨ha, hb⟩ := hB
      go_enter Tryd.func52, Tryd.ntmps52
      go_wp2
      go_ret
      exact ⟨ret_int (by decide), rfl⟩
    · by_cases hC : 48 ≤ q ∧ q ≤ 57
      · rw [show kindI q = 8 by unfold kindI; rw [if_neg hA, if_neg hB, if_pos hC]]
        obtain ⟨ha, hb⟩ := hC
        go_enter Tryd.func52, Tryd.ntmps52
        go_wp2
        go_ret
        exact ⟨ret_int (by decide), rfl⟩
      · obtain ⟨k, hk⟩ : ∃ k, kindI q = k := ⟨_, rfl⟩
        have HK := Lib.hid hk
        rw [hk]
        clear hk
        go_enter Tryd.func52, Tryd.ntmps52
        go_wp2
        all_goals go_ret
        all_goals refine ⟨ret_int ?_, rfl⟩
        all_goals rw [← HK.out, kindI, if_neg hA, if_neg hB, if_neg hC]
        all_goals try simp only [beq_iff_eq] at *
        all_goals first
          | (rw [if_pos (by omega)]; decide)
          | rw [if_neg (by omega)]
          | rw [if_neg (by simp_all)]
          | (rw [if_pos (by simp_all)]; decide)

theorem kind_space (q : Int) : (bits .and .u8 (kindI q) 1 != 0) = spaceI q := by
  unfold kindI spaceI
  by_cases hA : 65 ≤ q ∧ q ≤ 90
  · rw [if_pos hA, decide_eq_false (by omega)]; decide
  · rw [if_neg hA]
    by_cases hB : 97 ≤ q ∧ q ≤ 122
    · rw [if_pos hB, decide_eq_false (by omega)]; decide
    · rw [if_neg hB]
      by_cases hC : 48 ≤ q ∧ q ≤ 57
      · rw [if_pos hC, decide_eq_false (by omega)]; decide
      · rw [if_neg hC]
        by_cases hD : q = 9 ∨ q = 10 ∨ q = 12 ∨ q = 32
        · rw [if_pos hD, decide_eq_true hD]; decide
        · rw [if_neg hD, decide_eq_false hD]; decide
theorem kind_letter (q : Int) : (bits .and .u8 (kindI q) 4 != 0) = letterI q := by
  unfold kindI letterI
  by_cases hA : 65 ≤ q ∧ q ≤ 90
  · rw [if_pos hA, decide_eq_true (by omega)]; decide
  · rw [if_neg hA]
    by_cases hB : 97 ≤ q ∧ q ≤ 122
    · rw [if_pos hB, decide_eq_true (by omega)]; decide
    · rw [if_neg hB, decide_eq_false (by omega)]
      by_cases hC : 48 ≤ q ∧ q ≤ 57
      · rw [if_pos hC]; decide
      · rw [if_neg hC]
        by_cases hD : q = 9 ∨ q = 10 ∨ q = 12 ∨ q = 32
        · rw [if_pos hD]; decide
        · rw [if_neg hD]; decide
theorem kind_digit (q : Int) : (bits .and .u8 (kindI q) 12 == 8) = digitI q := by
  unfold kindI digitI
  by_cases hA : 65 ≤ q ∧ q ≤ 90
  · rw [if_pos hA, decide_eq_false (by omega)]; decide
  · rw [if_neg hA]
    by_cases hB : 97 ≤ q ∧ q ≤ 122
    · rw [if_pos hB, decide_eq_false (by omega)]; decide
    · rw [if_neg hB]
      by_cases hC : 48 ≤ q ∧ q ≤ 57
      · rw [if_pos hC, decide_eq_true (by omega)]; decide
      · rw [if_neg hC, decide_eq_false (by omega)]
        by_cases hD : q = 9 ∨ q = 10 ∨ q = 12 ∨ q = 32
        · rw [if_pos hD]; decide
        · rw [if_neg hD]; decide
theorem kind_word (q : Int) : (bits .and .u8 (kindI q) 8 != 0) = wordI q := by
  unfold kindI wordI letterI digitI
  rw [← Bool.decide_or]
  by_cases hA : 65 ≤ q ∧ q ≤ 90
  · rw [if_pos hA, decide_eq_true (by omega)]; decide
  · rw [if_neg hA]
    by_cases hB : 97 ≤ q ∧ q ≤ 122
    · rw [if_pos hB, decide_eq_true (by omega)]; decide
    · rw [if_neg hB]
      by_cases hC : 48 ≤ q ∧ q ≤ 57
      · rw [if_pos hC, decide_eq_true (by omega)]; decide
      · rw [if_neg hC, decide_eq_false (by omega)]
        by_cases hD : q = 9 ∨ q = 10 ∨ q = 12 ∨ q = 32
        · rw [if_pos hD]; decide
        · rw [if_neg hD]; decide
theorem kind_large (q : Int) : (bits .and .u8 (kindI q) 2 != 0) = decide (65 ≤ q ∧ q ≤ 90) := by
  unfold kindI
  by_cases hA : 65 ≤ q ∧ q ≤ 90
  · rw [if_pos hA, decide_eq_true (by omega)]; decide
  · rw [if_neg hA, decide_eq_false hA]
    by_cases hB : 97 ≤ q ∧ q ≤ 122
    · rw [if_pos hB]; decide
    · rw [if_neg hB]
      by_cases hC : 48 ≤ q ∧ q ≤ 57
      · rw [if_pos hC]; decide
      · rw [if_neg hC]
        by_cases hD : q = 9 ∨ q = 10 ∨ q = 12 ∨ q = 32
        · rw [if_pos hD]; decide
        · rw [if_neg hD]; decide

set_option maxRecDepth 100000 in
set_option maxHeartbeats 400000 in
theorem word (q : Int) (w : World) (h0 : 0 ≤ q) (h1 : q < 256) :
    Calls Tryd.prog 42 #[.int .u8 q] w fun e w' => e = .returned (.bool (wordI q)) ∧ w' = w := by
  go_enter Tryd.func42, Tryd.ntmps42
  go_wp2_with (go_at_call 52; refine (kindsOf _ _ h0 h1).mono ?_; rintro e w' ⟨rfl, rfl⟩)
  go_ret
  exact ⟨ret_bool (kind_word q), rfl⟩
set_option maxRecDepth 100000 in
set_option maxHeartbeats 400000 in
theorem small (q : Int) (w : World) (h0 : 0 ≤ q) (h1 : q < 256) :
    Calls Tryd.prog 37 #[.int .u8 q] w fun e w' => e = .returned (.int .u8 (lowI q)) ∧ w' = w := by
  have hk := kind_large q
  by_cases hA : 65 ≤ q ∧ q ≤ 90
  · rw [decide_eq_true hA] at hk
    rw [show lowI q = q + 32 from if_pos hA]
    obtain ⟨ha, hb⟩ := hA
    go_enter Tryd.func37, Tryd.ntmps37
    go_wp2_with (go_at_call 52; refine (kindsOf _ _ h0 h1).mono ?_; rintro e w' ⟨rfl, rfl⟩)
    go_ret
    exact ⟨ret_int (by simp), rfl⟩
  · rw [decide_eq_false hA] at hk
    rw [show lowI q = q from if_neg hA]
    go_enter Tryd.func37, Tryd.ntmps37
    go_wp2_with (go_at_call 52; refine (kindsOf _ _ h0 h1).mono ?_; rintro e w' ⟨rfl, rfl⟩)
    go_ret
    exact ⟨ret_int rfl, rfl⟩
set_option maxRecDepth 100000 in
set_option maxHeartbeats 1000000 in
theorem hex (q : Int) (w : World) (h0 : 0 ≤ q) (h1 : q < 256) :
    Calls Tryd.prog 53 #[.int .u8 q] w fun e w' => e = .returned (.int .i64 (hexI q)) ∧ w' = w := by
  by_cases hA : 65 ≤ q ∧ q ≤ 70
  · rw [show hexI q = q - 55 by unfold hexI; rw [if_neg (by omega), if_pos hA]]
    obtain ⟨ha, hb⟩ := hA
    go_enter Tryd.func53, Tryd.ntmps53
    go_wp2
    go_ret
    exact ⟨ret_int (by omega), rfl⟩
  · by_cases hB : 97 ≤ q ∧ q ≤ 102
    · rw [show hexI q = q - 87 by unfold hexI; rw [if_neg (by omega), if_neg hA, if_pos hB]]
      obtain ⟨ha, hb⟩ := hB
      go_enter Tryd.func53, Tryd.ntmps53
      go_wp2
      go_ret
      exact ⟨ret_int (by omega), rfl⟩
    · by_cases hC : 48 ≤ q ∧ q ≤ 57
      · rw [show hexI q = q - 48 by unfold hexI; rw [if_pos hC]]
        obtain ⟨ha, hb⟩ := hC
        go_enter Tryd.func53, Tryd.ntmps53
        go_wp2
        go_ret
        exact ⟨ret_int (by omega), rfl⟩
      · rw [show hexI q = -1 by unfold hexI; rw [if_neg hC, if_neg hA, if_neg hB]]
        go_enter Tryd.func53, Tryd.ntmps53
        go_wp2
        all_goals go_ret
        all_goals exact ⟨ret_int rfl, rfl⟩

end Go.Proofs.YtdpgdcbclgdjaaaDoor
