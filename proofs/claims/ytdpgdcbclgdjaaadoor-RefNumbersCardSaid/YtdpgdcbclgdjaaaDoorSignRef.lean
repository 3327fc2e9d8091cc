/-
  What the document's functions of layer 3 on one byte answer, for every input.
-/
import Derived.Test.YtdpgdcbclgdjaaaDoorProg
import Derived.Test.YtdpgdcbclgdjaaaDoorSignMath
import Derived.WalkKit
import Derived.Laws.IdiomStrings
import Derived.Below
namespace Go.Proofs.YtdpgdcbclgdjaaaDoor
open Go.RowKit Go.Lib

set_option maxRecDepth 100000 in
set_option maxHeartbeats 1000000 in
theorem refLetter (q : Int) (w : World) (h0 : 0 ≤ q) (h1 : q < 256) :
    Calls Tryd.prog 28 #[.int .u8 q] w fun e w' => e = .returned (.bool (letterI q)) ∧ w' = w := by
  obtain ⟨k, hk⟩ : ∃ k, letterI q = k := ⟨_, rfl⟩
  have HK := Lib.hid hk
  rw [hk]
  clear hk
  go_enter Tryd.func28, Tryd.ntmps28
  go_wp2
  all_goals go_ret
  all_goals refine ⟨ret_bool ?_, rfl⟩
  all_goals rw [← HK.out, letterI]
  all_goals rw [Bool.eq_iff_iff]
  all_goals simp only [Bool.or_eq_true, decide_eq_true_eq, Bool.false_eq_true, true_iff, false_iff] at *
  all_goals omega
set_option maxRecDepth 100000 in
set_option maxHeartbeats 1000000 in
theorem refDigit (q : Int) (w : World) (h0 : 0 ≤ q) (h1 : q < 256) :
    Calls Tryd.prog 29 #[.int .u8 q] w fun e w' => e = .returned (.bool (digitI q)) ∧ w' = w := by
  obtain ⟨k, hk⟩ : ∃ k, digitI q = k := ⟨_, rfl⟩
  have HK := Lib.hid hk
  rw [hk]
  clear hk
  go_enter Tryd.func29, Tryd.ntmps29
  go_wp2
  all_goals go_ret
  all_goals refine ⟨ret_bool ?_, rfl⟩
  all_goals rw [← HK.out, digitI]
  all_goals rw [Bool.eq_iff_iff]
  all_goals simp only [decide_eq_true_eq, Bool.false_eq_true, false_iff] at *
  all_goals omega
set_option maxRecDepth 100000 in
set_option maxHeartbeats 1000000 in
theorem refHex (q : Int) (w : World) (h0 : 0 ≤ q) (h1 : q < 256) :
    Calls Tryd.prog 45 #[.int .u8 q] w fun e w' => e = .returned (.int .i64 (hexI q)) ∧ w' = w := by
  by_cases hA : 65 ≤ q ∧ q ≤ 70
  · rw [show hexI q = q - 55 by unfold hexI; rw [if_neg (by omega), if_pos hA]]
    obtain ⟨ha, hb⟩ := hA
    go_enter Tryd.func45, Tryd.ntmps45
    go_wp2
    go_ret
    exact ⟨rfl, rfl⟩
  · by_cases hB : 97 ≤ q ∧ q ≤ 102
    · rw [show hexI q = q - 87 by unfold hexI; rw [if_neg (by omega), if_neg hA, if_pos hB]]
      obtain ⟨ha, hb⟩ := hB
      go_enter Tryd.func45, Tryd.ntmps45
      go_wp2
      go_ret
      exact ⟨rfl, rfl⟩
    · by_cases hC : 48 ≤ q ∧ q ≤ 57
      · rw [show hexI q = q - 48 by unfold hexI; rw [if_pos hC]]
        obtain ⟨ha, hb⟩ := hC
        go_enter Tryd.func45, Tryd.ntmps45
        go_wp2
        go_ret
        exact ⟨rfl, rfl⟩
      · rw [show hexI q = -1 by unfold hexI; rw [if_neg hC, if_neg hA, if_neg hB]]
        go_enter Tryd.func45, Tryd.ntmps45
        go_wp2
        all_goals go_ret
        all_goals exact ⟨ret_int rfl, rfl⟩

theorem low_up (s : ByteArray) (i : Nat) (h : i < s.size) (O c : ByteArray) (L : List UInt8) (hc : c.data.toList = [lowB s[i]]) (heq : O.data.toList ++ lowL (s.data.toList.drop i) = L) :
    (O ++ c).data.toList ++ lowL (s.data.toList.drop (i + 1)) = L := by
  rw [← heq, drop_at s i h, lowL_cons, ByteArray.data_append, Array.toList_append, hc, List.append_assoc]; rfl
/-- a text of one byte -/
theorem oneByte (w : World) (q : Int) (c : UInt8) (h : (c.toNat : Int) = q) :
    (convert 30 9 (.slice (some ⟨w.heap.size, 0, none⟩) 1 1)).run Tryd.prog (w.alloc (.cells #[.int .u8 q] 5)) = .ok (.string ⟨#[c]⟩) (w.alloc (.cells #[.int .u8 q] 5)) := by
  refine run_convert_bytes_back (P := Tryd.prog) _ 30 9 5 ⟨w.heap.size, 0, none⟩ 1 [c] Tryd.underlying30 Tryd.underlying5 Tryd.underlying9 ?_
  intro j hj
  have : j = 0 := by simp at hj; exact hj
  subst this
  rw [show ((⟨w.heap.size, 0, none⟩ : Addr).add 0) = ⟨w.heap.size, 0, none⟩ from rfl, Lib.cell_of_heap (heap_alloc_new w _), ← h]
  rfl
end Go.Proofs.YtdpgdcbclgdjaaaDoor
