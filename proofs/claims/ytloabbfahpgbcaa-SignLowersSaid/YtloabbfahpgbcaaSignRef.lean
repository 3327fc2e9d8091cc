/-
  What the document's functions of layer 3 on one byte answer, for every input.
-/
import Derived.Test.YtloabbfahpgbcaaProg
import Derived.Test.YtloabbfahpgbcaaSignMath
import Derived.WalkKit
import Derived.Laws.IdiomStrings
import Derived.Below
namespace Go.Proofs.Ytloabbfahpgbcaa
open Go.RowKit Go.Lib

set_option maxRecDepth 100000 in
set_option maxHeartbeats 1000000 in
theorem refSpace (q : Int) (w : World) :
    Calls Try.prog 10 #[.int .u8 q] w fun e w' => e = .returned (.bool (spaceI q)) ∧ w' = w := by
  obtain ⟨k, hk⟩ : ∃ k, spaceI q = k := ⟨_, rfl⟩
  have HK := Lib.hid hk
  rw [hk]
  clear hk
  go_enter Try.func10, Try.ntmps10
  go_wp2
  all_goals go_ret
  all_goals refine ⟨ret_bool ?_, rfl⟩
  all_goals rw [← HK.out, spaceI]
  all_goals rw [Bool.eq_iff_iff]
  all_goals simp only [beq_eq_false_iff_ne, beq_iff_eq, ne_eq, decide_eq_true_eq, Bool.false_eq_true, true_iff, false_iff] at *
  all_goals omega
set_option maxRecDepth 100000 in
set_option maxHeartbeats 1000000 in
theorem refLetter (q : Int) (w : World) (h0 : 0 ≤ q) (h1 : q < 256) :
    Calls Try.prog 12 #[.int .u8 q] w fun e w' => e = .returned (.bool (letterI q)) ∧ w' = w := by
  obtain ⟨k, hk⟩ : ∃ k, letterI q = k := ⟨_, rfl⟩
  have HK := Lib.hid hk
  rw [hk]
  clear hk
  go_enter Try.func12, Try.ntmps12
  go_wp2
  all_goals go_ret
  all_goals refine ⟨ret_bool ?_, rfl⟩
  all_goals rw [← HK.out, letterI]
  all_goals rw [Bool.eq_iff_iff]
  all_goals simp only [Bool.or_eq_true, decide_eq_true_eq, Bool.false_eq_true, true_iff, false_iff] at *
  all_goals omega
set_option maxRecDepth 100000 in
set_option maxHeartbeats 1000000 in
theorem refDigit (q : Int) (w : World) (h0 : 0 ≤ q) (h1 : q < 256) :
    Calls Try.prog 14 #[.int .u8 q] w fun e w' => e = .returned (.bool (digitI q)) ∧ w' = w := by
  obtain ⟨k, hk⟩ : ∃ k, digitI q = k := ⟨_, rfl⟩
  have HK := Lib.hid hk
  rw [hk]
  clear hk
  go_enter Try.func14, Try.ntmps14
  go_wp2
  all_goals go_ret
  all_goals refine ⟨ret_bool ?_, rfl⟩
  all_goals rw [← HK.out, digitI]
  all_goals rw [Bool.eq_iff_iff]
  all_goals simp only [decide_eq_true_eq, Bool.false_eq_true, false_iff] at *
  all_goals omega
set_option maxRecDepth 100000 in
set_option maxHeartbeats 1000000 in
theorem refHex (q : Int) (w : World) (h0 : 0 ≤ q) (h1 : q < 256) :
    Calls Try.prog 16 #[.int .u8 q] w fun e w' => e = .returned (.int .i64 (hexI q)) ∧ w' = w := by
  by_cases hA : 65 ≤ q ∧ q ≤ 70
  · rw [show hexI q = q - 55 by unfold hexI; rw [if_neg (by omega), if_pos hA]]
    obtain ⟨ha, hb⟩ := hA
    go_enter Try.func16, Try.ntmps16
    go_wp2
    go_ret
    exact ⟨rfl, rfl⟩
  · by_cases hB : 97 ≤ q ∧ q ≤ 102
    · rw [show hexI q = q - 87 by unfold hexI; rw [if_neg (by omega), if_neg hA, if_pos hB]]
      obtain ⟨ha, hb⟩ := hB
      go_enter Try.func16, Try.ntmps16
      go_wp2
      go_ret
      exact ⟨rfl, rfl⟩
    · by_cases hC : 48 ≤ q ∧ q ≤ 57
      · rw [show hexI q = q - 48 by unfold hexI; rw [if_pos hC]]
        obtain ⟨ha, hb⟩ := hC
        go_enter Try.func16, Try.ntmps16
        go_wp2
        go_ret
        exact ⟨rfl, rfl⟩
      · rw [show hexI q = -1 by unfold hexI; rw [if_neg hC, if_neg hA, if_neg hB]]
        go_enter Try.func16, Try.ntmps16
        go_wp2
        all_goals go_ret
        all_goals exact ⟨ret_int rfl, rfl⟩

theorem low_up (s : ByteArray) (i : Nat) (h : i < s.size) (O c : ByteArray) (L : List UInt8) (hc : c.data.toList = [lowB s[i]]) (heq : O.data.toList ++ lowL (s.data.toList.drop i) = L) :
    (O ++ c).data.toList ++ lowL (s.data.toList.drop (i + 1)) = L := by
  rw [← heq, drop_at s i h, lowL_cons, ByteArray.data_append, Array.toList_append, hc, List.append_assoc]; rfl
/-- a text of one byte -/
theorem oneByte (w : World) (q : Int) (c : UInt8) (h : (c.toNat : Int) = q) :
    (convert 29 9 (.slice (some ⟨w.heap.size, 0, none⟩) 1 1)).run Try.prog (w.alloc (.cells #[.int .u8 q] 5)) = .ok (.string ⟨#[c]⟩) (w.alloc (.cells #[.int .u8 q] 5)) := by
  refine run_convert_bytes_back (P := Try.prog) _ 29 9 5 ⟨w.heap.size, 0, none⟩ 1 [c] Try.underlying29 Try.underlying5 Try.underlying9 ?_
  intro j hj
  have : j = 0 := by simp at hj; exact hj
  subst this
  rw [show ((⟨w.heap.size, 0, none⟩ : Addr).add 0) = ⟨w.heap.size, 0, none⟩ from rfl, Lib.cell_of_heap (heap_alloc_new w _), ← h]
  rfl
set_option maxRecDepth 100000 in
set_option maxHeartbeats 4000000 in
theorem refLower (s : ByteArray) (w : World) (hs : s.size ≤ 1099511627776) :
    Calls Try.prog 19 #[.string s] w fun e w' => e = .returned (.string (lowS s)) ∧ Below w.heap.size w w' := by
  go_enter Try.func19, Try.ntmps19
  go_wp2
  go_loopw [3, 4] (fun o v wr => ∃ (i : Nat) (O : ByteArray), o = .string O ∧ v = .int .i64 (i : Int) ∧ Below w.heap.size w wr ∧ i ≤ s.size ∧ O.data.toList ++ lowL (s.data.toList.drop i) = lowL s.data.toList ∧ O.size = i) (fun _ v _ => s.size - (intOf v).toNat)
  case atStart => exact ⟨0, ⟨#[]⟩, rfl, rfl, Below.refl _ w, Nat.zero_le _, rfl, rfl⟩
  case round =>
    obtain ⟨i, O, rfl, rfl, hbw, hle, heq, hO⟩ := hrel
    have HE := Lib.hid heq
    have HO : O.size ≤ 1099511627776 := by omega
    have HO' := Lib.hid hO
    clear heq hO
    by_cases hlt : i < s.size
    · by_cases hA : 65 ≤ (s[i].toNat : Int) ∧ (s[i].toNat : Int) ≤ 90
      · obtain ⟨ha, hb⟩ := hA
        have hc : ((lowB s[i]).toNat : Int) = (s[i].toNat : Int) + 32 := by rw [lowB_int, lowI, if_pos ⟨ha, hb⟩]
        have HC := Lib.hid hc
        clear hc
        go_wp2
        rw [oneByte _ _ _ HC.out]
        simp only [Result.andThen]
        rw [Oper.upon_value]
        go_wp2
        go_roundw
        case rel => exact ⟨i + 1, _, rfl, rfl, hbw.alloc hbw.size _, by omega, low_up s i hlt O _ _ rfl HE.out, by rw [ByteArray.size_append, HO'.out]; rfl⟩
        case measure => simp [intOf]; omega
      · have hc : ((lowB s[i]).toNat : Int) = (s[i].toNat : Int) := by rw [lowB_int, lowI, if_neg hA]
        have HC := Lib.hid hc
        clear hc
        go_wp2
        all_goals rw [oneByte _ _ _ HC.out]
        all_goals simp only [Result.andThen]
        all_goals rw [Oper.upon_value]
        all_goals go_wp2
        all_goals go_roundw
        case rel => exact ⟨i + 1, _, rfl, rfl, hbw.alloc hbw.size _, by omega, low_up s i hlt O _ _ rfl HE.out, by rw [ByteArray.size_append, HO'.out]; rfl⟩
        case measure => simp [intOf]; omega
        case rel => exact ⟨i + 1, _, rfl, rfl, hbw.alloc hbw.size _, by omega, low_up s i hlt O _ _ rfl HE.out, by rw [ByteArray.size_append, HO'.out]; rfl⟩
        case measure => simp [intOf]; omega
    · go_wp2
      go_ret
      refine ⟨ret_str (str_ext ?_), hbw⟩
      have := HE.out
      rw [List.drop_eq_nil_of_le (by rw [← Lib.size_eq]; omega), lowL, List.map_nil, List.append_nil] at this
      rw [this, lowS_list]

end Go.Proofs.Ytloabbfahpgbcaa
