/-
  What the document's 'first' of layer 1 answers where a sign stands, by what 'least' answers.
-/
import Derived.Test.YtnbafhaajckdcaaDoorUtfRefFirst
import Derived.Deep.RegionHeld3
namespace Go.Proofs.YtnbafhaajckdcaaDoor
open Go.RowKit Go.Lib

set_option maxRecDepth 100000 in
set_option maxHeartbeats 1000000 in
theorem first_eq2 (b0 : Int) (x : Addr) (w : World) (len cap : Nat) (c0 : w.cell? x = some (.int .u8 b0)) (hb0 : 128 ≤ b0) (hl1 : 2 ≤ len) (hl : len ≤ cap) (hm : len ≤ 1099511627776) (L1 : LeastIs w x 1 cap OkB) (n : Int) (hn : 0 ≤ n) (S : ByteArray) (L2 : LeastIs w x 2 cap (EqB n)) (HS : Hid ((⟨(encodeRune n).toArray⟩ : ByteArray) = S))
    (vC : ∀ w', Below w.heap.size w w' → (convert 49 9 (.slice (some x) 2 cap)).run Tryd.prog w' = .ok (.string S) w') :
    Calls Tryd.prog 27 #[.slice (some x) len cap] w fun e w' => e = .returned (.tuple #[.int .i64 2, .bool true]) ∧ Below w.heap.size w w' := by
  have H1 := Lib.hid L1
  clear L1
  have H2 := Lib.hid L2
  clear L2
  have hk1 : 2 ≤ cap := by omega
  have hk2 : (2 : Int) ≤ (cap : Int) := by omega
  have hk3 : (2 : Int) ≤ (len : Int) := by omega
  go_enter Tryd.func27, Tryd.ntmps27
  go_wp2
  refine wp_loop_rounds 2 ?_
  rw [rounds_succ]
  go_wp2_with (fail)
  refine (H1.out _ (by rfl)).mono ?_
  rintro e w1 ⟨f1, t1, rfl, hf1, hft1, rfl⟩
  go_wp2_with (fail)
  go_quiet (fail)
  go_wp2_with (fail)
  rw [rounds_succ]
  go_wp2_with (fail)
  refine (H2.out _ (by rfl)).mono ?_
  rintro e w' ⟨rfl, rfl⟩
  go_wp2_with (fail)
  have VC := Lib.hid vC
  clear vC
  go_region_held3 (fun w' => (convert 49 9 (.slice (some x) 2 cap)).run Tryd.prog w' = .ok (.string S) w' ∧ Below w.heap.size w w')
    (first | exact ⟨VC.out _ ‹_›, ‹_›⟩ | (refine ⟨VC.out _ ?_, ?_⟩ <;> repeat (first | exact Below.refl _ _ | refine Below.drew ?_ | refine below_drewN ?_ _)))
    (first | (go_at_call 18; refine (refSign_any n _).mono ?_; rintro e w' ⟨rfl, hbS⟩; have hw' := Below.trans (a := w) (by repeat (first | exact Below.refl _ _ | refine Below.drew ?_ | refine below_drewN ?_ _)) hbS; rw [HS.out]))
  all_goals
    go_wp2
    go_ret2
    exact ⟨rfl, ‹_›⟩

set_option maxRecDepth 100000 in
set_option maxHeartbeats 1000000 in
theorem first_eq3 (b0 : Int) (x : Addr) (w : World) (len cap : Nat) (c0 : w.cell? x = some (.int .u8 b0)) (hb0 : 128 ≤ b0) (hl1 : 3 ≤ len) (hl : len ≤ cap) (hm : len ≤ 1099511627776) (L1 : LeastIs w x 1 cap OkB) (L2 : LeastIs w x 2 cap OkB) (n : Int) (hn : 0 ≤ n) (S : ByteArray) (L3 : LeastIs w x 3 cap (EqB n)) (HS : Hid ((⟨(encodeRune n).toArray⟩ : ByteArray) = S))
    (vC : ∀ w', Below w.heap.size w w' → (convert 49 9 (.slice (some x) 3 cap)).run Tryd.prog w' = .ok (.string S) w') :
    Calls Tryd.prog 27 #[.slice (some x) len cap] w fun e w' => e = .returned (.tuple #[.int .i64 3, .bool true]) ∧ Below w.heap.size w w' := by
  have H1 := Lib.hid L1
  clear L1
  have H2 := Lib.hid L2
  clear L2
  have H3 := Lib.hid L3
  clear L3
  have hk1 : 3 ≤ cap := by omega
  have hk2 : (3 : Int) ≤ (cap : Int) := by omega
  have hk3 : (3 : Int) ≤ (len : Int) := by omega
  go_enter Tryd.func27, Tryd.ntmps27
  go_wp2
  refine wp_loop_rounds 3 ?_
  rw [rounds_succ]
  go_wp2_with (fail)
  refine (H1.out _ (by rfl)).mono ?_
  rintro e w1 ⟨f1, t1, rfl, hf1, hft1, rfl⟩
  go_wp2_with (fail)
  go_quiet (fail)
  go_wp2_with (fail)
  rw [rounds_succ]
  go_wp2_with (fail)
  refine (H2.out _ (by rfl)).mono ?_
  rintro e w2 ⟨f2, t2, rfl, hf2, hft2, rfl⟩
  go_wp2_with (fail)
  go_quiet (fail)
  go_wp2_with (fail)
  rw [rounds_succ]
  go_wp2_with (fail)
  refine (H3.out _ (by rfl)).mono ?_
  rintro e w' ⟨rfl, rfl⟩
  go_wp2_with (fail)
  have VC := Lib.hid vC
  clear vC
  go_region_held3 (fun w' => (convert 49 9 (.slice (some x) 3 cap)).run Tryd.prog w' = .ok (.string S) w' ∧ Below w.heap.size w w')
    (first | exact ⟨VC.out _ ‹_›, ‹_›⟩ | (refine ⟨VC.out _ ?_, ?_⟩ <;> repeat (first | exact Below.refl _ _ | refine Below.drew ?_ | refine below_drewN ?_ _)))
    (first | (go_at_call 18; refine (refSign_any n _).mono ?_; rintro e w' ⟨rfl, hbS⟩; have hw' := Below.trans (a := w) (by repeat (first | exact Below.refl _ _ | refine Below.drew ?_ | refine below_drewN ?_ _)) hbS; rw [HS.out]))
  all_goals
    go_wp2
    go_ret2
    exact ⟨rfl, ‹_›⟩

set_option maxRecDepth 100000 in
set_option maxHeartbeats 1000000 in
theorem first_eq4 (b0 : Int) (x : Addr) (w : World) (len cap : Nat) (c0 : w.cell? x = some (.int .u8 b0)) (hb0 : 128 ≤ b0) (hl1 : 4 ≤ len) (hl : len ≤ cap) (hm : len ≤ 1099511627776) (L1 : LeastIs w x 1 cap OkB) (L2 : LeastIs w x 2 cap OkB) (L3 : LeastIs w x 3 cap OkB) (n : Int) (hn : 0 ≤ n) (S : ByteArray) (L4 : LeastIs w x 4 cap (EqB n)) (HS : Hid ((⟨(encodeRune n).toArray⟩ : ByteArray) = S))
    (vC : ∀ w', Below w.heap.size w w' → (convert 49 9 (.slice (some x) 4 cap)).run Tryd.prog w' = .ok (.string S) w') :
    Calls Tryd.prog 27 #[.slice (some x) len cap] w fun e w' => e = .returned (.tuple #[.int .i64 4, .bool true]) ∧ Below w.heap.size w w' := by
  have H1 := Lib.hid L1
  clear L1
  have H2 := Lib.hid L2
  clear L2
  have H3 := Lib.hid L3
  clear L3
  have H4 := Lib.hid L4
  clear L4
  have hk1 : 4 ≤ cap := by omega
  have hk2 : (4 : Int) ≤ (cap : Int) := by omega
  have hk3 : (4 : Int) ≤ (len : Int) := by omega
  go_enter Tryd.func27, Tryd.ntmps27
  go_wp2
  refine wp_loop_rounds 4 ?_
  rw [rounds_succ]
  go_wp2_with (fail)
  refine (H1.out _ (by rfl)).mono ?_
  rintro e w1 ⟨f1, t1, rfl, hf1, hft1, rfl⟩
  go_wp2_with (fail)
  go_quiet (fail)
  go_wp2_with (fail)
  rw [rounds_succ]
  go_wp2_with (fail)
  refine (H2.out _ (by rfl)).mono ?_
  rintro e w2 ⟨f2, t2, rfl, hf2, hft2, rfl⟩
  go_wp2_with (fail)
  go_quiet (fail)
  go_wp2_with (fail)
  rw [rounds_succ]
  go_wp2_with (fail)
  refine (H3.out _ (by rfl)).mono ?_
  rintro e w3 ⟨f3, t3, rfl, hf3, hft3, rfl⟩
  go_wp2_with (fail)
  go_quiet (fail)
  go_wp2_with (fail)
  rw [rounds_succ]
  go_wp2_with (fail)
  refine (H4.out _ (by rfl)).mono ?_
  rintro e w' ⟨rfl, rfl⟩
  go_wp2_with (fail)
  have VC := Lib.hid vC
  clear vC
  go_region_held3 (fun w' => (convert 49 9 (.slice (some x) 4 cap)).run Tryd.prog w' = .ok (.string S) w' ∧ Below w.heap.size w w')
    (first | exact ⟨VC.out _ ‹_›, ‹_›⟩ | (refine ⟨VC.out _ ?_, ?_⟩ <;> repeat (first | exact Below.refl _ _ | refine Below.drew ?_ | refine below_drewN ?_ _)))
    (first | (go_at_call 18; refine (refSign_any n _).mono ?_; rintro e w' ⟨rfl, hbS⟩; have hw' := Below.trans (a := w) (by repeat (first | exact Below.refl _ _ | refine Below.drew ?_ | refine below_drewN ?_ _)) hbS; rw [HS.out]))
  all_goals
    go_wp2
    go_ret2
    exact ⟨rfl, ‹_›⟩

end Go.Proofs.YtnbafhaajckdcaaDoor
