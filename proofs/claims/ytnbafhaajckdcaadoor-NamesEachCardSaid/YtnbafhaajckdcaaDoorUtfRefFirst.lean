/-
  What the document's 'first' of layer 1 answers, by what 'least' answers of one byte, of two, and so on.
-/
import Derived.Test.YtnbafhaajckdcaaDoorUtfRefLeast
import Derived.Deep.QuietTactic
import Derived.BigQuiet
namespace Go.Proofs.YtnbafhaajckdcaaDoor
open Go.RowKit Go.Lib

def OkB (w : World) (e : Ending) (w' : World) : Prop := ∃ f t : Int, e = .returned (.tuple #[.int .i64 f, .int .i64 t]) ∧ 0 ≤ f ∧ (f == t) = false ∧ w = w'
def NoB (w : World) (e : Ending) (w' : World) : Prop := e = .returned (.tuple #[.int .i64 (-1), .int .i64 (-1)]) ∧ w = w'
def EqB (n : Int) (w : World) (e : Ending) (w' : World) : Prop := e = .returned (.tuple #[.int .i64 n, .int .i64 n]) ∧ w = w'
/-- what 'least' answers of the first k bytes, in every world with that memory -/
def LeastIs (w : World) (x : Addr) (k cap : Nat) (post : World → Ending → World → Prop) : Prop :=
  ∀ w', w'.heap = w.heap → Calls Tryd.prog 34 #[.slice (some x) k cap] w' (post w')

set_option maxRecDepth 100000 in
set_option maxHeartbeats 1000000 in
theorem first_no0 (b0 : Int) (x : Addr) (w : World) (len cap : Nat) (c0 : w.cell? x = some (.int .u8 b0)) (hb0 : 128 ≤ b0) (hl1 : 1 ≤ len) (hl : len ≤ cap) (hm : len ≤ 1099511627776) (L1 : LeastIs w x 1 cap NoB) :
    Calls Tryd.prog 27 #[.slice (some x) len cap] w fun e w' => e = .returned (.tuple #[.int .i64 1, .bool false]) ∧ Below w.heap.size w w' := by
  have H1 := Lib.hid L1
  clear L1
  go_enter Tryd.func27, Tryd.ntmps27
  go_wp2
  refine wp_loop_rounds 1 ?_
  rw [rounds_succ]
  go_wp2_with (fail)
  refine (H1.out _ (by rfl)).mono ?_
  rintro e w' ⟨rfl, rfl⟩
  go_wp2_with (fail)
  go_ret2
  exact ⟨rfl, by repeat (first | exact Below.refl _ _ | exact below_drewN (Below.refl _ _) _ | refine below_drewN ?_ _)⟩

set_option maxRecDepth 100000 in
set_option maxHeartbeats 1000000 in
theorem first_no1 (b0 : Int) (x : Addr) (w : World) (len cap : Nat) (c0 : w.cell? x = some (.int .u8 b0)) (hb0 : 128 ≤ b0) (hl1 : 2 ≤ len) (hl : len ≤ cap) (hm : len ≤ 1099511627776) (L1 : LeastIs w x 1 cap OkB) (L2 : LeastIs w x 2 cap NoB) :
    Calls Tryd.prog 27 #[.slice (some x) len cap] w fun e w' => e = .returned (.tuple #[.int .i64 1, .bool false]) ∧ Below w.heap.size w w' := by
  have H1 := Lib.hid L1
  clear L1
  have H2 := Lib.hid L2
  clear L2
  go_enter Tryd.func27, Tryd.ntmps27
  go_wp2
  refine wp_loop_rounds 2 ?_
  rw [rounds_succ]
  go_wp2_with (fail)
  refine (H1.out _ (by rfl)).mono ?_
  rintro e w1 ⟨f1, t1, rfl, hf1, hft1, rfl⟩
  go_wp2_with (fail)
  go_quiet (fail)
  go_wp2_with (fail)
  rw [rounds_succ]
  go_wp2_with (fail)
  refine (H2.out _ (by rfl)).mono ?_
  rintro e w' ⟨rfl, rfl⟩
  go_wp2_with (fail)
  go_ret2
  exact ⟨rfl, by repeat (first | exact Below.refl _ _ | exact below_drewN (Below.refl _ _) _ | refine below_drewN ?_ _)⟩

set_option maxRecDepth 100000 in
set_option maxHeartbeats 1000000 in
theorem first_no2 (b0 : Int) (x : Addr) (w : World) (len cap : Nat) (c0 : w.cell? x = some (.int .u8 b0)) (hb0 : 128 ≤ b0) (hl1 : 3 ≤ len) (hl : len ≤ cap) (hm : len ≤ 1099511627776) (L1 : LeastIs w x 1 cap OkB) (L2 : LeastIs w x 2 cap OkB) (L3 : LeastIs w x 3 cap NoB) :
    Calls Tryd.prog 27 #[.slice (some x) len cap] w fun e w' => e = .returned (.tuple #[.int .i64 2, .bool false]) ∧ Below w.heap.size w w' := by
  have H1 := Lib.hid L1
  clear L1
  have H2 := Lib.hid L2
  clear L2
  have H3 := Lib.hid L3
  clear L3
  go_enter Tryd.func27, Tryd.ntmps27
  go_wp2
  refine wp_loop_rounds 3 ?_
  rw [rounds_succ]
  go_wp2_with (fail)
  refine (H1.out _ (by rfl)).mono ?_
  rintro e w1 ⟨f1, t1, rfl, hf1, hft1, rfl⟩
  go_wp2_with (fail)
  go_quiet (fail)
  go_wp2_with (fail)
  rw [rounds_succ]
  go_wp2_with (fail)
  refine (H2.out _ (by rfl)).mono ?_
  rintro e w2 ⟨f2, t2, rfl, hf2, hft2, rfl⟩
  go_wp2_with (fail)
  go_quiet (fail)
  go_wp2_with (fail)
  rw [rounds_succ]
  go_wp2_with (fail)
  refine (H3.out _ (by rfl)).mono ?_
  rintro e w' ⟨rfl, rfl⟩
  go_wp2_with (fail)
  go_ret2
  exact ⟨rfl, by repeat (first | exact Below.refl _ _ | exact below_drewN (Below.refl _ _) _ | refine below_drewN ?_ _)⟩

set_option maxRecDepth 100000 in
set_option maxHeartbeats 1000000 in
theorem first_no3 (b0 : Int) (x : Addr) (w : World) (len cap : Nat) (c0 : w.cell? x = some (.int .u8 b0)) (hb0 : 128 ≤ b0) (hl1 : 4 ≤ len) (hl : len ≤ cap) (hm : len ≤ 1099511627776) (L1 : LeastIs w x 1 cap OkB) (L2 : LeastIs w x 2 cap OkB) (L3 : LeastIs w x 3 cap OkB) (L4 : LeastIs w x 4 cap NoB) :
    Calls Tryd.prog 27 #[.slice (some x) len cap] w fun e w' => e = .returned (.tuple #[.int .i64 3, .bool false]) ∧ Below w.heap.size w w' := by
  have H1 := Lib.hid L1
  clear L1
  have H2 := Lib.hid L2
  clear L2
  have H3 := Lib.hid L3
  clear L3
  have H4 := Lib.hid L4
  clear L4
  go_enter Tryd.func27, Tryd.ntmps27
  go_wp2
  refine wp_loop_rounds 4 ?_
  rw [rounds_succ]
  go_wp2_with (fail)
  refine (H1.out _ (by rfl)).mono ?_
  rintro e w1 ⟨f1, t1, rfl, hf1, hft1, rfl⟩
  go_wp2_with (fail)
  go_quiet (fail)
  go_wp2_with (fail)
  rw [rounds_succ]
  go_wp2_with (fail)
  refine (H2.out _ (by rfl)).mono ?_
  rintro e w2 ⟨f2, t2, rfl, hf2, hft2, rfl⟩
  go_wp2_with (fail)
  go_quiet (fail)
  go_wp2_with (fail)
  rw [rounds_succ]
  go_wp2_with (fail)
  refine (H3.out _ (by rfl)).mono ?_
  rintro e w3 ⟨f3, t3, rfl, hf3, hft3, rfl⟩
  go_wp2_with (fail)
  go_quiet (fail)
  go_wp2_with (fail)
  rw [rounds_succ]
  go_wp2_with (fail)
  refine (H4.out _ (by rfl)).mono ?_
  rintro e w' ⟨rfl, rfl⟩
  go_wp2_with (fail)
  go_ret2
  exact ⟨rfl, by repeat (first | exact Below.refl _ _ | exact below_drewN (Below.refl _ _) _ | refine below_drewN ?_ _)⟩

set_option maxRecDepth 100000 in
set_option maxHeartbeats 1000000 in
theorem first_end1 (b0 : Int) (x : Addr) (w : World) (len cap : Nat) (c0 : w.cell? x = some (.int .u8 b0)) (hb0 : 128 ≤ b0) (hl1 : 1 ≤ len) (hl2 : len ≤ 1) (hl : len ≤ cap) (L1 : LeastIs w x 1 cap OkB) :
    Calls Tryd.prog 27 #[.slice (some x) len cap] w fun e w' => e = .returned (.tuple #[.int .i64 1, .bool false]) ∧ Below w.heap.size w w' := by
  have H1 := Lib.hid L1
  clear L1
  go_enter Tryd.func27, Tryd.ntmps27
  go_wp2
  refine wp_loop_rounds 2 ?_
  rw [rounds_succ]
  go_wp2_with (fail)
  refine (H1.out _ (by rfl)).mono ?_
  rintro e w1 ⟨f1, t1, rfl, hf1, hft1, rfl⟩
  go_wp2_with (fail)
  go_quiet (fail)
  go_wp2_with (fail)
  rw [rounds_succ]
  go_wp2_with (fail)
  go_ret2
  exact ⟨rfl, by repeat (first | exact Below.refl _ _ | exact below_drewN (Below.refl _ _) _ | refine below_drewN ?_ _)⟩

set_option maxRecDepth 100000 in
set_option maxHeartbeats 1000000 in
theorem first_end2 (b0 : Int) (x : Addr) (w : World) (len cap : Nat) (c0 : w.cell? x = some (.int .u8 b0)) (hb0 : 128 ≤ b0) (hl1 : 2 ≤ len) (hl2 : len ≤ 2) (hl : len ≤ cap) (L1 : LeastIs w x 1 cap OkB) (L2 : LeastIs w x 2 cap OkB) :
    Calls Tryd.prog 27 #[.slice (some x) len cap] w fun e w' => e = .returned (.tuple #[.int .i64 2, .bool false]) ∧ Below w.heap.size w w' := by
  have H1 := Lib.hid L1
  clear L1
  have H2 := Lib.hid L2
  clear L2
  go_enter Tryd.func27, Tryd.ntmps27
  go_wp2
  refine wp_loop_rounds 3 ?_
  rw [rounds_succ]
  go_wp2_with (fail)
  refine (H1.out _ (by rfl)).mono ?_
  rintro e w1 ⟨f1, t1, rfl, hf1, hft1, rfl⟩
  go_wp2_with (fail)
  go_quiet (fail)
  go_wp2_with (fail)
  rw [rounds_succ]
  go_wp2_with (fail)
  refine (H2.out _ (by rfl)).mono ?_
  rintro e w2 ⟨f2, t2, rfl, hf2, hft2, rfl⟩
  go_wp2_with (fail)
  go_quiet (fail)
  go_wp2_with (fail)
  rw [rounds_succ]
  go_wp2_with (fail)
  go_ret2
  exact ⟨rfl, by repeat (first | exact Below.refl _ _ | exact below_drewN (Below.refl _ _) _ | refine below_drewN ?_ _)⟩

set_option maxRecDepth 100000 in
set_option maxHeartbeats 1000000 in
theorem first_end3 (b0 : Int) (x : Addr) (w : World) (len cap : Nat) (c0 : w.cell? x = some (.int .u8 b0)) (hb0 : 128 ≤ b0) (hl1 : 3 ≤ len) (hl2 : len ≤ 3) (hl : len ≤ cap) (L1 : LeastIs w x 1 cap OkB) (L2 : LeastIs w x 2 cap OkB) (L3 : LeastIs w x 3 cap OkB) :
    Calls Tryd.prog 27 #[.slice (some x) len cap] w fun e w' => e = .returned (.tuple #[.int .i64 3, .bool false]) ∧ Below w.heap.size w w' := by
  have H1 := Lib.hid L1
  clear L1
  have H2 := Lib.hid L2
  clear L2
  have H3 := Lib.hid L3
  clear L3
  go_enter Tryd.func27, Tryd.ntmps27
  go_wp2
  refine wp_loop_rounds 4 ?_
  rw [rounds_succ]
  go_wp2_with (fail)
  refine (H1.out _ (by rfl)).mono ?_
  rintro e w1 ⟨f1, t1, rfl, hf1, hft1, rfl⟩
  go_wp2_with (fail)
  go_quiet (fail)
  go_wp2_with (fail)
  rw [rounds_succ]
  go_wp2_with (fail)
  refine (H2.out _ (by rfl)).mono ?_
  rintro e w2 ⟨f2, t2, rfl, hf2, hft2, rfl⟩
  go_wp2_with (fail)
  go_quiet (fail)
  go_wp2_with (fail)
  rw [rounds_succ]
  go_wp2_with (fail)
  refine (H3.out _ (by rfl)).mono ?_
  rintro e w3 ⟨f3, t3, rfl, hf3, hft3, rfl⟩
  go_wp2_with (fail)
  go_quiet (fail)
  go_wp2_with (fail)
  rw [rounds_succ]
  go_wp2_with (fail)
  go_ret2
  exact ⟨rfl, by repeat (first | exact Below.refl _ _ | exact below_drewN (Below.refl _ _) _ | refine below_drewN ?_ _)⟩

end Go.Proofs.YtnbafhaajckdcaaDoor
