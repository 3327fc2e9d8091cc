/-
  What the document's 'least' of layer 1 answers: of one byte, and of as many as a sign may have, told byte by byte.
-/
import Derived.Test.YtnbafhaajckdcaaDoorUtfJoin
import Derived.Test.YtnbafhaajckdcaaDoorUtfRefSign
import Derived.LoopN
namespace Go.Proofs.YtnbafhaajckdcaaDoor
open Go.RowKit Go.Lib

/-- from where to where, if there is something between that is a sign's number -/
def boxZ (f t : Int) : Int × Int := if (55296 ≤ f ∧ t ≤ 57343) ∨ t < f then (-1, -1) else (f, t)
/-- what a call with two numbers answered -/
def RetBox (p : Int × Int) (w : World) (e : Ending) (w' : World) : Prop := ∃ f t, e = .returned (.tuple #[.int .i64 f, .int .i64 t]) ∧ (f, t) = p ∧ w = w'

set_option maxRecDepth 100000 in
set_option maxHeartbeats 1000000 in
theorem least2_1 (b0 : Int) (h0 : 192 ≤ b0) (h0' : b0 < 224) (x : Addr) (w : World) (cap : Nat) (c0 : w.cell? x = some (.int .u8 b0)) :
    Calls Tryd.prog 34 #[.slice (some x) 1 cap] w (RetBox (boxZ (max (64 * (b0 - 192)) 128) (min (64 * (b0 - 192) + 63) 2047)) w) := by
  go_enter Tryd.func34, Tryd.ntmps34
  go_wp2
  refine wp_loop_rounds 1 ?_
  rw [rounds_succ]
  go_wp2
  refine wp_loop_rounds 2 ?_
  rw [rounds_succ]
  go_wp2
  rw [rounds_succ]
  go_wp2
  all_goals
    go_ret2
    refine ⟨_, _, rfl, ?_, rfl⟩
    unfold boxZ
    split <;> first | rfl | (exfalso; omega)

set_option maxRecDepth 100000 in
set_option maxHeartbeats 1000000 in
theorem least2_2 (b0 b1 : Int) (h0 : 192 ≤ b0) (h0' : b0 < 224) (h1 : 128 ≤ b1) (h1' : b1 < 192) (x : Addr) (w : World) (cap : Nat) (c0 : w.cell? x = some (.int .u8 b0)) (c1 : w.cell? ⟨x.block, x.off + 1, none⟩ = some (.int .u8 b1)) :
    Calls Tryd.prog 34 #[.slice (some x) 2 cap] w (RetBox (boxZ (max (64 * (b0 - 192) + b1 - 128) 128) (min (64 * (b0 - 192) + b1 - 128) 2047)) w) := by
  go_enter Tryd.func34, Tryd.ntmps34
  go_wp2
  refine wp_loop_rounds 2 ?_
  rw [rounds_succ]
  go_wp2
  rw [rounds_succ]
  go_wp2
  refine wp_loop_rounds 1 ?_
  rw [rounds_succ]
  go_wp2
  all_goals
    go_ret2
    refine ⟨_, _, rfl, ?_, rfl⟩
    unfold boxZ
    split <;> first | rfl | (exfalso; omega)

set_option maxRecDepth 100000 in
set_option maxHeartbeats 1000000 in
theorem least2_2_lo (b0 b1 : Int) (h0 : 192 ≤ b0) (h0' : b0 < 224) (_h1 : 0 ≤ b1) (h1' : b1 < 128) (x : Addr) (w : World) (cap : Nat) (c0 : w.cell? x = some (.int .u8 b0)) (c1 : w.cell? ⟨x.block, x.off + 1, none⟩ = some (.int .u8 b1)) :
    Calls Tryd.prog 34 #[.slice (some x) 2 cap] w (RetBox (-1, -1) w) := by
  go_enter Tryd.func34, Tryd.ntmps34
  go_wp2
  refine wp_loop_rounds 2 ?_
  rw [rounds_succ]
  go_wp2
  all_goals
    go_ret2
    exact ⟨_, _, rfl, rfl, rfl⟩

set_option maxRecDepth 100000 in
set_option maxHeartbeats 1000000 in
theorem least2_2_hi (b0 b1 : Int) (h0 : 192 ≤ b0) (h0' : b0 < 224) (h1 : 192 ≤ b1) (h1' : b1 < 256) (x : Addr) (w : World) (cap : Nat) (c0 : w.cell? x = some (.int .u8 b0)) (c1 : w.cell? ⟨x.block, x.off + 1, none⟩ = some (.int .u8 b1)) :
    Calls Tryd.prog 34 #[.slice (some x) 2 cap] w (RetBox (-1, -1) w) := by
  go_enter Tryd.func34, Tryd.ntmps34
  go_wp2
  refine wp_loop_rounds 2 ?_
  rw [rounds_succ]
  go_wp2
  all_goals
    go_ret2
    exact ⟨_, _, rfl, rfl, rfl⟩

set_option maxRecDepth 100000 in
set_option maxHeartbeats 1000000 in
theorem least3_1 (b0 : Int) (h0 : 224 ≤ b0) (h0' : b0 < 240) (x : Addr) (w : World) (cap : Nat) (c0 : w.cell? x = some (.int .u8 b0)) :
    Calls Tryd.prog 34 #[.slice (some x) 1 cap] w (RetBox (boxZ (max (64 * (64 * (b0 - 224))) 2048) (min (64 * (64 * (b0 - 224) + 63) + 63) 65535)) w) := by
  go_enter Tryd.func34, Tryd.ntmps34
  go_wp2
  refine wp_loop_rounds 1 ?_
  rw [rounds_succ]
  go_wp2
  refine wp_loop_rounds 3 ?_
  rw [rounds_succ]
  go_wp2
  rw [rounds_succ]
  go_wp2
  rw [rounds_succ]
  go_wp2
  all_goals
    go_ret2
    refine ⟨_, _, rfl, ?_, rfl⟩
    unfold boxZ
    split <;> first | rfl | (exfalso; omega)

set_option maxRecDepth 100000 in
set_option maxHeartbeats 1000000 in
theorem least3_2 (b0 b1 : Int) (h0 : 224 ≤ b0) (h0' : b0 < 240) (h1 : 128 ≤ b1) (h1' : b1 < 192) (x : Addr) (w : World) (cap : Nat) (c0 : w.cell? x = some (.int .u8 b0)) (c1 : w.cell? ⟨x.block, x.off + 1, none⟩ = some (.int .u8 b1)) :
    Calls Tryd.prog 34 #[.slice (some x) 2 cap] w (RetBox (boxZ (max (64 * (64 * (b0 - 224) + b1 - 128)) 2048) (min (64 * (64 * (b0 - 224) + b1 - 128) + 63) 65535)) w) := by
  go_enter Tryd.func34, Tryd.ntmps34
  go_wp2
  refine wp_loop_rounds 2 ?_
  rw [rounds_succ]
  go_wp2
  rw [rounds_succ]
  go_wp2
  refine wp_loop_rounds 2 ?_
  rw [rounds_succ]
  go_wp2
  rw [rounds_succ]
  go_wp2
  all_goals
    go_ret2
    refine ⟨_, _, rfl, ?_, rfl⟩
    unfold boxZ
    split <;> first | rfl | (exfalso; omega)

set_option maxRecDepth 100000 in
set_option maxHeartbeats 1000000 in
theorem least3_2_lo (b0 b1 : Int) (h0 : 224 ≤ b0) (h0' : b0 < 240) (_h1 : 0 ≤ b1) (h1' : b1 < 128) (x : Addr) (w : World) (cap : Nat) (c0 : w.cell? x = some (.int .u8 b0)) (c1 : w.cell? ⟨x.block, x.off + 1, none⟩ = some (.int .u8 b1)) :
    Calls Tryd.prog 34 #[.slice (some x) 2 cap] w (RetBox (-1, -1) w) := by
  go_enter Tryd.func34, Tryd.ntmps34
  go_wp2
  refine wp_loop_rounds 2 ?_
  rw [rounds_succ]
  go_wp2
  all_goals
    go_ret2
    exact ⟨_, _, rfl, rfl, rfl⟩

set_option maxRecDepth 100000 in
set_option maxHeartbeats 1000000 in
theorem least3_2_hi (b0 b1 : Int) (h0 : 224 ≤ b0) (h0' : b0 < 240) (h1 : 192 ≤ b1) (h1' : b1 < 256) (x : Addr) (w : World) (cap : Nat) (c0 : w.cell? x = some (.int .u8 b0)) (c1 : w.cell? ⟨x.block, x.off + 1, none⟩ = some (.int .u8 b1)) :
    Calls Tryd.prog 34 #[.slice (some x) 2 cap] w (RetBox (-1, -1) w) := by
  go_enter Tryd.func34, Tryd.ntmps34
  go_wp2
  refine wp_loop_rounds 2 ?_
  rw [rounds_succ]
  go_wp2
  all_goals
    go_ret2
    exact ⟨_, _, rfl, rfl, rfl⟩

set_option maxRecDepth 100000 in
set_option maxHeartbeats 1000000 in
theorem least3_3 (b0 b1 b2 : Int) (h0 : 224 ≤ b0) (h0' : b0 < 240) (h1 : 128 ≤ b1) (h1' : b1 < 192) (h2 : 128 ≤ b2) (h2' : b2 < 192) (x : Addr) (w : World) (cap : Nat) (c0 : w.cell? x = some (.int .u8 b0)) (c1 : w.cell? ⟨x.block, x.off + 1, none⟩ = some (.int .u8 b1)) (c2 : w.cell? ⟨x.block, x.off + 2, none⟩ = some (.int .u8 b2)) :
    Calls Tryd.prog 34 #[.slice (some x) 3 cap] w (RetBox (boxZ (max (64 * (64 * (b0 - 224) + b1 - 128) + b2 - 128) 2048) (min (64 * (64 * (b0 - 224) + b1 - 128) + b2 - 128) 65535)) w) := by
  go_enter Tryd.func34, Tryd.ntmps34
  go_wp2
  refine wp_loop_rounds 3 ?_
  rw [rounds_succ]
  go_wp2
  rw [rounds_succ]
  go_wp2
  rw [rounds_succ]
  go_wp2
  refine wp_loop_rounds 1 ?_
  rw [rounds_succ]
  go_wp2
  all_goals
    go_ret2
    refine ⟨_, _, rfl, ?_, rfl⟩
    unfold boxZ
    split <;> first | rfl | (exfalso; omega)

set_option maxRecDepth 100000 in
set_option maxHeartbeats 1000000 in
theorem least3_3_lo (b0 b1 b2 : Int) (h0 : 224 ≤ b0) (h0' : b0 < 240) (h1 : 128 ≤ b1) (h1' : b1 < 192) (_h2 : 0 ≤ b2) (h2' : b2 < 128) (x : Addr) (w : World) (cap : Nat) (c0 : w.cell? x = some (.int .u8 b0)) (c1 : w.cell? ⟨x.block, x.off + 1, none⟩ = some (.int .u8 b1)) (c2 : w.cell? ⟨x.block, x.off + 2, none⟩ = some (.int .u8 b2)) :
    Calls Tryd.prog 34 #[.slice (some x) 3 cap] w (RetBox (-1, -1) w) := by
  go_enter Tryd.func34, Tryd.ntmps34
  go_wp2
  refine wp_loop_rounds 3 ?_
  rw [rounds_succ]
  go_wp2
  rw [rounds_succ]
  go_wp2
  all_goals
    go_ret2
    exact ⟨_, _, rfl, rfl, rfl⟩

set_option maxRecDepth 100000 in
set_option maxHeartbeats 1000000 in
theorem least3_3_hi (b0 b1 b2 : Int) (h0 : 224 ≤ b0) (h0' : b0 < 240) (h1 : 128 ≤ b1) (h1' : b1 < 192) (h2 : 192 ≤ b2) (h2' : b2 < 256) (x : Addr) (w : World) (cap : Nat) (c0 : w.cell? x = some (.int .u8 b0)) (c1 : w.cell? ⟨x.block, x.off + 1, none⟩ = some (.int .u8 b1)) (c2 : w.cell? ⟨x.block, x.off + 2, none⟩ = some (.int .u8 b2)) :
    Calls Tryd.prog 34 #[.slice (some x) 3 cap] w (RetBox (-1, -1) w) := by
  go_enter Tryd.func34, Tryd.ntmps34
  go_wp2
  refine wp_loop_rounds 3 ?_
  rw [rounds_succ]
  go_wp2
  rw [rounds_succ]
  go_wp2
  all_goals
    go_ret2
    exact ⟨_, _, rfl, rfl, rfl⟩

set_option maxRecDepth 100000 in
set_option maxHeartbeats 1000000 in
theorem least4_1 (b0 : Int) (h0 : 240 ≤ b0) (h0' : b0 < 248) (x : Addr) (w : World) (cap : Nat) (c0 : w.cell? x = some (.int .u8 b0)) :
    Calls Tryd.prog 34 #[.slice (some x) 1 cap] w (RetBox (boxZ (max (64 * (64 * (64 * (b0 - 240)))) 65536) (min (64 * (64 * (64 * (b0 - 240) + 63) + 63) + 63) 1114111)) w) := by
  go_enter Tryd.func34, Tryd.ntmps34
  go_wp2
  refine wp_loop_rounds 1 ?_
  rw [rounds_succ]
  go_wp2
  refine wp_loop_rounds 4 ?_
  rw [rounds_succ]
  go_wp2
  rw [rounds_succ]
  go_wp2
  rw [rounds_succ]
  go_wp2
  rw [rounds_succ]
  go_wp2
  all_goals
    go_ret2
    refine ⟨_, _, rfl, ?_, rfl⟩
    unfold boxZ
    split <;> first | rfl | (exfalso; omega)

set_option maxRecDepth 100000 in
set_option maxHeartbeats 1000000 in
theorem least4_2 (b0 b1 : Int) (h0 : 240 ≤ b0) (h0' : b0 < 248) (h1 : 128 ≤ b1) (h1' : b1 < 192) (x : Addr) (w : World) (cap : Nat) (c0 : w.cell? x = some (.int .u8 b0)) (c1 : w.cell? ⟨x.block, x.off + 1, none⟩ = some (.int .u8 b1)) :
    Calls Tryd.prog 34 #[.slice (some x) 2 cap] w (RetBox (boxZ (max (64 * (64 * (64 * (b0 - 240) + b1 - 128))) 65536) (min (64 * (64 * (64 * (b0 - 240) + b1 - 128) + 63) + 63) 1114111)) w) := by
  go_enter Tryd.func34, Tryd.ntmps34
  go_wp2
  refine wp_loop_rounds 2 ?_
  rw [rounds_succ]
  go_wp2
  rw [rounds_succ]
  go_wp2
  refine wp_loop_rounds 3 ?_
  rw [rounds_succ]
  go_wp2
  rw [rounds_succ]
  go_wp2
  rw [rounds_succ]
  go_wp2
  all_goals
    go_ret2
    refine ⟨_, _, rfl, ?_, rfl⟩
    unfold boxZ
    split <;> first | rfl | (exfalso; omega)

set_option maxRecDepth 100000 in
set_option maxHeartbeats 1000000 in
theorem least4_2_lo (b0 b1 : Int) (h0 : 240 ≤ b0) (h0' : b0 < 248) (_h1 : 0 ≤ b1) (h1' : b1 < 128) (x : Addr) (w : World) (cap : Nat) (c0 : w.cell? x = some (.int .u8 b0)) (c1 : w.cell? ⟨x.block, x.off + 1, none⟩ = some (.int .u8 b1)) :
    Calls Tryd.prog 34 #[.slice (some x) 2 cap] w (RetBox (-1, -1) w) := by
  go_enter Tryd.func34, Tryd.ntmps34
  go_wp2
  refine wp_loop_rounds 2 ?_
  rw [rounds_succ]
  go_wp2
  all_goals
    go_ret2
    exact ⟨_, _, rfl, rfl, rfl⟩

set_option maxRecDepth 100000 in
set_option maxHeartbeats 1000000 in
theorem least4_2_hi (b0 b1 : Int) (h0 : 240 ≤ b0) (h0' : b0 < 248) (h1 : 192 ≤ b1) (h1' : b1 < 256) (x : Addr) (w : World) (cap : Nat) (c0 : w.cell? x = some (.int .u8 b0)) (c1 : w.cell? ⟨x.block, x.off + 1, none⟩ = some (.int .u8 b1)) :
    Calls Tryd.prog 34 #[.slice (some x) 2 cap] w (RetBox (-1, -1) w) := by
  go_enter Tryd.func34, Tryd.ntmps34
  go_wp2
  refine wp_loop_rounds 2 ?_
  rw [rounds_succ]
  go_wp2
  all_goals
    go_ret2
    exact ⟨_, _, rfl, rfl, rfl⟩

set_option maxRecDepth 100000 in
set_option maxHeartbeats 1000000 in
theorem least4_3 (b0 b1 b2 : Int) (h0 : 240 ≤ b0) (h0' : b0 < 248) (h1 : 128 ≤ b1) (h1' : b1 < 192) (h2 : 128 ≤ b2) (h2' : b2 < 192) (x : Addr) (w : World) (cap : Nat) (c0 : w.cell? x = some (.int .u8 b0)) (c1 : w.cell? ⟨x.block, x.off + 1, none⟩ = some (.int .u8 b1)) (c2 : w.cell? ⟨x.block, x.off + 2, none⟩ = some (.int .u8 b2)) :
    Calls Tryd.prog 34 #[.slice (some x) 3 cap] w (RetBox (boxZ (max (64 * (64 * (64 * (b0 - 240) + b1 - 128) + b2 - 128)) 65536) (min (64 * (64 * (64 * (b0 - 240) + b1 - 128) + b2 - 128) + 63) 1114111)) w) := by
  go_enter Tryd.func34, Tryd.ntmps34
  go_wp2
  refine wp_loop_rounds 3 ?_
  rw [rounds_succ]
  go_wp2
  rw [rounds_succ]
  go_wp2
  rw [rounds_succ]
  go_wp2
  refine wp_loop_rounds 2 ?_
  rw [rounds_succ]
  go_wp2
  rw [rounds_succ]
  go_wp2
  all_goals
    go_ret2
    refine ⟨_, _, rfl, ?_, rfl⟩
    unfold boxZ
    split <;> first | rfl | (exfalso; omega)

set_option maxRecDepth 100000 in
set_option maxHeartbeats 1000000 in
theorem least4_3_lo (b0 b1 b2 : Int) (h0 : 240 ≤ b0) (h0' : b0 < 248) (h1 : 128 ≤ b1) (h1' : b1 < 192) (_h2 : 0 ≤ b2) (h2' : b2 < 128) (x : Addr) (w : World) (cap : Nat) (c0 : w.cell? x = some (.int .u8 b0)) (c1 : w.cell? ⟨x.block, x.off + 1, none⟩ = some (.int .u8 b1)) (c2 : w.cell? ⟨x.block, x.off + 2, none⟩ = some (.int .u8 b2)) :
    Calls Tryd.prog 34 #[.slice (some x) 3 cap] w (RetBox (-1, -1) w) := by
  go_enter Tryd.func34, Tryd.ntmps34
  go_wp2
  refine wp_loop_rounds 3 ?_
  rw [rounds_succ]
  go_wp2
  rw [rounds_succ]
  go_wp2
  all_goals
    go_ret2
    exact ⟨_, _, rfl, rfl, rfl⟩

set_option maxRecDepth 100000 in
set_option maxHeartbeats 1000000 in
theorem least4_3_hi (b0 b1 b2 : Int) (h0 : 240 ≤ b0) (h0' : b0 < 248) (h1 : 128 ≤ b1) (h1' : b1 < 192) (h2 : 192 ≤ b2) (h2' : b2 < 256) (x : Addr) (w : World) (cap : Nat) (c0 : w.cell? x = some (.int .u8 b0)) (c1 : w.cell? ⟨x.block, x.off + 1, none⟩ = some (.int .u8 b1)) (c2 : w.cell? ⟨x.block, x.off + 2, none⟩ = some (.int .u8 b2)) :
    Calls Tryd.prog 34 #[.slice (some x) 3 cap] w (RetBox (-1, -1) w) := by
  go_enter Tryd.func34, Tryd.ntmps34
  go_wp2
  refine wp_loop_rounds 3 ?_
  rw [rounds_succ]
  go_wp2
  rw [rounds_succ]
  go_wp2
  all_goals
    go_ret2
    exact ⟨_, _, rfl, rfl, rfl⟩

set_option maxRecDepth 100000 in
set_option maxHeartbeats 1000000 in
theorem least4_4 (b0 b1 b2 b3 : Int) (h0 : 240 ≤ b0) (h0' : b0 < 248) (h1 : 128 ≤ b1) (h1' : b1 < 192) (h2 : 128 ≤ b2) (h2' : b2 < 192) (h3 : 128 ≤ b3) (h3' : b3 < 192) (x : Addr) (w : World) (cap : Nat) (c0 : w.cell? x = some (.int .u8 b0)) (c1 : w.cell? ⟨x.block, x.off + 1, none⟩ = some (.int .u8 b1)) (c2 : w.cell? ⟨x.block, x.off + 2, none⟩ = some (.int .u8 b2)) (c3 : w.cell? ⟨x.block, x.off + 3, none⟩ = some (.int .u8 b3)) :
    Calls Tryd.prog 34 #[.slice (some x) 4 cap] w (RetBox (boxZ (max (64 * (64 * (64 * (b0 - 240) + b1 - 128) + b2 - 128) + b3 - 128) 65536) (min (64 * (64 * (64 * (b0 - 240) + b1 - 128) + b2 - 128) + b3 - 128) 1114111)) w) := by
  go_enter Tryd.func34, Tryd.ntmps34
  go_wp2
  refine wp_loop_rounds 4 ?_
  rw [rounds_succ]
  go_wp2
  rw [rounds_succ]
  go_wp2
  rw [rounds_succ]
  go_wp2
  rw [rounds_succ]
  go_wp2
  refine wp_loop_rounds 1 ?_
  rw [rounds_succ]
  go_wp2
  all_goals
    go_ret2
    refine ⟨_, _, rfl, ?_, rfl⟩
    unfold boxZ
    split <;> first | rfl | (exfalso; omega)

set_option maxRecDepth 100000 in
set_option maxHeartbeats 1000000 in
theorem least4_4_lo (b0 b1 b2 b3 : Int) (h0 : 240 ≤ b0) (h0' : b0 < 248) (h1 : 128 ≤ b1) (h1' : b1 < 192) (h2 : 128 ≤ b2) (h2' : b2 < 192) (_h3 : 0 ≤ b3) (h3' : b3 < 128) (x : Addr) (w : World) (cap : Nat) (c0 : w.cell? x = some (.int .u8 b0)) (c1 : w.cell? ⟨x.block, x.off + 1, none⟩ = some (.int .u8 b1)) (c2 : w.cell? ⟨x.block, x.off + 2, none⟩ = some (.int .u8 b2)) (c3 : w.cell? ⟨x.block, x.off + 3, none⟩ = some (.int .u8 b3)) :
    Calls Tryd.prog 34 #[.slice (some x) 4 cap] w (RetBox (-1, -1) w) := by
  go_enter Tryd.func34, Tryd.ntmps34
  go_wp2
  refine wp_loop_rounds 4 ?_
  rw [rounds_succ]
  go_wp2
  rw [rounds_succ]
  go_wp2
  rw [rounds_succ]
  go_wp2
  all_goals
    go_ret2
    exact ⟨_, _, rfl, rfl, rfl⟩

set_option maxRecDepth 100000 in
set_option maxHeartbeats 1000000 in
theorem least4_4_hi (b0 b1 b2 b3 : Int) (h0 : 240 ≤ b0) (h0' : b0 < 248) (h1 : 128 ≤ b1) (h1' : b1 < 192) (h2 : 128 ≤ b2) (h2' : b2 < 192) (h3 : 192 ≤ b3) (h3' : b3 < 256) (x : Addr) (w : World) (cap : Nat) (c0 : w.cell? x = some (.int .u8 b0)) (c1 : w.cell? ⟨x.block, x.off + 1, none⟩ = some (.int .u8 b1)) (c2 : w.cell? ⟨x.block, x.off + 2, none⟩ = some (.int .u8 b2)) (c3 : w.cell? ⟨x.block, x.off + 3, none⟩ = some (.int .u8 b3)) :
    Calls Tryd.prog 34 #[.slice (some x) 4 cap] w (RetBox (-1, -1) w) := by
  go_enter Tryd.func34, Tryd.ntmps34
  go_wp2
  refine wp_loop_rounds 4 ?_
  rw [rounds_succ]
  go_wp2
  rw [rounds_succ]
  go_wp2
  rw [rounds_succ]
  go_wp2
  all_goals
    go_ret2
    exact ⟨_, _, rfl, rfl, rfl⟩

set_option maxRecDepth 100000 in
set_option maxHeartbeats 1000000 in
theorem least_none_lo (b0 : Int) (h0 : 0 ≤ b0) (h0' : b0 < 192) (x : Addr) (w : World) (cap : Nat) (c0 : w.cell? x = some (.int .u8 b0)) :
    Calls Tryd.prog 34 #[.slice (some x) 1 cap] w (RetBox (-1, -1) w) := by
  go_enter Tryd.func34, Tryd.ntmps34
  go_wp2
  all_goals
    go_ret2
    exact ⟨_, _, rfl, rfl, rfl⟩

set_option maxRecDepth 100000 in
set_option maxHeartbeats 1000000 in
theorem least_none_hi (b0 : Int) (h0 : 248 ≤ b0) (h0' : b0 < 256) (x : Addr) (w : World) (cap : Nat) (c0 : w.cell? x = some (.int .u8 b0)) :
    Calls Tryd.prog 34 #[.slice (some x) 1 cap] w (RetBox (-1, -1) w) := by
  go_enter Tryd.func34, Tryd.ntmps34
  go_wp2
  all_goals
    go_ret2
    exact ⟨_, _, rfl, rfl, rfl⟩

end Go.Proofs.YtnbafhaajckdcaaDoor
