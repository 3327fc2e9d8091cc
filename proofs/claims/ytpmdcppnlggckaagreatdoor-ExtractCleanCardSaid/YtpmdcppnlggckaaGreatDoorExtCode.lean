/-
  What package extract's Extract answers: the landed package, its closures one behind the other. (Written by wip/tools/gen_extcode.py.)
-/
import Derived.Test.YtpmdcppnlggckaaGreatDoorExtSize
import Derived.Test.YtpmdcppnlggckaaGreatDoorUA
import Derived.Test.YtpmdcppnlggckaaGreatDoorUB
import Derived.Test.YtpmdcppnlggckaaGreatDoorP4
import Derived.Test.YtpmdcppnlggckaaGreatDoorDrvCode
import Derived.Test.YtpmdcppnlggckaaGreatDoorRenCode
import Derived.Test.YtpmdcppnlggckaaGreatDoorQD
import Derived.Test.YtpmdcppnlggckaaGreatDoorP6
namespace Go.Proofs.YtpmdcppnlggckaaGreatDoor
open Go.RowKit Go.Lib

/-- a box of a closure's own, behind the text's struct -/
def Box (w : World) (pg x : Nat) (v : Value) : Prop := pg < x ∧ ∃ T, w.heap[x]? = some (.cells #[v] T (0, 0))
theorem Box.cell {w : World} {pg x : Nat} {v : Value} (h : Box w pg x v) : w.cell? ⟨x, 0, none⟩ = some v := by
  obtain ⟨-, T, h⟩ := h
  rw [Lib.cell_of_heap h]; rfl
theorem Box.lt {w : World} {pg x : Nat} {v : Value} (h : Box w pg x v) : x < w.heap.size := by
  obtain ⟨-, T, h⟩ := h
  exact (Array.getElem?_eq_some_iff.1 h).1
theorem Box.grown {w w' : World} {pg x : Nat} {v : Value} (h : Box w pg x v) (hg : w.grownBy w' (some pg)) : Box w' pg x v := by
  have hl := h.lt
  obtain ⟨h1, T, h⟩ := h
  exact ⟨h1, T, (hg.block x hl (fun e => by injection e with e; omega)).trans h⟩
abbrev ptr (x i : Nat) : Value := .pointer (some ⟨x, i, none⟩)
/-- a step: what it calls, from where, to where -/
def Clo (w : World) (pg : Nat) (F k fr tt : Nat) (v : Value) : Prop :=
  ∃ x y z, v = .func (.func F) #[] #[ptr x 0, ptr y 0, ptr z 0] ∧ Box w pg x (.func (.func k) #[] #[]) ∧ Box w pg y (ptr pg fr) ∧ Box w pg z (ptr pg tt)
theorem Clo.grown {w w' : World} {pg F k fr tt : Nat} {v : Value} (h : Clo w pg F k fr tt v) (hg : w.grownBy w' (some pg)) : Clo w' pg F k fr tt v := by
  obtain ⟨x, y, z, h0, h1, h2, h3⟩ := h
  exact ⟨x, y, z, h0, h1.grown hg, h2.grown hg, h3.grown hg⟩
/-- the text's struct -/
def WorkAt (w : World) (pg : Nat) (c0 c1 c2 c3 : Value) : Prop := w.heap[pg]? = some (.cells #[c0, c1, c2, c3] 35 (0, 0))
theorem WorkAt.cell {w : World} {pg : Nat} {c0 c1 c2 c3 : Value} (h : WorkAt w pg c0 c1 c2 c3) : w.cell? ⟨pg, 0, none⟩ = some c0 ∧ w.cell? ⟨pg, 1, none⟩ = some c1 ∧ w.cell? ⟨pg, 2, none⟩ = some c2 ∧ w.cell? ⟨pg, 3, none⟩ = some c3 := by
  refine ⟨?_, ?_, ?_, ?_⟩ <;> (rw [Lib.cell_of_heap h]; rfl)
theorem WorkAt.lt {w : World} {pg : Nat} {c0 c1 c2 c3 : Value} (h : WorkAt w pg c0 c1 c2 c3) : pg < w.heap.size := (Array.getElem?_eq_some_iff.1 h).1
theorem WorkAt.below {w w' : World} {pg : Nat} {c0 c1 c2 c3 : Value} (h : WorkAt w pg c0 c1 c2 c3) (hb : Below w.heap.size w w') : WorkAt w' pg c0 c1 c2 c3 := (hb.block pg h.lt).trans h
theorem WorkAt.set {w : World} {pg : Nat} {c0 c1 c2 c3 r : Value} (i : Nat) (h : WorkAt w pg c0 c1 c2 c3) : w.grownBy (w.setCell ⟨pg, i, none⟩ r) (some pg) ∧ (w.setCell ⟨pg, i, none⟩ r).heap[pg]? = some (.cells (#[c0, c1, c2, c3].setIfInBounds i r) 35 (0, 0)) :=
  ⟨⟨rfl, rfl, rfl, by simp, fun k _ hk => Below.heap_setCell w ⟨pg, i, none⟩ r _ (fun e => hk (congrArg some e))⟩, Go.heap_setCell_same w pg i _ _ r h⟩

set_option maxRecDepth 100000 in
set_option maxHeartbeats 8000000 in
theorem clo0_any {w : World} {pg x y z : Nat} {c0 c1 c2 c3 : Value} (R : ByteArray) (hp : WorkAt w pg c0 c1 c2 c3) (hx : Box w pg x (.func (.func 21) #[] #[])) (hy : Box w pg y (ptr pg 0)) (hz : Box w pg z (ptr pg 1))
    (hC : Calls Tryz.prog 21 #[c0] w.drew fun e w1 => e = .returned (.string R) ∧ Below w.heap.size w w1) :
    Calls Tryz.prog 40 #[ptr x 0, ptr y 0, ptr z 0] w fun e w' => e = .returned (.tuple #[]) ∧ ∃ w1, Below w.heap.size w w1 ∧ w1.grownBy w' (some pg) ∧ WorkAt w' pg c0 (.string R) c2 c3 := by
  have x0 := hx.cell
  have y0 := hy.cell
  have z0 := hz.cell
  obtain ⟨p0, p1, p2, p3⟩ := hp.cell
  have HS := Lib.hid (fun (u : World) (b : Below w.heap.size w u) (r : Value) => (hp.below b).set (r := r) 1)
  have HQ := Lib.hid (fun (u : World) (b : Below w.heap.size w u) => (hp.below b).cell)
  have HF := Lib.hid (fun (u : World) (b : Below w.heap.size w u) (i : Nat) => Lib.frozen_of_heap (hp.below b) i)
  have HC := Lib.hid hC
  have HZ := Lib.hid (fun (u : World) (b : Below w.heap.size w u) => (b.cell (p := ⟨z, 0, none⟩) hz.lt).trans hz.cell)
  unfold ptr at *
  clear hp hx hy hz hC
  go_enter Tryz.func40, Tryz.ntmps40
  go_wp2
  go_region_with (first | (go_at_call 21; refine HC.out.mono ?_; rintro e w1 ⟨rfl, b1⟩; have z1 := HZ.out w1 b1; obtain ⟨q0, q1, q2, q3⟩ := HQ.out w1 b1; have f1 := HF.out w1 b1 1))
  all_goals (refine bodyPost_end (results_none rfl _ _ _) (by rfl) ?_)
  all_goals (exact ⟨rfl, w1, b1, (HS.out w1 b1 (.string R)).1, (HS.out w1 b1 (.string R)).2⟩)

set_option maxRecDepth 100000 in
set_option maxHeartbeats 8000000 in
theorem clo1_any {w : World} {pg x y z : Nat} {c0 c1 c2 c3 : Value} (R : ByteArray) (hp : WorkAt w pg c0 c1 c2 c3) (hx : Box w pg x (.func (.func 23) #[] #[])) (hy : Box w pg y (ptr pg 1)) (hz : Box w pg z (ptr pg 1))
    (hC : Calls Tryz.prog 23 #[c1] w.drew fun e w1 => e = .returned (.string R) ∧ Below w.heap.size w w1) :
    Calls Tryz.prog 47 #[ptr x 0, ptr y 0, ptr z 0] w fun e w' => e = .returned (.tuple #[]) ∧ ∃ w1, Below w.heap.size w w1 ∧ w1.grownBy w' (some pg) ∧ WorkAt w' pg c0 (.string R) c2 c3 := by
  have x0 := hx.cell
  have y0 := hy.cell
  have z0 := hz.cell
  obtain ⟨p0, p1, p2, p3⟩ := hp.cell
  have HS := Lib.hid (fun (u : World) (b : Below w.heap.size w u) (r : Value) => (hp.below b).set (r := r) 1)
  have HQ := Lib.hid (fun (u : World) (b : Below w.heap.size w u) => (hp.below b).cell)
  have HF := Lib.hid (fun (u : World) (b : Below w.heap.size w u) (i : Nat) => Lib.frozen_of_heap (hp.below b) i)
  have HC := Lib.hid hC
  have HZ := Lib.hid (fun (u : World) (b : Below w.heap.size w u) => (b.cell (p := ⟨z, 0, none⟩) hz.lt).trans hz.cell)
  unfold ptr at *
  clear hp hx hy hz hC
  go_enter Tryz.func47, Tryz.ntmps47
  go_wp2
  go_region_with (first | (go_at_call 23; refine HC.out.mono ?_; rintro e w1 ⟨rfl, b1⟩; have z1 := HZ.out w1 b1; obtain ⟨q0, q1, q2, q3⟩ := HQ.out w1 b1; have f1 := HF.out w1 b1 1))
  all_goals (refine bodyPost_end (results_none rfl _ _ _) (by rfl) ?_)
  all_goals (exact ⟨rfl, w1, b1, (HS.out w1 b1 (.string R)).1, (HS.out w1 b1 (.string R)).2⟩)

set_option maxRecDepth 100000 in
set_option maxHeartbeats 8000000 in
theorem clo2_any {w : World} {pg x y z : Nat} {c0 c1 c2 c3 : Value} (L : List TokP) (hp : WorkAt w pg c0 c1 c2 c3) (hx : Box w pg x (.func (.func 25) #[] #[])) (hy : Box w pg y (ptr pg 1)) (hz : Box w pg z (ptr pg 2))
    (hC : Calls Tryz.prog 25 #[c1] w.drew fun e w1 => ∃ a n c, e = .returned (.slice a n c) ∧ IsBare w1 a n c L ∧ Below w.heap.size w w1) :
    Calls Tryz.prog 49 #[ptr x 0, ptr y 0, ptr z 0] w fun e w' => e = .returned (.tuple #[]) ∧ ∃ w1 a n c, IsBare w1 a n c L ∧ Below w.heap.size w w1 ∧ w1.grownBy w' (some pg) ∧ WorkAt w' pg c0 c1 (.slice a n c) c3 := by
  have x0 := hx.cell
  have y0 := hy.cell
  have z0 := hz.cell
  obtain ⟨p0, p1, p2, p3⟩ := hp.cell
  have HS := Lib.hid (fun (u : World) (b : Below w.heap.size w u) (r : Value) => (hp.below b).set (r := r) 2)
  have HQ := Lib.hid (fun (u : World) (b : Below w.heap.size w u) => (hp.below b).cell)
  have HF := Lib.hid (fun (u : World) (b : Below w.heap.size w u) (i : Nat) => Lib.frozen_of_heap (hp.below b) i)
  have HC := Lib.hid hC
  have HZ := Lib.hid (fun (u : World) (b : Below w.heap.size w u) => (b.cell (p := ⟨z, 0, none⟩) hz.lt).trans hz.cell)
  unfold ptr at *
  clear hp hx hy hz hC
  go_enter Tryz.func49, Tryz.ntmps49
  go_wp2
  go_region_with (first | (go_at_call 25; refine HC.out.mono ?_; rintro e w1 ⟨a, n, c, rfl, hr, b1⟩; have z1 := HZ.out w1 b1; obtain ⟨q0, q1, q2, q3⟩ := HQ.out w1 b1; have f1 := HF.out w1 b1 2))
  all_goals (refine bodyPost_end (results_none rfl _ _ _) (by rfl) ?_)
  all_goals (exact ⟨rfl, w1, a, n, c, hr, b1, (HS.out w1 b1 (.slice a n c)).1, (HS.out w1 b1 (.slice a n c)).2⟩)

set_option maxRecDepth 100000 in
set_option maxHeartbeats 8000000 in
theorem clo3_any {w : World} {pg x y z : Nat} {c0 c1 c2 c3 : Value} (R : ByteArray) (hp : WorkAt w pg c0 c1 c2 c3) (hx : Box w pg x (.func (.func 27) #[] #[])) (hy : Box w pg y (ptr pg 2)) (hz : Box w pg z (ptr pg 3))
    (hC : Calls Tryz.prog 27 #[c2] w.drew fun e w1 => e = .returned (.string R) ∧ Below w.heap.size w w1) :
    Calls Tryz.prog 54 #[ptr x 0, ptr y 0, ptr z 0] w fun e w' => e = .returned (.tuple #[]) ∧ ∃ w1, Below w.heap.size w w1 ∧ w1.grownBy w' (some pg) ∧ WorkAt w' pg c0 c1 c2 (.string R) := by
  have x0 := hx.cell
  have y0 := hy.cell
  have z0 := hz.cell
  obtain ⟨p0, p1, p2, p3⟩ := hp.cell
  have HS := Lib.hid (fun (u : World) (b : Below w.heap.size w u) (r : Value) => (hp.below b).set (r := r) 3)
  have HQ := Lib.hid (fun (u : World) (b : Below w.heap.size w u) => (hp.below b).cell)
  have HF := Lib.hid (fun (u : World) (b : Below w.heap.size w u) (i : Nat) => Lib.frozen_of_heap (hp.below b) i)
  have HC := Lib.hid hC
  have HZ := Lib.hid (fun (u : World) (b : Below w.heap.size w u) => (b.cell (p := ⟨z, 0, none⟩) hz.lt).trans hz.cell)
  unfold ptr at *
  clear hp hx hy hz hC
  go_enter Tryz.func54, Tryz.ntmps54
  go_wp2
  go_region_with (first | (go_at_call 27; refine HC.out.mono ?_; rintro e w1 ⟨rfl, b1⟩; have z1 := HZ.out w1 b1; obtain ⟨q0, q1, q2, q3⟩ := HQ.out w1 b1; have f1 := HF.out w1 b1 3))
  all_goals (refine bodyPost_end (results_none rfl _ _ _) (by rfl) ?_)
  all_goals (exact ⟨rfl, w1, b1, (HS.out w1 b1 (.string R)).1, (HS.out w1 b1 (.string R)).2⟩)

theorem three_box (w : World) (pg : Nat) (hp : pg < w.heap.size) (F k fr tt : Nat) (T0 T1 T2 : TypeId) :
    Clo (((w.alloc (.cells #[ptr pg fr] T0)).alloc (.cells #[.func (.func k) #[] #[]] T1)).alloc (.cells #[ptr pg tt] T2)) pg F k fr tt (.func (.func F) #[] #[ptr (w.heap.size + 1) 0, ptr w.heap.size 0, ptr (w.heap.size + 2) 0]) := by
  refine ⟨_, _, _, rfl, ⟨by omega, T1, ?_⟩, ⟨hp, T0, ?_⟩, by omega, T2, ?_⟩
  · rw [Below.heap_alloc _ _ _ (by simp)]
    have := heap_alloc_new (w.alloc (.cells #[ptr pg fr] T0)) (.cells #[.func (.func k) #[] #[]] T1)
    rwa [World.size_alloc] at this
  · rw [Below.heap_alloc _ _ _ (by simp; omega), Below.heap_alloc _ _ _ (by simp)]
    exact heap_alloc_new w _
  · have := heap_alloc_new ((w.alloc (.cells #[ptr pg fr] T0)).alloc (.cells #[.func (.func k) #[] #[]] T1)) (.cells #[ptr pg tt] T2)
    rwa [World.size_alloc, World.size_alloc] at this

set_option maxRecDepth 100000 in
set_option maxHeartbeats 2000000 in
theorem made0_any (w : World) (pg : Nat) (hp : pg < w.heap.size) :
    Calls Tryz.prog 20 #[ptr pg 0, .func (.func 21) #[] #[], ptr pg 1] w fun e w' => ∃ x y z, e = .returned (.func (.func 40) #[] #[ptr x 0, ptr y 0, ptr z 0]) ∧ Clo w' pg 40 21 0 1 (.func (.func 40) #[] #[ptr x 0, ptr y 0, ptr z 0]) ∧ Below w.heap.size w w' := by
  unfold ptr
  have HP := Lib.hid hp
  clear hp
  go_enter Tryz.func20, Tryz.ntmps20
  go_wp2
  go_ret
  exact ⟨_, _, _, rfl, three_box w pg HP.out _ _ _ _ _ _ _, (((Below.refl _ w).alloc (Nat.le_refl _) _).alloc (by simp) _).alloc (by simp; omega) _⟩

set_option maxRecDepth 100000 in
set_option maxHeartbeats 2000000 in
theorem made1_any (w : World) (pg : Nat) (hp : pg < w.heap.size) :
    Calls Tryz.prog 22 #[ptr pg 1, .func (.func 23) #[] #[], ptr pg 1] w fun e w' => ∃ x y z, e = .returned (.func (.func 47) #[] #[ptr x 0, ptr y 0, ptr z 0]) ∧ Clo w' pg 47 23 1 1 (.func (.func 47) #[] #[ptr x 0, ptr y 0, ptr z 0]) ∧ Below w.heap.size w w' := by
  unfold ptr
  have HP := Lib.hid hp
  clear hp
  go_enter Tryz.func22, Tryz.ntmps22
  go_wp2
  go_ret
  exact ⟨_, _, _, rfl, three_box w pg HP.out _ _ _ _ _ _ _, (((Below.refl _ w).alloc (Nat.le_refl _) _).alloc (by simp) _).alloc (by simp; omega) _⟩

set_option maxRecDepth 100000 in
set_option maxHeartbeats 2000000 in
theorem made2_any (w : World) (pg : Nat) (hp : pg < w.heap.size) :
    Calls Tryz.prog 24 #[ptr pg 1, .func (.func 25) #[] #[], ptr pg 2] w fun e w' => ∃ x y z, e = .returned (.func (.func 49) #[] #[ptr x 0, ptr y 0, ptr z 0]) ∧ Clo w' pg 49 25 1 2 (.func (.func 49) #[] #[ptr x 0, ptr y 0, ptr z 0]) ∧ Below w.heap.size w w' := by
  unfold ptr
  have HP := Lib.hid hp
  clear hp
  go_enter Tryz.func24, Tryz.ntmps24
  go_wp2
  go_ret
  exact ⟨_, _, _, rfl, three_box w pg HP.out _ _ _ _ _ _ _, (((Below.refl _ w).alloc (Nat.le_refl _) _).alloc (by simp) _).alloc (by simp; omega) _⟩

set_option maxRecDepth 100000 in
set_option maxHeartbeats 2000000 in
theorem made3_any (w : World) (pg : Nat) (hp : pg < w.heap.size) :
    Calls Tryz.prog 26 #[ptr pg 2, .func (.func 27) #[] #[], ptr pg 3] w fun e w' => ∃ x y z, e = .returned (.func (.func 54) #[] #[ptr x 0, ptr y 0, ptr z 0]) ∧ Clo w' pg 54 27 2 3 (.func (.func 54) #[] #[ptr x 0, ptr y 0, ptr z 0]) ∧ Below w.heap.size w w' := by
  unfold ptr
  have HP := Lib.hid hp
  clear hp
  go_enter Tryz.func26, Tryz.ntmps26
  go_wp2
  go_ret
  exact ⟨_, _, _, rfl, three_box w pg HP.out _ _ _ _ _ _ _, (((Below.refl _ w).alloc (Nat.le_refl _) _).alloc (by simp) _).alloc (by simp; omega) _⟩

theorem belowGrow {w w' : World} (h : Below w.heap.size w w') (r : Option Nat) : w.grownBy w' r := ⟨h.os, h.tape, h.output, h.size, fun k hk _ => h.block k hk⟩
/-- the list of the steps -/
def StepsAt (w : World) (pg lb : Nat) (f0 f1 f2 f3 : Value) : Prop :=
  pg < lb ∧ (∃ T, w.heap[lb]? = some (.cells #[f0, f1, f2, f3] T (0, 0))) ∧ Clo w pg 40 21 0 1 f0 ∧ Clo w pg 47 23 1 1 f1 ∧ Clo w pg 49 25 1 2 f2 ∧ Clo w pg 54 27 2 3 f3
theorem StepsAt.grown {w w' : World} {pg lb : Nat} {f0 f1 f2 f3 : Value} (h : StepsAt w pg lb f0 f1 f2 f3) (hg : w.grownBy w' (some pg)) : StepsAt w' pg lb f0 f1 f2 f3 := by
  obtain ⟨h0, ⟨T, hT⟩, h1, h2, h3, h4⟩ := h
  exact ⟨h0, ⟨T, (hg.block lb (Array.getElem?_eq_some_iff.1 hT).1 (fun e => by injection e with e; omega)).trans hT⟩, h1.grown hg, h2.grown hg, h3.grown hg, h4.grown hg⟩
set_option maxRecDepth 100000 in
set_option maxHeartbeats 4000000 in
theorem steps_any (w : World) (pg : Nat) (hp : pg < w.heap.size) :
    Calls Tryz.prog 14 #[ptr pg 0] w fun e w' => ∃ lb f0 f1 f2 f3, e = .returned (.slice (some ⟨lb, 0, none⟩) 4 4) ∧ StepsAt w' pg lb f0 f1 f2 f3 ∧ Below w.heap.size w w' := by
  have HP := Lib.hid hp
  have M0 := fun u h => Lib.hid (made0_any u pg h)
  have M1 := fun u h => Lib.hid (made1_any u pg h)
  have M2 := fun u h => Lib.hid (made2_any u pg h)
  have M3 := fun u h => Lib.hid (made3_any u pg h)
  unfold ptr at *
  clear hp
  go_enter Tryz.func14, Tryz.ntmps14
  go_wp2
  go_region_with (first
    | (go_at_call 20; refine (M0 w.drew HP.out).out.mono ?_; rintro e w1 ⟨x0, y0, z0, rfl, k0, b1⟩; have K0 := Lib.hid k0; have B1 := Lib.hid b1; have Q1 := Lib.hid (show Below w.heap.size w w1 ∧ pg < w1.heap.size from ⟨((Below.refl _ _).drew.trans b1), Nat.lt_of_lt_of_le HP.out b1.size⟩); clear k0 b1)
    | (go_at_call 22; refine (M1 _ Q1.out.2).out.mono ?_; rintro e w2 ⟨x1, y1, z1, rfl, k1, b2⟩; have K1 := Lib.hid k1; have B2 := Lib.hid b2; have Q2 := Lib.hid (show Below w.heap.size w w2 ∧ pg < w2.heap.size from ⟨(Q1.out.1.trans (b2.mono Q1.out.1.size)), Nat.lt_of_lt_of_le Q1.out.2 b2.size⟩); clear k1 b2)
    | (go_at_call 24; refine (M2 _ Q2.out.2).out.mono ?_; rintro e w3 ⟨x2, y2, z2, rfl, k2, b3⟩; have K2 := Lib.hid k2; have B3 := Lib.hid b3; have Q3 := Lib.hid (show Below w.heap.size w w3 ∧ pg < w3.heap.size from ⟨(Q2.out.1.trans (b3.mono Q2.out.1.size)), Nat.lt_of_lt_of_le Q2.out.2 b3.size⟩); clear k2 b3)
    | (go_at_call 26; refine (M3 _ Q3.out.2).out.mono ?_; rintro e w4 ⟨x3, y3, z3, rfl, k3, b4⟩; have K3 := Lib.hid k3; have B4 := Lib.hid b4; have Q4 := Lib.hid (show Below w.heap.size w w4 ∧ pg < w4.heap.size from ⟨(Q3.out.1.trans (b4.mono Q3.out.1.size)), Nat.lt_of_lt_of_le Q3.out.2 b4.size⟩); clear k3 b4))
  go_wp2
  go_ret
  have g2 := belowGrow B2.out (some pg)
  have g3 := belowGrow B3.out (some pg)
  have g4 := belowGrow B4.out (some pg)
  have ga := fun f0 f1 f2 f3 T => belowGrow ((Below.refl w4.heap.size w4).alloc (Nat.le_refl _) (.cells #[f0, f1, f2, f3] T)) (some pg)
  exact ⟨_, _, _, _, _, rfl, ⟨Q4.out.2, ⟨_, heap_alloc_new w4 _⟩, (((K0.out.grown g2).grown g3).grown g4).grown (ga _ _ _ _ _), ((K1.out.grown g3).grown g4).grown (ga _ _ _ _ _), (K2.out.grown g4).grown (ga _ _ _ _ _), K3.out.grown (ga _ _ _ _ _)⟩, Q4.out.1.alloc Q4.out.1.size _⟩

theorem add_block (x : Addr) (n : Nat) : (x.add n).block = x.block := by unfold Addr.add; split <;> rfl
theorem IsBare.set {w w' : World} {a a0 a1 : Option Addr} {len cap l0 k0 l1 k1 pg : Nat} {L : List TokP} {D E : ByteArray} (h : IsBare w a len cap L) (hW : WorkAt w pg (.slice a0 l0 k0) (.string D) (.slice a1 l1 k1) (.string E)) (hg : w.grownBy w' (some pg)) : IsBare w' a len cap L :=
  ⟨h.1, h.2.1, h.2.2.1, fun i hi => by
    obtain ⟨x, ad, ln, cp, h1, h2⟩ := h.2.2.2 i hi
    have hne : x.block ≠ pg := fun e => by
      have h0 := h2.c0
      unfold World.cell? at h0
      rw [add_block, e, hW] at h0
      simp only at h0
      split at h0
      · cases h0
      · obtain ⟨k, hk⟩ : ∃ k, (x.add (i * 5)).off = k := ⟨_, rfl⟩
        rw [hk] at h0
        match k, h0 with
        | 0, h0 => cases h0
        | 1, h0 => cases h0
        | 2, h0 => cases h0
        | 3, h0 => cases h0
        | k + 4, h0 => simp at h0
    have hb : ∀ n, some (x.add n).block ≠ some pg := fun n e => by rw [add_block] at e; exact hne (by injection e)
    exact ⟨x, ad, ln, cp, h1, hg.cell h2.c0 (hb _), hg.cell h2.c1 (hb _), hg.cell h2.c2 (hb _), hg.cell h2.c3 (hb _), hg.cell h2.c4 (hb _)⟩⟩

/-- behind i steps -/
def ExtAt (u : World) (pg : Nat) (v : Value) (D S Z : ByteArray) (L : List TokP) (i : Nat) : Prop :=
  (i = 0 ∧ WorkAt u pg v (.string ⟨#[]⟩) (.slice none 0 0) (.string ⟨#[]⟩)) ∨ (i = 1 ∧ WorkAt u pg v (.string D) (.slice none 0 0) (.string ⟨#[]⟩)) ∨ (i = 2 ∧ WorkAt u pg v (.string S) (.slice none 0 0) (.string ⟨#[]⟩)) ∨
    (i = 3 ∧ ∃ a n c, IsBare u a n c L ∧ WorkAt u pg v (.string S) (.slice a n c) (.string ⟨#[]⟩)) ∨ (i = 4 ∧ ∃ c2, WorkAt u pg v (.string S) c2 (.string Z))

set_option maxRecDepth 100000 in
set_option maxHeartbeats 8000000 in
/-- P20.1 -/
theorem ext_any (v : Value) (l : Txt) (w : World) (h : IsBytes w v l) (hx : ExtOk l) (hT : LaidAt w) :
    Calls Tryz.prog 10 #[v] w fun e w' => e = .returned (.string ⟨(extL l).toArray⟩) ∧ Below w.heap.size w w' := by
  obtain ⟨z1, z2⟩ := dec_size l
  have z3 := hx.few
  have z4 := hx.text
  have hl := hx.size
  obtain ⟨a0, len0, cap0, rfl⟩ : ∃ a n c, v = .slice a n c := by
    rcases h with ⟨rfl, -⟩ | ⟨g, c, rfl, -⟩
    · exact ⟨_, _, _, rfl⟩
    · exact ⟨_, _, _, rfl⟩
  have H1 := Lib.hid (fun u (b : Below w.heap.size w u) => utfDecode_any (.slice a0 len0 cap0) l u (h.kept b) (by omega))
  obtain ⟨D, hD⟩ : ∃ D : ByteArray, (⟨(dec l).toArray⟩ : ByteArray) = D := ⟨_, rfl⟩
  have dD : D.data.toList = dec l := by rw [← hD, List.toList_toArray]
  have sD : D.size ≤ 300000 := by rw [Lib.size_eq, dD]; omega
  have H2 := Lib.hid (fun u => norm_any D u (by omega))
  rw [dD] at H2
  rw [hD] at H1
  obtain ⟨S, hS⟩ : ∃ S : ByteArray, (⟨(normL (dec l)).toArray⟩ : ByteArray) = S := ⟨_, rfl⟩
  have dS : S.data.toList = normL (dec l) := by rw [← hS, List.toList_toArray]
  have sS : S.size ≤ 300000 := by rw [Lib.size_eq, dS]; omega
  rw [hS] at H2
  have H3 := Lib.hid (fun u (b : Below w.heap.size w u) => drvDrive_any S u (by omega) (hT.below b))
  rw [dS] at H3
  obtain ⟨L, hL⟩ : ∃ L, drvL (normL (dec l)) = L := ⟨_, rfl⟩
  rw [hL] at H3 z3 z4
  obtain ⟨T, hT2⟩ : ∃ T, extL l = T := ⟨_, rfl⟩
  have hT3 : renL L = T := by rw [← hL, ← hT2]; rfl
  rw [hT2]
  obtain ⟨Z, hZ⟩ : ∃ Z, (⟨T.toArray⟩ : ByteArray) = Z := ⟨_, rfl⟩
  rw [hZ]
  have H4 := Lib.hid (fun u a n c (h : IsBare u a n c L) => ren_any a n c L u h (by have := h.1; omega) (fun t ht => by have := z4 t ht; omega) (ren_here u))
  rw [hT3, hZ] at H4
  obtain ⟨pg, hpg⟩ : ∃ pg, w.heap.size = pg := ⟨_, rfl⟩
  have HPG := Lib.hid hpg
  obtain ⟨w1, hw1⟩ : ∃ w1, w.alloc (.cells #[.slice a0 len0 cap0, .string ⟨#[]⟩, .slice none 0 0, .string ⟨#[]⟩] 35) = w1 := ⟨_, rfl⟩
  have W1 := Lib.hid (show WorkAt w1 pg (.slice a0 len0 cap0) (.string ⟨#[]⟩) (.slice none 0 0) (.string ⟨#[]⟩) by rw [← hw1, ← hpg]; exact heap_alloc_new w _)
  have B1 := Lib.hid (show Below w.heap.size w w1 by rw [← hw1]; exact (Below.refl _ w).alloc (Nat.le_refl _) _)
  have HW1 := Lib.hid hw1
  have ST := Lib.hid (steps_any w1 pg W1.out.lt)
  unfold ptr at ST
  clear hD dD sD hS dS sS hL hT hT2 hT3 hZ z1 z2 z3 z4 h hl hx hw1 hpg
  go_enter Tryz.func10, Tryz.ntmps10
  go_wp2_with (fail)
  try rw [HW1.out]
  try rw [HPG.out]
  refine ST.out.mono ?_
  rintro e w2 ⟨lb, f0, f1, f2, f3, rfl, hs, b2⟩
  have S2 := Lib.hid hs
  have B2 := Lib.hid (B1.out.trans (b2.mono B1.out.size))
  have E2 := Lib.hid (show ExtAt w2 pg (.slice a0 len0 cap0) D S Z L 0 from .inl ⟨rfl, W1.out.below b2⟩)
  clear hs b2 ST
  go_wp2
  go_loopw [12] (fun v12 wr => ∃ i : Nat, v12 = .int .i64 (i : Int) ∧ i ≤ 4 ∧ Hid (Below w.heap.size w wr) ∧ Hid (StepsAt wr pg lb f0 f1 f2 f3) ∧ Hid (ExtAt wr pg (.slice a0 len0 cap0) D S Z L i)) (fun v _ => 4 - (intOf v).toNat)
  case atStart => exact ⟨0, rfl, by omega, B2, S2, E2⟩
  case round =>
    obtain ⟨i, rfl, hi, HB, HS, HE⟩ := hrel
    clear B2 S2 E2 B1 W1
    obtain ⟨-, ⟨T0, hl⟩, k0, k1, k2, k3⟩ := HS.out
    have HX := Lib.hid (fun u' (g : wr.grownBy u' (some pg)) => show Below w.heap.size w u' from HB.out.grown g HB.out.size (fun k e => by injection e with e; rw [HPG.out]; omega))
    have HG := Lib.hid (fun u' (g : wr.grownBy u' (some pg)) => HS.out.grown g)
    rcases HE.out with ⟨rfl, hW⟩ | ⟨rfl, hW⟩ | ⟨rfl, hW⟩ | ⟨rfl, a, n, c, hR, hW⟩ | ⟨rfl, c2, hW⟩
    · obtain ⟨x, y, z, rfl, hx, hy, hz⟩ := k0
      have y0 : wr.cell? ⟨lb, 0, none⟩ = some (.func (.func 40) #[] #[.pointer (some ⟨x, 0, none⟩), .pointer (some ⟨y, 0, none⟩), .pointer (some ⟨z, 0, none⟩)]) := by rw [Lib.cell_of_heap hl]; rfl
      have HC := Lib.hid ((clo0_any D  hW hx hy hz ((H1.out _ HB.out.drew).mono fun e u h => ⟨h.1, (Below.refl _ wr).drew.trans h.2⟩)).mono fun e u' h => show e = .returned (.tuple #[]) ∧ Below w.heap.size w u' ∧ StepsAt u' pg lb _ _ _ _ ∧ ExtAt u' pg (.slice a0 len0 cap0) D S Z L 1 by
        obtain ⟨rfl, u1, d1, g1, hN⟩ := h
        have g := (belowGrow d1 (some pg)).trans g1
        exact ⟨rfl, HX.out _ g, HG.out _ g, .inr (.inl ⟨rfl, hN⟩)⟩)
      unfold ptr at HC
      clear hx hy hz hW hl k1 k2 k3 HX HG HE HS 
      go_wp2_with (go_at_call 40; refine HC.out.mono ?_; rintro e u' ⟨rfl, b', s', e'⟩; have NB := Lib.hid b'; have NS := Lib.hid s'; have NE := Lib.hid e'; clear b' s' e')
      go_roundw
      case rel => exact ⟨1, by first | rfl | go_num, by omega, NB, NS, NE⟩
      case measure => simp [intOf]
    · obtain ⟨x, y, z, rfl, hx, hy, hz⟩ := k1
      have y0 : wr.cell? ⟨lb, 1, none⟩ = some (.func (.func 47) #[] #[.pointer (some ⟨x, 0, none⟩), .pointer (some ⟨y, 0, none⟩), .pointer (some ⟨z, 0, none⟩)]) := by rw [Lib.cell_of_heap hl]; rfl
      have HC := Lib.hid ((clo1_any S  hW hx hy hz ((H2.out wr.drew).mono fun e u h => ⟨h.1, (Below.refl _ wr).drew.trans h.2⟩)).mono fun e u' h => show e = .returned (.tuple #[]) ∧ Below w.heap.size w u' ∧ StepsAt u' pg lb _ _ _ _ ∧ ExtAt u' pg (.slice a0 len0 cap0) D S Z L 2 by
        obtain ⟨rfl, u1, d1, g1, hN⟩ := h
        have g := (belowGrow d1 (some pg)).trans g1
        exact ⟨rfl, HX.out _ g, HG.out _ g, .inr (.inr (.inl ⟨rfl, hN⟩))⟩)
      unfold ptr at HC
      clear hx hy hz hW hl k0 k2 k3 HX HG HE HS 
      go_wp2_with (go_at_call 47; refine HC.out.mono ?_; rintro e u' ⟨rfl, b', s', e'⟩; have NB := Lib.hid b'; have NS := Lib.hid s'; have NE := Lib.hid e'; clear b' s' e')
      go_roundw
      case rel => exact ⟨2, by first | rfl | go_num, by omega, NB, NS, NE⟩
      case measure => simp [intOf]
    · obtain ⟨x, y, z, rfl, hx, hy, hz⟩ := k2
      have y0 : wr.cell? ⟨lb, 2, none⟩ = some (.func (.func 49) #[] #[.pointer (some ⟨x, 0, none⟩), .pointer (some ⟨y, 0, none⟩), .pointer (some ⟨z, 0, none⟩)]) := by rw [Lib.cell_of_heap hl]; rfl
      have HC := Lib.hid ((clo2_any L  hW hx hy hz ((H3.out _ HB.out.drew).mono fun e u h => by obtain ⟨a, n, c, h1, h2, h3⟩ := h; exact ⟨a, n, c, h1, h2.toks.bare, (Below.refl _ wr).drew.trans h3⟩)).mono fun e u' h => show e = .returned (.tuple #[]) ∧ Below w.heap.size w u' ∧ StepsAt u' pg lb _ _ _ _ ∧ ExtAt u' pg (.slice a0 len0 cap0) D S Z L 3 by
        obtain ⟨rfl, u1, a, n, c, hr, d1, g1, hN⟩ := h
        have g := (belowGrow d1 (some pg)).trans g1
        exact ⟨rfl, HX.out _ g, HG.out _ g, .inr (.inr (.inr (.inl ⟨rfl, a, n, c, hr.set (hW.below d1) g1, hN⟩)))⟩)
      unfold ptr at HC
      clear hx hy hz hW hl k0 k1 k3 HX HG HE HS 
      go_wp2_with (go_at_call 49; refine HC.out.mono ?_; rintro e u' ⟨rfl, b', s', e'⟩; have NB := Lib.hid b'; have NS := Lib.hid s'; have NE := Lib.hid e'; clear b' s' e')
      go_roundw
      case rel => exact ⟨3, by first | rfl | go_num, by omega, NB, NS, NE⟩
      case measure => simp [intOf]
    · obtain ⟨x, y, z, rfl, hx, hy, hz⟩ := k3
      have y0 : wr.cell? ⟨lb, 3, none⟩ = some (.func (.func 54) #[] #[.pointer (some ⟨x, 0, none⟩), .pointer (some ⟨y, 0, none⟩), .pointer (some ⟨z, 0, none⟩)]) := by rw [Lib.cell_of_heap hl]; rfl
      have HC := Lib.hid ((clo3_any Z  hW hx hy hz ((H4.out wr.drew a n c (hR.below (Below.refl wr.heap.size wr).drew (Nat.le_refl _))).mono fun e u h => ⟨h.1, (Below.refl _ wr).drew.trans h.2⟩)).mono fun e u' h => show e = .returned (.tuple #[]) ∧ Below w.heap.size w u' ∧ StepsAt u' pg lb _ _ _ _ ∧ ExtAt u' pg (.slice a0 len0 cap0) D S Z L 4 by
        obtain ⟨rfl, u1, d1, g1, hN⟩ := h
        have g := (belowGrow d1 (some pg)).trans g1
        exact ⟨rfl, HX.out _ g, HG.out _ g, .inr (.inr (.inr (.inr ⟨rfl, _, hN⟩)))⟩)
      unfold ptr at HC
      clear hx hy hz hW hl k0 k1 k2 HX HG HE HS hR
      go_wp2_with (go_at_call 54; refine HC.out.mono ?_; rintro e u' ⟨rfl, b', s', e'⟩; have NB := Lib.hid b'; have NS := Lib.hid s'; have NE := Lib.hid e'; clear b' s' e')
      go_roundw
      case rel => exact ⟨4, by first | rfl | go_num, by omega, NB, NS, NE⟩
      case measure => simp [intOf]
    · have y0 := hW.cell.2.2.2
      clear hW hl k0 k1 k2 k3 HX HG HE HS
      go_wp2
      go_ret
      exact ⟨rfl, HB.out⟩
end Go.Proofs.YtpmdcppnlggckaaGreatDoor
