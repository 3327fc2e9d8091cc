/-
  The steps of package extract: what each of the list's closures does, and how the list is made. (Written by wip/tools/gen_extcode.py.)
-/
import Derived.Test.YtbcmfcddkegcoaaGreatDoorRA
import Derived.Below
import Derived.Deep.RegionWith
import Derived.Lib.Builder
import Derived.Laws.IdiomRangeMap
import Derived.KernelRfl
namespace Go.Proofs.YtbcmfcddkegcoaaGreatDoor
open Go.RowKit Go.Lib

/-- a box of a closure's own, behind the text's struct -/
def Box (w : World) (pg x : Nat) (v : Value) : Prop := pg < x ∧ ∃ T, w.heap[x]? = some (.cells #[v] T (0, 0))
theorem Box.cell {w : World} {pg x : Nat} {v : Value} (h : Box w pg x v) : w.cell? ⟨x, 0, none⟩ = some v := by
  obtain ⟨-, T, h⟩ := h
  rw [Lib.cell_of_heap h]; rfl
theorem Box.lt {w : World} {pg x : Nat} {v : Value} (h : Box w pg x v) : x < w.heap.size := by
  obtain ⟨-, T, h⟩ := h
  exact (Array.getElem?_eq_some_iff.1 h).1
theorem Box.grown {w w' : World} {pg x : Nat} {v : Value} (h : Box w pg x v) (hg : w.grownBy w' (some pg)) : Box w' pg x v := by
  have hl := h.lt
  obtain ⟨h1, T, h⟩ := h
  exact ⟨h1, T, (hg.block x hl (fun e => by injection e with e; omega)).trans h⟩
abbrev ptr (x i : Nat) : Value := .pointer (some ⟨x, i, none⟩)
/-- a step: what it calls, from where, to where -/
def Clo (w : World) (pg : Nat) (F k fr tt : Nat) (v : Value) : Prop :=
  ∃ x y z, v = .func (.func F) #[] #[ptr x 0, ptr y 0, ptr z 0] ∧ Box w pg x (.func (.func k) #[] #[]) ∧ Box w pg y (ptr pg fr) ∧ Box w pg z (ptr pg tt)
theorem Clo.grown {w w' : World} {pg F k fr tt : Nat} {v : Value} (h : Clo w pg F k fr tt v) (hg : w.grownBy w' (some pg)) : Clo w' pg F k fr tt v := by
  obtain ⟨x, y, z, h0, h1, h2, h3⟩ := h
  exact ⟨x, y, z, h0, h1.grown hg, h2.grown hg, h3.grown hg⟩
/-- the text's struct -/
def WorkAt (w : World) (pg : Nat) (c0 c1 c2 c3 : Value) : Prop := w.heap[pg]? = some (.cells #[c0, c1, c2, c3] 36 (0, 0))
theorem WorkAt.cell {w : World} {pg : Nat} {c0 c1 c2 c3 : Value} (h : WorkAt w pg c0 c1 c2 c3) : w.cell? ⟨pg, 0, none⟩ = some c0 ∧ w.cell? ⟨pg, 1, none⟩ = some c1 ∧ w.cell? ⟨pg, 2, none⟩ = some c2 ∧ w.cell? ⟨pg, 3, none⟩ = some c3 := by
  refine ⟨?_, ?_, ?_, ?_⟩ <;> (rw [Lib.cell_of_heap h]; rfl)
theorem WorkAt.lt {w : World} {pg : Nat} {c0 c1 c2 c3 : Value} (h : WorkAt w pg c0 c1 c2 c3) : pg < w.heap.size := (Array.getElem?_eq_some_iff.1 h).1
theorem WorkAt.below {w w' : World} {pg : Nat} {c0 c1 c2 c3 : Value} (h : WorkAt w pg c0 c1 c2 c3) (hb : Below w.heap.size w w') : WorkAt w' pg c0 c1 c2 c3 := (hb.block pg h.lt).trans h
theorem WorkAt.set {w : World} {pg : Nat} {c0 c1 c2 c3 r : Value} (i : Nat) (h : WorkAt w pg c0 c1 c2 c3) : w.grownBy (w.setCell ⟨pg, i, none⟩ r) (some pg) ∧ (w.setCell ⟨pg, i, none⟩ r).heap[pg]? = some (.cells (#[c0, c1, c2, c3].setIfInBounds i r) 36 (0, 0)) :=
  ⟨⟨rfl, rfl, rfl, by simp, fun k _ hk => Below.heap_setCell w ⟨pg, i, none⟩ r _ (fun e => hk (congrArg some e))⟩, Go.heap_setCell_same w pg i _ _ r h⟩

set_option maxRecDepth 100000 in
set_option maxHeartbeats 8000000 in
theorem clo0_any {w : World} {pg x y z : Nat} {c0 c1 c2 c3 : Value} (R : ByteArray) (hp : WorkAt w pg c0 c1 c2 c3) (hx : Box w pg x (.func (.func 23) #[] #[])) (hy : Box w pg y (ptr pg 0)) (hz : Box w pg z (ptr pg 1))
    (hC : Calls Tryz.prog 23 #[c0] w.drew fun e w1 => e = .returned (.string R) ∧ Below w.heap.size w w1) :
    Calls Tryz.prog 45 #[ptr x 0, ptr y 0, ptr z 0] w fun e w' => e = .returned (.tuple #[]) ∧ ∃ w1, Below w.heap.size w w1 ∧ w1.grownBy w' (some pg) ∧ WorkAt w' pg c0 (.string R) c2 c3 := by
  have x0 := hx.cell
  have y0 := hy.cell
  have z0 := hz.cell
  obtain ⟨p0, p1, p2, p3⟩ := hp.cell
  have HS := Lib.hid (fun (u : World) (b : Below w.heap.size w u) (r : Value) => (hp.below b).set (r := r) 1)
  have HQ := Lib.hid (fun (u : World) (b : Below w.heap.size w u) => (hp.below b).cell)
  have HF := Lib.hid (fun (u : World) (b : Below w.heap.size w u) (i : Nat) => Lib.frozen_of_heap (hp.below b) i)
  have HC := Lib.hid hC
  have HZ := Lib.hid (fun (u : World) (b : Below w.heap.size w u) => (b.cell (p := ⟨z, 0, none⟩) hz.lt).trans hz.cell)
  unfold ptr at *
  clear hp hx hy hz hC
  go_enter Tryz.func45, Tryz.ntmps45
  go_wp2
  go_region_with (first | (go_at_call 23; refine HC.out.mono ?_; rintro e w1 ⟨rfl, b1⟩; have z1 := HZ.out w1 b1; obtain ⟨q0, q1, q2, q3⟩ := HQ.out w1 b1; have f1 := HF.out w1 b1 1))
  all_goals (refine bodyPost_end (results_none rfl _ _ _) (by rfl) ?_)
  all_goals (exact ⟨rfl, w1, b1, (HS.out w1 b1 (.string R)).1, (HS.out w1 b1 (.string R)).2⟩)

set_option maxRecDepth 100000 in
set_option maxHeartbeats 8000000 in
theorem clo1_any {w : World} {pg x y z : Nat} {c0 c1 c2 c3 : Value} (R : ByteArray) (hp : WorkAt w pg c0 c1 c2 c3) (hx : Box w pg x (.func (.func 25) #[] #[])) (hy : Box w pg y (ptr pg 1)) (hz : Box w pg z (ptr pg 1))
    (hC : Calls Tryz.prog 25 #[c1] w.drew fun e w1 => e = .returned (.string R) ∧ Below w.heap.size w w1) :
    Calls Tryz.prog 49 #[ptr x 0, ptr y 0, ptr z 0] w fun e w' => e = .returned (.tuple #[]) ∧ ∃ w1, Below w.heap.size w w1 ∧ w1.grownBy w' (some pg) ∧ WorkAt w' pg c0 (.string R) c2 c3 := by
  have x0 := hx.cell
  have y0 := hy.cell
  have z0 := hz.cell
  obtain ⟨p0, p1, p2, p3⟩ := hp.cell
  have HS := Lib.hid (fun (u : World) (b : Below w.heap.size w u) (r : Value) => (hp.below b).set (r := r) 1)
  have HQ := Lib.hid (fun (u : World) (b : Below w.heap.size w u) => (hp.below b).cell)
  have HF := Lib.hid (fun (u : World) (b : Below w.heap.size w u) (i : Nat) => Lib.frozen_of_heap (hp.below b) i)
  have HC := Lib.hid hC
  have HZ := Lib.hid (fun (u : World) (b : Below w.heap.size w u) => (b.cell (p := ⟨z, 0, none⟩) hz.lt).trans hz.cell)
  unfold ptr at *
  clear hp hx hy hz hC
  go_enter Tryz.func49, Tryz.ntmps49
  go_wp2
  go_region_with (first | (go_at_call 25; refine HC.out.mono ?_; rintro e w1 ⟨rfl, b1⟩; have z1 := HZ.out w1 b1; obtain ⟨q0, q1, q2, q3⟩ := HQ.out w1 b1; have f1 := HF.out w1 b1 1))
  all_goals (refine bodyPost_end (results_none rfl _ _ _) (by rfl) ?_)
  all_goals (exact ⟨rfl, w1, b1, (HS.out w1 b1 (.string R)).1, (HS.out w1 b1 (.string R)).2⟩)

set_option maxRecDepth 100000 in
set_option maxHeartbeats 8000000 in
theorem clo2_any {w : World} {pg x y z : Nat} {c0 c1 c2 c3 : Value} (L : List TokP) (hp : WorkAt w pg c0 c1 c2 c3) (hx : Box w pg x (.func (.func 27) #[] #[])) (hy : Box w pg y (ptr pg 1)) (hz : Box w pg z (ptr pg 2))
    (hC : Calls Tryz.prog 27 #[c1] w.drew fun e w1 => ∃ a n c, e = .returned (.slice a n c) ∧ IsBare w1 a n c L ∧ Below w.heap.size w w1) :
    Calls Tryz.prog 50 #[ptr x 0, ptr y 0, ptr z 0] w fun e w' => e = .returned (.tuple #[]) ∧ ∃ w1 a n c, IsBare w1 a n c L ∧ Below w.heap.size w w1 ∧ w1.grownBy w' (some pg) ∧ WorkAt w' pg c0 c1 (.slice a n c) c3 := by
  have x0 := hx.cell
  have y0 := hy.cell
  have z0 := hz.cell
  obtain ⟨p0, p1, p2, p3⟩ := hp.cell
  have HS := Lib.hid (fun (u : World) (b : Below w.heap.size w u) (r : Value) => (hp.below b).set (r := r) 2)
  have HQ := Lib.hid (fun (u : World) (b : Below w.heap.size w u) => (hp.below b).cell)
  have HF := Lib.hid (fun (u : World) (b : Below w.heap.size w u) (i : Nat) => Lib.frozen_of_heap (hp.below b) i)
  have HC := Lib.hid hC
  have HZ := Lib.hid (fun (u : World) (b : Below w.heap.size w u) => (b.cell (p := ⟨z, 0, none⟩) hz.lt).trans hz.cell)
  unfold ptr at *
  clear hp hx hy hz hC
  go_enter Tryz.func50, Tryz.ntmps50
  go_wp2
  go_region_with (first | (go_at_call 27; refine HC.out.mono ?_; rintro e w1 ⟨a, n, c, rfl, hr, b1⟩; have z1 := HZ.out w1 b1; obtain ⟨q0, q1, q2, q3⟩ := HQ.out w1 b1; have f1 := HF.out w1 b1 2))
  all_goals (refine bodyPost_end (results_none rfl _ _ _) (by rfl) ?_)
  all_goals (exact ⟨rfl, w1, a, n, c, hr, b1, (HS.out w1 b1 (.slice a n c)).1, (HS.out w1 b1 (.slice a n c)).2⟩)

set_option maxRecDepth 100000 in
set_option maxHeartbeats 8000000 in
theorem clo3_any {w : World} {pg x y z : Nat} {c0 c1 c2 c3 : Value} (R : ByteArray) (hp : WorkAt w pg c0 c1 c2 c3) (hx : Box w pg x (.func (.func 8) #[] #[])) (hy : Box w pg y (ptr pg 2)) (hz : Box w pg z (ptr pg 3))
    (hC : Calls Tryz.prog 8 #[c2] w.drew fun e w1 => e = .returned (.string R) ∧ Below w.heap.size w w1) :
    Calls Tryz.prog 55 #[ptr x 0, ptr y 0, ptr z 0] w fun e w' => e = .returned (.tuple #[]) ∧ ∃ w1, Below w.heap.size w w1 ∧ w1.grownBy w' (some pg) ∧ WorkAt w' pg c0 c1 c2 (.string R) := by
  have x0 := hx.cell
  have y0 := hy.cell
  have z0 := hz.cell
  obtain ⟨p0, p1, p2, p3⟩ := hp.cell
  have HS := Lib.hid (fun (u : World) (b : Below w.heap.size w u) (r : Value) => (hp.below b).set (r := r) 3)
  have HQ := Lib.hid (fun (u : World) (b : Below w.heap.size w u) => (hp.below b).cell)
  have HF := Lib.hid (fun (u : World) (b : Below w.heap.size w u) (i : Nat) => Lib.frozen_of_heap (hp.below b) i)
  have HC := Lib.hid hC
  have HZ := Lib.hid (fun (u : World) (b : Below w.heap.size w u) => (b.cell (p := ⟨z, 0, none⟩) hz.lt).trans hz.cell)
  unfold ptr at *
  clear hp hx hy hz hC
  go_enter Tryz.func55, Tryz.ntmps55
  go_wp2
  go_region_with (first | (go_at_call 8; refine HC.out.mono ?_; rintro e w1 ⟨rfl, b1⟩; have z1 := HZ.out w1 b1; obtain ⟨q0, q1, q2, q3⟩ := HQ.out w1 b1; have f1 := HF.out w1 b1 3))
  all_goals (refine bodyPost_end (results_none rfl _ _ _) (by rfl) ?_)
  all_goals (exact ⟨rfl, w1, b1, (HS.out w1 b1 (.string R)).1, (HS.out w1 b1 (.string R)).2⟩)

theorem three_box (w : World) (pg : Nat) (hp : pg < w.heap.size) (F k fr tt : Nat) (T0 T1 T2 : TypeId) :
    Clo (((w.alloc (.cells #[ptr pg fr] T0)).alloc (.cells #[.func (.func k) #[] #[]] T1)).alloc (.cells #[ptr pg tt] T2)) pg F k fr tt (.func (.func F) #[] #[ptr (w.heap.size + 1) 0, ptr w.heap.size 0, ptr (w.heap.size + 2) 0]) := by
  refine ⟨_, _, _, rfl, ⟨by omega, T1, ?_⟩, ⟨hp, T0, ?_⟩, by omega, T2, ?_⟩
  · rw [Below.heap_alloc _ _ _ (by simp)]
    have := heap_alloc_new (w.alloc (.cells #[ptr pg fr] T0)) (.cells #[.func (.func k) #[] #[]] T1)
    rwa [World.size_alloc] at this
  · rw [Below.heap_alloc _ _ _ (by simp; omega), Below.heap_alloc _ _ _ (by simp)]
    exact heap_alloc_new w _
  · have := heap_alloc_new ((w.alloc (.cells #[ptr pg fr] T0)).alloc (.cells #[.func (.func k) #[] #[]] T1)) (.cells #[ptr pg tt] T2)
    rwa [World.size_alloc, World.size_alloc] at this

set_option maxRecDepth 100000 in
set_option maxHeartbeats 2000000 in
theorem made0_any (w : World) (pg : Nat) (hp : pg < w.heap.size) :
    Calls Tryz.prog 22 #[ptr pg 0, .func (.func 23) #[] #[], ptr pg 1] w fun e w' => ∃ x y z, e = .returned (.func (.func 45) #[] #[ptr x 0, ptr y 0, ptr z 0]) ∧ Clo w' pg 45 23 0 1 (.func (.func 45) #[] #[ptr x 0, ptr y 0, ptr z 0]) ∧ Below w.heap.size w w' := by
  unfold ptr
  have HP := Lib.hid hp
  clear hp
  go_enter Tryz.func22, Tryz.ntmps22
  go_wp2
  go_ret
  exact ⟨_, _, _, rfl, three_box w pg HP.out _ _ _ _ _ _ _, (((Below.refl _ w).alloc (Nat.le_refl _) _).alloc (by simp) _).alloc (by simp; omega) _⟩

set_option maxRecDepth 100000 in
set_option maxHeartbeats 2000000 in
theorem made1_any (w : World) (pg : Nat) (hp : pg < w.heap.size) :
    Calls Tryz.prog 24 #[ptr pg 1, .func (.func 25) #[] #[], ptr pg 1] w fun e w' => ∃ x y z, e = .returned (.func (.func 49) #[] #[ptr x 0, ptr y 0, ptr z 0]) ∧ Clo w' pg 49 25 1 1 (.func (.func 49) #[] #[ptr x 0, ptr y 0, ptr z 0]) ∧ Below w.heap.size w w' := by
  unfold ptr
  have HP := Lib.hid hp
  clear hp
  go_enter Tryz.func24, Tryz.ntmps24
  go_wp2
  go_ret
  exact ⟨_, _, _, rfl, three_box w pg HP.out _ _ _ _ _ _ _, (((Below.refl _ w).alloc (Nat.le_refl _) _).alloc (by simp) _).alloc (by simp; omega) _⟩

set_option maxRecDepth 100000 in
set_option maxHeartbeats 2000000 in
theorem made2_any (w : World) (pg : Nat) (hp : pg < w.heap.size) :
    Calls Tryz.prog 26 #[ptr pg 1, .func (.func 27) #[] #[], ptr pg 2] w fun e w' => ∃ x y z, e = .returned (.func (.func 50) #[] #[ptr x 0, ptr y 0, ptr z 0]) ∧ Clo w' pg 50 27 1 2 (.func (.func 50) #[] #[ptr x 0, ptr y 0, ptr z 0]) ∧ Below w.heap.size w w' := by
  unfold ptr
  have HP := Lib.hid hp
  clear hp
  go_enter Tryz.func26, Tryz.ntmps26
  go_wp2
  go_ret
  exact ⟨_, _, _, rfl, three_box w pg HP.out _ _ _ _ _ _ _, (((Below.refl _ w).alloc (Nat.le_refl _) _).alloc (by simp) _).alloc (by simp; omega) _⟩

set_option maxRecDepth 100000 in
set_option maxHeartbeats 2000000 in
theorem made3_any (w : World) (pg : Nat) (hp : pg < w.heap.size) :
    Calls Tryz.prog 28 #[ptr pg 2, .func (.func 8) #[] #[], ptr pg 3] w fun e w' => ∃ x y z, e = .returned (.func (.func 55) #[] #[ptr x 0, ptr y 0, ptr z 0]) ∧ Clo w' pg 55 8 2 3 (.func (.func 55) #[] #[ptr x 0, ptr y 0, ptr z 0]) ∧ Below w.heap.size w w' := by
  unfold ptr
  have HP := Lib.hid hp
  clear hp
  go_enter Tryz.func28, Tryz.ntmps28
  go_wp2
  go_ret
  exact ⟨_, _, _, rfl, three_box w pg HP.out _ _ _ _ _ _ _, (((Below.refl _ w).alloc (Nat.le_refl _) _).alloc (by simp) _).alloc (by simp; omega) _⟩

theorem belowGrow {w w' : World} (h : Below w.heap.size w w') (r : Option Nat) : w.grownBy w' r := ⟨h.os, h.tape, h.output, h.size, fun k hk _ => h.block k hk⟩
/-- the list of the steps -/
def StepsAt (w : World) (pg lb : Nat) (f0 f1 f2 f3 : Value) : Prop :=
  pg < lb ∧ (∃ T, w.heap[lb]? = some (.cells #[f0, f1, f2, f3] T (0, 0))) ∧ Clo w pg 45 23 0 1 f0 ∧ Clo w pg 49 25 1 1 f1 ∧ Clo w pg 50 27 1 2 f2 ∧ Clo w pg 55 8 2 3 f3
theorem StepsAt.grown {w w' : World} {pg lb : Nat} {f0 f1 f2 f3 : Value} (h : StepsAt w pg lb f0 f1 f2 f3) (hg : w.grownBy w' (some pg)) : StepsAt w' pg lb f0 f1 f2 f3 := by
  obtain ⟨h0, ⟨T, hT⟩, h1, h2, h3, h4⟩ := h
  exact ⟨h0, ⟨T, (hg.block lb (Array.getElem?_eq_some_iff.1 hT).1 (fun e => by injection e with e; omega)).trans hT⟩, h1.grown hg, h2.grown hg, h3.grown hg, h4.grown hg⟩
set_option maxRecDepth 100000 in
set_option maxHeartbeats 4000000 in
theorem steps_any (w : World) (pg : Nat) (hp : pg < w.heap.size) :
    Calls Tryz.prog 11 #[ptr pg 0] w fun e w' => ∃ lb f0 f1 f2 f3, e = .returned (.slice (some ⟨lb, 0, none⟩) 4 4) ∧ StepsAt w' pg lb f0 f1 f2 f3 ∧ Below w.heap.size w w' := by
  have HP := Lib.hid hp
  have M0 := fun u h => Lib.hid (made0_any u pg h)
  have M1 := fun u h => Lib.hid (made1_any u pg h)
  have M2 := fun u h => Lib.hid (made2_any u pg h)
  have M3 := fun u h => Lib.hid (made3_any u pg h)
  unfold ptr at *
  clear hp
  go_enter Tryz.func11, Tryz.ntmps11
  go_wp2
  go_region_with (first
    | (go_at_call 22; refine (M0 w.drew HP.out).out.mono ?_; rintro e w1 ⟨x0, y0, z0, rfl, k0, b1⟩; have K0 := Lib.hid k0; have B1 := Lib.hid b1; have Q1 := Lib.hid (show Below w.heap.size w w1 ∧ pg < w1.heap.size from ⟨((Below.refl _ _).drew.trans b1), Nat.lt_of_lt_of_le HP.out b1.size⟩); clear k0 b1)
    | (go_at_call 24; refine (M1 _ Q1.out.2).out.mono ?_; rintro e w2 ⟨x1, y1, z1, rfl, k1, b2⟩; have K1 := Lib.hid k1; have B2 := Lib.hid b2; have Q2 := Lib.hid (show Below w.heap.size w w2 ∧ pg < w2.heap.size from ⟨(Q1.out.1.trans (b2.mono Q1.out.1.size)), Nat.lt_of_lt_of_le Q1.out.2 b2.size⟩); clear k1 b2)
    | (go_at_call 26; refine (M2 _ Q2.out.2).out.mono ?_; rintro e w3 ⟨x2, y2, z2, rfl, k2, b3⟩; have K2 := Lib.hid k2; have B3 := Lib.hid b3; have Q3 := Lib.hid (show Below w.heap.size w w3 ∧ pg < w3.heap.size from ⟨(Q2.out.1.trans (b3.mono Q2.out.1.size)), Nat.lt_of_lt_of_le Q2.out.2 b3.size⟩); clear k2 b3)
    | (go_at_call 28; refine (M3 _ Q3.out.2).out.mono ?_; rintro e w4 ⟨x3, y3, z3, rfl, k3, b4⟩; have K3 := Lib.hid k3; have B4 := Lib.hid b4; have Q4 := Lib.hid (show Below w.heap.size w w4 ∧ pg < w4.heap.size from ⟨(Q3.out.1.trans (b4.mono Q3.out.1.size)), Nat.lt_of_lt_of_le Q3.out.2 b4.size⟩); clear k3 b4))
  go_wp2
  go_ret
  have g2 := belowGrow B2.out (some pg)
  have g3 := belowGrow B3.out (some pg)
  have g4 := belowGrow B4.out (some pg)
  have ga := fun f0 f1 f2 f3 T => belowGrow ((Below.refl w4.heap.size w4).alloc (Nat.le_refl _) (.cells #[f0, f1, f2, f3] T)) (some pg)
  exact ⟨_, _, _, _, _, rfl, ⟨Q4.out.2, ⟨_, heap_alloc_new w4 _⟩, (((K0.out.grown g2).grown g3).grown g4).grown (ga _ _ _ _ _), ((K1.out.grown g3).grown g4).grown (ga _ _ _ _ _), (K2.out.grown g4).grown (ga _ _ _ _ _), K3.out.grown (ga _ _ _ _ _)⟩, Q4.out.1.alloc Q4.out.1.size _⟩

end Go.Proofs.YtbcmfcddkegcoaaGreatDoor
