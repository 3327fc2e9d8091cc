/-
  Objects that a call has made for itself, each in blocks of its own: what changes one leaves the others alone.
-/
import Derived.Below
import Derived.ProofKit
import Derived.WalkKit
import Derived.Test.YtappdjhhaohejaaP1
namespace Go.Proofs.Ytappdjhhaohejaa
open Go.RowKit Go.Lib

abbrev Blocks := Nat → Prop
/-- an object: what holds of a world, and which blocks it lies in -/
abbrev Own := World → Blocks → Prop
/-- what an object is hangs on its blocks alone -/
structure Lies (S : Own) : Prop where
  lt : ∀ {w : World} {F : Blocks}, S w F → ∀ k, F k → k < w.heap.size
  same : ∀ {w w' : World} {F : Blocks}, S w F → (∀ k, F k → w'.heap[k]? = w.heap[k]?) → S w' F
/-- what has changed: blocks of F, and new ones; the object lies in F' now -/
structure Moves (F F' : Blocks) (w w' : World) : Prop where
  os : w'.os = w.os
  tape : w'.tape = w.tape
  output : w'.output = w.output
  size : w.heap.size ≤ w'.heap.size
  block : ∀ k, k < w.heap.size → ¬ F k → w'.heap[k]? = w.heap[k]?
  foot : ∀ k, F' k → F k ∨ w.heap.size ≤ k
theorem Moves.refl (F : Blocks) (w : World) : Moves F F w w := ⟨rfl, rfl, rfl, Nat.le_refl _, fun _ _ _ => rfl, fun _ h => .inl h⟩
theorem Moves.of_below (F : Blocks) {w w' : World} (h : Below w.heap.size w w') : Moves F F w w' := ⟨h.os, h.tape, h.output, h.size, fun k hk _ => h.block k hk, fun _ h => .inl h⟩
theorem Moves.of_grown {F : Blocks} {w w' : World} {g : Nat} (h : w.grownBy w' (some g)) (hg : F g) : Moves F F w w' :=
  ⟨h.os, h.tape, h.output, h.size, fun k hk hF => h.block k hk (fun e => hF (by rw [Option.some.inj e]; exact hg)), fun _ h => .inl h⟩
theorem Moves.trans {F F1 F2 : Blocks} {w w1 w2 : World} (h : Moves F F1 w w1) (h1 : Moves F1 F2 w1 w2) : Moves F F2 w w2 :=
  ⟨h1.os.trans h.os, h1.tape.trans h.tape, h1.output.trans h.output, Nat.le_trans h.size h1.size,
    fun k hk hF => (h1.block k (Nat.lt_of_lt_of_le hk h.size) (fun e => (h.foot k e).elim hF (fun e => by omega))).trans (h.block k hk hF),
    fun k hk => (h1.foot k hk).elim (h.foot k) (fun e => .inr (Nat.le_trans h.size e))⟩
theorem Moves.below {F F' : Blocks} {w0 w w' : World} {B : Nat} (h : Moves F F' w w') (hb : Below B w0 w) (hB : B ≤ w.heap.size) (hF : ∀ k, F k → B ≤ k) : Below B w0 w' :=
  hb.trans ⟨h.os, h.tape, h.output, h.size, fun k hk => h.block k (by omega) (fun e => by have := hF k e; omega)⟩
/-- two objects, in blocks of their own each -/
def Sep (S T : Own) : Own := fun w F => ∃ F1 F2, S w F1 ∧ T w F2 ∧ (∀ k, F1 k → ¬ F2 k) ∧ ∀ k, F k ↔ F1 k ∨ F2 k
/-- nothing -/
def Emp : Own := fun _ F => ∀ k, ¬ F k
theorem Lies.emp : Lies Emp := ⟨fun h k hk => absurd hk (h k), fun h _ => h⟩
theorem Lies.sep {S T : Own} (hS : Lies S) (hT : Lies T) : Lies (Sep S T) := by
  refine ⟨?_, ?_⟩
  · rintro w F ⟨F1, F2, h1, h2, -, hF⟩ k hk
    exact ((hF k).1 hk).elim (hS.lt h1 k) (hT.lt h2 k)
  · rintro w w' F ⟨F1, F2, h1, h2, hd, hF⟩ hk
    exact ⟨F1, F2, hS.same h1 (fun k h => hk k ((hF k).2 (.inl h))), hT.same h2 (fun k h => hk k ((hF k).2 (.inr h))), hd, hF⟩
/-- an object that was made since w0 -/
def Made (w0 w : World) (S : Own) : Prop := Below w0.heap.size w0 w ∧ ∃ F, S w F ∧ ∀ k, F k → w0.heap.size ≤ k
theorem Made.bel {w0 w : World} {S : Own} (h : Made w0 w S) : Below w0.heap.size w0 w := h.1
theorem Made.nothing (w : World) : Made w w Emp := ⟨Below.refl _ w, fun _ => False, fun _ h => h, fun _ h => h.elim⟩
theorem Made.none {w0 w : World} (h : Below w0.heap.size w0 w) : Made w0 w Emp := ⟨h, fun _ => False, fun _ h => h, fun _ h => h.elim⟩
theorem Made.below {w0 w w' : World} {S : Own} (h : Made w0 w S) (hL : Lies S) (hb : Below w.heap.size w w') : Made w0 w' S := by
  obtain ⟨h0, F, hS, hF⟩ := h
  exact ⟨h0.trans (hb.mono h0.size), F, hL.same hS (fun k hk => hb.block k (hL.lt hS k hk)), hF⟩
theorem Made.swap {w0 w : World} {S T : Own} (h : Made w0 w (Sep S T)) : Made w0 w (Sep T S) := by
  obtain ⟨h0, F, ⟨F1, F2, h1, h2, hd, hF⟩, hB⟩ := h
  exact ⟨h0, F, ⟨F2, F1, h2, h1, fun k a b => hd k b a, fun k => (hF k).trans Or.comm⟩, hB⟩
/-- the second of three put first -/
theorem Made.turn {w0 w : World} {S T R : Own} (h : Made w0 w (Sep S (Sep T R))) : Made w0 w (Sep T (Sep S R)) := by
  obtain ⟨h0, F, ⟨F1, F2, h1, ⟨F3, F4, h3, h4, hd2, hF2⟩, hd, hF⟩, hB⟩ := h
  refine ⟨h0, F, ⟨F3, fun k => F1 k ∨ F4 k, h3, ⟨F1, F4, h1, h4, fun k a b => hd k a ((hF2 k).2 (.inr b)), fun _ => Iff.rfl⟩, fun k a b => b.elim (fun b => hd k b ((hF2 k).2 (.inl a))) (fun b => hd2 k a b), fun k => ?_⟩, hB⟩
  rw [hF, hF2]
  exact ⟨fun h => h.elim (fun h => .inr (.inl h)) (fun h => h.elim .inl (fun h => .inr (.inr h))), fun h => h.elim (fun h => .inr (.inl h)) (fun h => h.elim .inl (fun h => .inr (.inr h)))⟩
/-! one object said in other words -/
def Imp (S T : Own) : Prop := ∀ w F, S w F → T w F
theorem Imp.turn (S T R : Own) : Imp (Sep S (Sep T R)) (Sep T (Sep S R)) := by
  rintro w F ⟨F1, F2, h1, ⟨F3, F4, h3, h4, hd2, hF2⟩, hd, hF⟩
  refine ⟨F3, fun k => F1 k ∨ F4 k, h3, ⟨F1, F4, h1, h4, fun k a b => hd k a ((hF2 k).2 (.inr b)), fun _ => Iff.rfl⟩, fun k a b => b.elim (fun b => hd k b ((hF2 k).2 (.inl a))) (fun b => hd2 k a b), fun k => ?_⟩
  rw [hF, hF2]
  exact ⟨fun h => h.elim (fun h => .inr (.inl h)) (fun h => h.elim .inl (fun h => .inr (.inr h))), fun h => h.elim (fun h => .inr (.inl h)) (fun h => h.elim .inl (fun h => .inr (.inr h)))⟩
theorem Imp.right {T T' : Own} (S : Own) (h : Imp T T') : Imp (Sep S T) (Sep S T') := by
  rintro w F ⟨F1, F2, h1, h2, hd, hF⟩
  exact ⟨F1, F2, h1, h w F2 h2, hd, hF⟩
theorem Made.imp {w0 w : World} {S T : Own} (h : Made w0 w S) (hi : Imp S T) : Made w0 w T := by
  obtain ⟨h0, F, h1, hB⟩ := h
  exact ⟨h0, F, hi w F h1, hB⟩
/-- the third of four put first, and back -/
theorem Made.third {w0 w : World} {A B C R : Own} (h : Made w0 w (Sep A (Sep B (Sep C R)))) : Made w0 w (Sep C (Sep A (Sep B R))) := (h.imp (Imp.right A (Imp.turn B C R))).imp (Imp.turn A C _)
theorem Made.back {w0 w : World} {A B C R : Own} (h : Made w0 w (Sep C (Sep A (Sep B R)))) : Made w0 w (Sep A (Sep B (Sep C R))) := (h.imp (Imp.turn C A _)).imp (Imp.right A (Imp.turn C B R))
theorem Made.rest {w0 w : World} {S T : Own} (h : Made w0 w (Sep S T)) : Made w0 w T := by
  obtain ⟨h0, F, ⟨F1, F2, h1, h2, hd, hF⟩, hB⟩ := h
  exact ⟨h0, F2, h2, fun k hk => hB k ((hF k).2 (.inr hk))⟩
theorem Made.first {w0 w : World} {S T : Own} (h : Made w0 w (Sep S T)) : ∃ F, S w F ∧ (∀ k, F k → w0.heap.size ≤ k) ∧ ∀ w' S' F', Lies T → S' w' F' → Moves F F' w w' → Made w0 w' (Sep S' T) := by
  obtain ⟨h0, F, ⟨F1, F2, h1, h2, hd, hF⟩, hB⟩ := h
  refine ⟨F1, h1, fun k hk => hB k ((hF k).2 (.inl hk)), fun w' S' F' hT hS' hm => ?_⟩
  have hlt := fun k hk => hT.lt h2 k hk
  refine ⟨hm.below h0 h0.size (fun k hk => hB k ((hF k).2 (.inl hk))), fun k => F' k ∨ F2 k, ⟨F', F2, hS', hT.same h2 (fun k hk => hm.block k (hlt k hk) (fun e => hd k e hk)), fun k a b => (hm.foot k a).elim (fun e => hd k e b) (fun e => by have := hlt k b; omega), fun _ => Iff.rfl⟩, fun k hk => ?_⟩
  rcases hk with hk | hk
  · exact (hm.foot k hk).elim (fun e => hB k ((hF k).2 (.inl e))) (fun e => Nat.le_trans h0.size e)
  · exact hB k ((hF k).2 (.inr hk))
/-- one object more -/
theorem Made.more {w0 w w' : World} {S T : Own} (h : Made w0 w T) (hT : Lies T) (hb : Below w.heap.size w w') {F : Blocks} (hS : S w' F) (hn : ∀ k, F k → w.heap.size ≤ k) : Made w0 w' (Sep S T) := by
  obtain ⟨h0, F2, h2, hF2⟩ := h
  refine ⟨h0.trans (hb.mono h0.size), fun k => F k ∨ F2 k, ⟨F, F2, hS, hT.same h2 (fun k hk => hb.block k (hT.lt h2 k hk)), fun k a b => by have := hn k a; have := hT.lt h2 k b; omega, fun _ => Iff.rfl⟩, fun k hk => ?_⟩
  exact hk.elim (fun e => Nat.le_trans h0.size (hn k e)) (hF2 k)
/-- a call that changes one object changes nothing of the others -/
theorem Made.call {P : Program} {f : Nat} {args : Array Value} {w0 w : World} {S S' T : Own} {Q : Ending → Prop} (h : Made w0 w (Sep S T)) (hT : Lies T)
    (hc : ∀ F, S w F → Calls P f args w fun e w' => Q e ∧ ∃ F', S' w' F' ∧ Moves F F' w w') : Calls P f args w fun e w' => Q e ∧ Made w0 w' (Sep S' T) := by
  obtain ⟨F, hS, -, hk⟩ := h.first
  refine (hc F hS).mono ?_
  rintro e w' ⟨hq, F', hS', hm⟩
  exact ⟨hq, hk w' S' F' hT hS' hm⟩
end Go.Proofs.Ytappdjhhaohejaa
