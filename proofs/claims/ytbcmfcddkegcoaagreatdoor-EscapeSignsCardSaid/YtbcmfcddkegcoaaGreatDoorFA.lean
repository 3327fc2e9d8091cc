/-
  Texts laid together: FloMath, FloAt, FloRef, FloRefB, FloDo, Objs, FloO, FloRow, FloRun, FloCode, StrO.
-/
import Derived.Test.YtbcmfcddkegcoaaGreatDoorP3
import Derived.Test.YtbcmfcddkegcoaaGreatDoorQD
import Derived.Test.YtbcmfcddkegcoaaGreatDoorProg
import Derived.Deep.RegionHeld3
import Derived.KernelRfl
import Derived.StillTailTactics
import Derived.Below
import Derived.ProofKit
import Derived.WalkKit
import Derived.Test.YtbcmfcddkegcoaaGreatDoorP1
import Derived.Deep.AppendSrc
import Derived.Lib.FrozenHead2
import Derived.Lib.UnsafeStr
import Derived.Laws.IdiomCopy
import Derived.Lib.OthersKept
import Derived.OwnWalk
import Derived.Maps.AppendAt
import Derived.BigCall
import Derived.Lib.Hide
import Derived.Lib.Builder
import Derived.Laws.OwnMore
/-! A flow of blanks and lines: plain mathematics. -/
namespace Go.Proofs.YtbcmfcddkegcoaaGreatDoor

/-- what is told, how many lines' ends wait, which blanks -/
structure FloP where
  told : Txt
  ends : Nat
  blanks : Txt
def flo0 : FloP := ⟨[], 0, []⟩
def blkB (c : UInt8) : Bool := c == 9 || c == 10 || c == 12 || c == 13 || c == 32
/-- what is told when a byte that is no blank comes -/
def tellF (f : FloP) (c : UInt8) : Txt := (if f.told = [] then [] else f.told ++ List.replicate f.ends 10 ++ f.blanks) ++ [c]
/-- P18.2: a byte -/
def putB (keep : Bool) (f : FloP) (c : UInt8) : FloP :=
  if c = 0 then f
  else if blkB c = true then
    if keep = true then (if c = 10 ∨ c = 13 then ⟨f.told, f.ends + 1, []⟩ else ⟨f.told, f.ends, f.blanks ++ [c]⟩)
    else if f.ends = 0 ∧ f.blanks = [] then ⟨f.told, 0, [32]⟩ else f
  else ⟨tellF f c, 0, []⟩
def putL (keep : Bool) (f : FloP) (s : Txt) : FloP := s.foldl (putB keep) f
def brkF (n : Int) (f : FloP) : FloP := ⟨f.told, max f.ends (min n 100).toNat, []⟩
def lineF (f : FloP) : FloP := ⟨f.told, f.ends + 1, []⟩
/-- a thing that is done -/
structure ActP where
  kind : Int
  s : Txt
  keep : Bool
  n : Int
theorem putL_cons (keep : Bool) (f : FloP) (c : UInt8) (s : Txt) : putL keep f (c :: s) = putL keep (putB keep f c) s := rfl
theorem putL_app (keep : Bool) (f : FloP) (a b : Txt) : putL keep f (a ++ b) = putL keep (putL keep f a) b := List.foldl_append
/-! what holds of every flow: it is kept by each byte and each act -/
/-- a property that each step keeps -/
structure Keeps (M : FloP → Prop) : Prop where
  byte : ∀ keep f c, M f → M (putB keep f c)
  brk : ∀ n f, M f → M (brkF n f)
  line : ∀ f, M f → M (lineF f)
theorem Keeps.put {M : FloP → Prop} (h : Keeps M) (keep : Bool) : ∀ (s : Txt) (f : FloP), M f → M (putL keep f s)
  | [], _, hf => hf
  | c :: s, f, hf => h.put keep s _ (h.byte keep f c hf)
/-- P18.3: no byte 0, no 13, no blank at an edge; what waits has none of them, and no line's end -/
structure Edged (f : FloP) : Prop where
  told : ∀ c ∈ f.told, c ≠ 0 ∧ c ≠ 13
  first : ∀ c, f.told.head? = some c → blkB c = false
  last : ∀ c, f.told.getLast? = some c → blkB c = false
  blanks : ∀ c ∈ f.blanks, c = 9 ∨ c = 12 ∨ c = 32
theorem blk_is (c : UInt8) : blkB c = true ↔ c = 9 ∨ c = 10 ∨ c = 12 ∨ c = 13 ∨ c = 32 := by
  unfold blkB; simp [or_assoc]
/-! words -/
/-! told again -/
/-- without being kept: one blank, no line's end -/
structure Thin (f : FloP) : Prop where
  blanks : f.blanks = [] ∨ f.blanks = [32]
  ends : f.ends = 0
  only : ∀ c ∈ f.told, blkB c = true → c = 32
  last : ∀ c, f.told.getLast? = some c → blkB c = false
  apart : ∀ i : Nat, f.told[i]? = some (32 : UInt8) → f.told[i + 1]? ≠ some (32 : UInt8)
/-! lines -/
/-! how much there is -/
/-- told, ends and blanks, in all -/
def FloP.size (f : FloP) : Nat := f.told.length + f.ends + f.blanks.length
theorem put_size (keep : Bool) (f : FloP) (c : UInt8) : (putB keep f c).size ≤ f.size + 1 := by
  unfold putB FloP.size
  split
  · omega
  · split
    · split
      · split
        · simp; omega
        · simp; omega
      · split
        · simp; omega
        · omega
    · unfold tellF
      split
      · rename_i h; simp [h]
      · simp; omega
theorem putL_size (keep : Bool) : ∀ (s : Txt) (f : FloP), (putL keep f s).size ≤ f.size + s.length
  | [], f => Nat.le_refl _
  | c :: s, f => by
    have h1 := put_size keep f c
    have h2 := putL_size keep s (putB keep f c)
    rw [putL_cons, List.length_cons]; omega
theorem brk_size (n : Int) (f : FloP) : (brkF n f).size ≤ f.size + 100 := by
  unfold brkF FloP.size; simp; omega
theorem line_size (f : FloP) : (lineF f).size ≤ f.size + 1 := by
  unfold lineF FloP.size; simp; omega
end Go.Proofs.YtbcmfcddkegcoaaGreatDoor

/-! A flow in a block of its own: what is told, how many lines' ends wait, which blanks: laws at the operations (a struct of three cells). -/
namespace Go.Proofs.YtbcmfcddkegcoaaGreatDoor
open Go.RowKit Go.Lib

def floCells (t : ByteArray) (n : Nat) (b : ByteArray) : Array Value := #[.string t, .int .i64 (n : Int), .string b]
def FloAt (T : TypeId) (w : World) (g : Nat) (t : ByteArray) (n : Nat) (b : ByteArray) : Prop := w.heap[g]? = some (.cells (floCells t n b) T (0, 0))
theorem FloAt.lt {T : TypeId} {w : World} {g : Nat} {t : ByteArray} {n : Nat} {b : ByteArray} (h : FloAt T w g t n b) : g < w.heap.size := (Array.getElem?_eq_some_iff.1 h).1
theorem FloAt.kept {T : TypeId} {w w' : World} {g : Nat} {t : ByteArray} {n : Nat} {b : ByteArray} {r : Option Nat} (h : FloAt T w g t n b) (hg : w.grownBy w' r) (hne : some g ≠ r) : FloAt T w' g t n b := (hg.block _ h.lt hne).trans h
theorem FloAt.below {T : TypeId} {w w' : World} {g : Nat} {t : ByteArray} {n : Nat} {b : ByteArray} (h : FloAt T w g t n b) (hb : Below w.heap.size w w') : FloAt T w' g t n b := (hb.block _ h.lt).trans h
section
variable {P : Program} {ops : Array Oper} {rest : List Oper} {o : Oper} {a : Act} {w : World} {Q : Exit → Act → World → Prop}
end
theorem FloAt.set {T : TypeId} {w : World} {g : Nat} {t : ByteArray} {n : Nat} {b : ByteArray} (h : FloAt T w g t n b) (i : Nat) (v : Value) {t' : ByteArray} {n' : Nat} {b' : ByteArray} (hd : (floCells t n b).setIfInBounds i v = floCells t' n' b') :
    FloAt T (w.setCell ⟨g, i, none⟩ v) g t' n' b' ∧ w.grownBy (w.setCell ⟨g, i, none⟩ v) (some g) := by
  refine ⟨?_, rfl, rfl, rfl, by simp, fun k _ hk => ?_⟩
  · unfold FloAt
    rw [← hd]
    exact Go.heap_setCell_same w g i _ T v h
  · exact Below.heap_setCell w ⟨g, i, none⟩ v _ (fun e => hk (congrArg some e))
end Go.Proofs.YtbcmfcddkegcoaaGreatDoor

/-! What the document's flow of layer 18 does: a byte that is put. -/
namespace Go.Proofs.YtbcmfcddkegcoaaGreatDoor
open Go.RowKit Go.Lib

end Go.Proofs.YtbcmfcddkegcoaaGreatDoor

/-! What the document's flow of layer 18 does: a byte of a word behind others; a byte; things that are done. -/
namespace Go.Proofs.YtbcmfcddkegcoaaGreatDoor
open Go.RowKit Go.Lib

end Go.Proofs.YtbcmfcddkegcoaaGreatDoor

/-! What the document's flow of layer 18 does: things that are done. -/
namespace Go.Proofs.YtbcmfcddkegcoaaGreatDoor
open Go.RowKit Go.Lib

end Go.Proofs.YtbcmfcddkegcoaaGreatDoor

/-! Objects that a call has made for itself, each in blocks of its own: what changes one leaves the others alone. -/
namespace Go.Proofs.YtbcmfcddkegcoaaGreatDoor
open Go.RowKit Go.Lib

abbrev Blocks := Nat → Prop
/-- an object: what holds of a world, and which blocks it lies in -/
abbrev Own := World → Blocks → Prop
/-- what an object is hangs on its blocks alone -/
structure Lies (S : Own) : Prop where
  lt : ∀ {w : World} {F : Blocks}, S w F → ∀ k, F k → k < w.heap.size
  same : ∀ {w w' : World} {F : Blocks}, S w F → (∀ k, F k → w'.heap[k]? = w.heap[k]?) → S w' F
/-- what has changed: blocks of F, and new ones; the object lies in F' now -/
structure Moves (F F' : Blocks) (w w' : World) : Prop where
  os : w'.os = w.os
  tape : w'.tape = w.tape
  output : w'.output = w.output
  size : w.heap.size ≤ w'.heap.size
  block : ∀ k, k < w.heap.size → ¬ F k → w'.heap[k]? = w.heap[k]?
  foot : ∀ k, F' k → F k ∨ w.heap.size ≤ k
theorem Moves.refl (F : Blocks) (w : World) : Moves F F w w := ⟨rfl, rfl, rfl, Nat.le_refl _, fun _ _ _ => rfl, fun _ h => .inl h⟩
theorem Moves.of_below (F : Blocks) {w w' : World} (h : Below w.heap.size w w') : Moves F F w w' := ⟨h.os, h.tape, h.output, h.size, fun k hk _ => h.block k hk, fun _ h => .inl h⟩
theorem Moves.of_grown {F : Blocks} {w w' : World} {g : Nat} (h : w.grownBy w' (some g)) (hg : F g) : Moves F F w w' :=
  ⟨h.os, h.tape, h.output, h.size, fun k hk hF => h.block k hk (fun e => hF (by rw [Option.some.inj e]; exact hg)), fun _ h => .inl h⟩
theorem Moves.trans {F F1 F2 : Blocks} {w w1 w2 : World} (h : Moves F F1 w w1) (h1 : Moves F1 F2 w1 w2) : Moves F F2 w w2 :=
  ⟨h1.os.trans h.os, h1.tape.trans h.tape, h1.output.trans h.output, Nat.le_trans h.size h1.size,
    fun k hk hF => (h1.block k (Nat.lt_of_lt_of_le hk h.size) (fun e => (h.foot k e).elim hF (fun e => by omega))).trans (h.block k hk hF),
    fun k hk => (h1.foot k hk).elim (h.foot k) (fun e => .inr (Nat.le_trans h.size e))⟩
theorem Moves.below {F F' : Blocks} {w0 w w' : World} {B : Nat} (h : Moves F F' w w') (hb : Below B w0 w) (hB : B ≤ w.heap.size) (hF : ∀ k, F k → B ≤ k) : Below B w0 w' :=
  hb.trans ⟨h.os, h.tape, h.output, h.size, fun k hk => h.block k (by omega) (fun e => by have := hF k e; omega)⟩
/-- two objects, in blocks of their own each -/
def Sep (S T : Own) : Own := fun w F => ∃ F1 F2, S w F1 ∧ T w F2 ∧ (∀ k, F1 k → ¬ F2 k) ∧ ∀ k, F k ↔ F1 k ∨ F2 k
/-- nothing -/
def Emp : Own := fun _ F => ∀ k, ¬ F k
theorem Lies.emp : Lies Emp := ⟨fun h k hk => absurd hk (h k), fun h _ => h⟩
theorem Lies.sep {S T : Own} (hS : Lies S) (hT : Lies T) : Lies (Sep S T) := by
  refine ⟨?_, ?_⟩
  · rintro w F ⟨F1, F2, h1, h2, -, hF⟩ k hk
    exact ((hF k).1 hk).elim (hS.lt h1 k) (hT.lt h2 k)
  · rintro w w' F ⟨F1, F2, h1, h2, hd, hF⟩ hk
    exact ⟨F1, F2, hS.same h1 (fun k h => hk k ((hF k).2 (.inl h))), hT.same h2 (fun k h => hk k ((hF k).2 (.inr h))), hd, hF⟩
/-- an object that was made since w0 -/
def Made (w0 w : World) (S : Own) : Prop := Below w0.heap.size w0 w ∧ ∃ F, S w F ∧ ∀ k, F k → w0.heap.size ≤ k
theorem Made.bel {w0 w : World} {S : Own} (h : Made w0 w S) : Below w0.heap.size w0 w := h.1
theorem Made.nothing (w : World) : Made w w Emp := ⟨Below.refl _ w, fun _ => False, fun _ h => h, fun _ h => h.elim⟩
theorem Made.none {w0 w : World} (h : Below w0.heap.size w0 w) : Made w0 w Emp := ⟨h, fun _ => False, fun _ h => h, fun _ h => h.elim⟩
theorem Made.below {w0 w w' : World} {S : Own} (h : Made w0 w S) (hL : Lies S) (hb : Below w.heap.size w w') : Made w0 w' S := by
  obtain ⟨h0, F, hS, hF⟩ := h
  exact ⟨h0.trans (hb.mono h0.size), F, hL.same hS (fun k hk => hb.block k (hL.lt hS k hk)), hF⟩
/-- the second of three put first -/
theorem Made.turn {w0 w : World} {S T R : Own} (h : Made w0 w (Sep S (Sep T R))) : Made w0 w (Sep T (Sep S R)) := by
  obtain ⟨h0, F, ⟨F1, F2, h1, ⟨F3, F4, h3, h4, hd2, hF2⟩, hd, hF⟩, hB⟩ := h
  refine ⟨h0, F, ⟨F3, fun k => F1 k ∨ F4 k, h3, ⟨F1, F4, h1, h4, fun k a b => hd k a ((hF2 k).2 (.inr b)), fun _ => Iff.rfl⟩, fun k a b => b.elim (fun b => hd k b ((hF2 k).2 (.inl a))) (fun b => hd2 k a b), fun k => ?_⟩, hB⟩
  rw [hF, hF2]
  exact ⟨fun h => h.elim (fun h => .inr (.inl h)) (fun h => h.elim .inl (fun h => .inr (.inr h))), fun h => h.elim (fun h => .inr (.inl h)) (fun h => h.elim .inl (fun h => .inr (.inr h)))⟩
/-! one object said in other words -/
def Imp (S T : Own) : Prop := ∀ w F, S w F → T w F
theorem Imp.turn (S T R : Own) : Imp (Sep S (Sep T R)) (Sep T (Sep S R)) := by
  rintro w F ⟨F1, F2, h1, ⟨F3, F4, h3, h4, hd2, hF2⟩, hd, hF⟩
  refine ⟨F3, fun k => F1 k ∨ F4 k, h3, ⟨F1, F4, h1, h4, fun k a b => hd k a ((hF2 k).2 (.inr b)), fun _ => Iff.rfl⟩, fun k a b => b.elim (fun b => hd k b ((hF2 k).2 (.inl a))) (fun b => hd2 k a b), fun k => ?_⟩
  rw [hF, hF2]
  exact ⟨fun h => h.elim (fun h => .inr (.inl h)) (fun h => h.elim .inl (fun h => .inr (.inr h))), fun h => h.elim (fun h => .inr (.inl h)) (fun h => h.elim .inl (fun h => .inr (.inr h)))⟩
theorem Imp.right {T T' : Own} (S : Own) (h : Imp T T') : Imp (Sep S T) (Sep S T') := by
  rintro w F ⟨F1, F2, h1, h2, hd, hF⟩
  exact ⟨F1, F2, h1, h w F2 h2, hd, hF⟩
theorem Made.imp {w0 w : World} {S T : Own} (h : Made w0 w S) (hi : Imp S T) : Made w0 w T := by
  obtain ⟨h0, F, h1, hB⟩ := h
  exact ⟨h0, F, hi w F h1, hB⟩
/-- the third of four put first, and back -/
theorem Made.third {w0 w : World} {A B C R : Own} (h : Made w0 w (Sep A (Sep B (Sep C R)))) : Made w0 w (Sep C (Sep A (Sep B R))) := (h.imp (Imp.right A (Imp.turn B C R))).imp (Imp.turn A C _)
theorem Made.back {w0 w : World} {A B C R : Own} (h : Made w0 w (Sep C (Sep A (Sep B R)))) : Made w0 w (Sep A (Sep B (Sep C R))) := (h.imp (Imp.turn C A _)).imp (Imp.right A (Imp.turn C B R))
theorem Made.rest {w0 w : World} {S T : Own} (h : Made w0 w (Sep S T)) : Made w0 w T := by
  obtain ⟨h0, F, ⟨F1, F2, h1, h2, hd, hF⟩, hB⟩ := h
  exact ⟨h0, F2, h2, fun k hk => hB k ((hF k).2 (.inr hk))⟩
theorem Made.first {w0 w : World} {S T : Own} (h : Made w0 w (Sep S T)) : ∃ F, S w F ∧ (∀ k, F k → w0.heap.size ≤ k) ∧ ∀ w' S' F', Lies T → S' w' F' → Moves F F' w w' → Made w0 w' (Sep S' T) := by
  obtain ⟨h0, F, ⟨F1, F2, h1, h2, hd, hF⟩, hB⟩ := h
  refine ⟨F1, h1, fun k hk => hB k ((hF k).2 (.inl hk)), fun w' S' F' hT hS' hm => ?_⟩
  have hlt := fun k hk => hT.lt h2 k hk
  refine ⟨hm.below h0 h0.size (fun k hk => hB k ((hF k).2 (.inl hk))), fun k => F' k ∨ F2 k, ⟨F', F2, hS', hT.same h2 (fun k hk => hm.block k (hlt k hk) (fun e => hd k e hk)), fun k a b => (hm.foot k a).elim (fun e => hd k e b) (fun e => by have := hlt k b; omega), fun _ => Iff.rfl⟩, fun k hk => ?_⟩
  rcases hk with hk | hk
  · exact (hm.foot k hk).elim (fun e => hB k ((hF k).2 (.inl e))) (fun e => Nat.le_trans h0.size e)
  · exact hB k ((hF k).2 (.inr hk))
/-- one object more -/
theorem Made.more {w0 w w' : World} {S T : Own} (h : Made w0 w T) (hT : Lies T) (hb : Below w.heap.size w w') {F : Blocks} (hS : S w' F) (hn : ∀ k, F k → w.heap.size ≤ k) : Made w0 w' (Sep S T) := by
  obtain ⟨h0, F2, h2, hF2⟩ := h
  refine ⟨h0.trans (hb.mono h0.size), fun k => F k ∨ F2 k, ⟨F, F2, hS, hT.same h2 (fun k hk => hb.block k (hT.lt h2 k hk)), fun k a b => by have := hn k a; have := hT.lt h2 k b; omega, fun _ => Iff.rfl⟩, fun k hk => ?_⟩
  exact hk.elim (fun e => Nat.le_trans h0.size (hn k e)) (hF2 k)
/-- a call that changes one object changes nothing of the others -/
theorem Made.call {P : Program} {f : Nat} {args : Array Value} {w0 w : World} {S S' T : Own} {Q : Ending → Prop} (h : Made w0 w (Sep S T)) (hT : Lies T)
    (hc : ∀ F, S w F → Calls P f args w fun e w' => Q e ∧ ∃ F', S' w' F' ∧ Moves F F' w w') : Calls P f args w fun e w' => Q e ∧ Made w0 w' (Sep S' T) := by
  obtain ⟨F, hS, -, hk⟩ := h.first
  refine (hc F hS).mono ?_
  rintro e w' ⟨hq, F', hS', hm⟩
  exact ⟨hq, hk w' S' F' hT hS' hm⟩
end Go.Proofs.YtbcmfcddkegcoaaGreatDoor

/-! The document's flow as an object of its own. -/
namespace Go.Proofs.YtbcmfcddkegcoaaGreatDoor
open Go.RowKit Go.Lib

/-- a block that is only read -/
def CellO (b : Nat) (o : Obj) : Own := fun w F => w.heap[b]? = some o ∧ ∀ k, F k ↔ k = b
theorem cellO_lies (b : Nat) (o : Obj) : Lies (CellO b o) := by
  refine ⟨?_, ?_⟩
  · rintro w F ⟨h, hF⟩ k hk
    rw [(hF k).1 hk]; exact (Array.getElem?_eq_some_iff.1 h).1
  · rintro w w' F ⟨h, hF⟩ hk
    exact ⟨(hk b ((hF b).2 rfl)).trans h, hF⟩
theorem cellO_made {w0 w : World} {R : Own} (h : Made w0 w R) (hR : Lies R) (o : Obj) : Made w0 (w.alloc o) (Sep (CellO w.heap.size o) R) :=
  h.more hR ((Below.refl w.heap.size w).alloc (Nat.le_refl _) _) (S := CellO w.heap.size o) (F := fun k => k = w.heap.size) ⟨heap_alloc_new w _, fun _ => Iff.rfl⟩ (fun k hk => by omega)
theorem cellO_is {w0 w : World} {b : Nat} {o : Obj} {R : Own} (h : Made w0 w (Sep (CellO b o) R)) : w.heap[b]? = some o := by
  obtain ⟨F, hF, -, -⟩ := h.first
  exact hF.1
end Go.Proofs.YtbcmfcddkegcoaaGreatDoor

/-! append, from whatever source, onto a row of bytes of which the head may be frozen (what a Builder's String leaves): where the new row lies. -/
namespace Go.Proofs.YtbcmfcddkegcoaaGreatDoor
open Go.RowKit

/-- the block behind some stores side by side -/
theorem setCells_row (g : Nat) (t : TypeId) (fz : Nat × Nat) : ∀ (vs : List Value) (o : Nat) (cur : Array Value) (w : World), w.heap[g]? = some (.cells cur t fz) → o + vs.length ≤ cur.size →
    (w.setCells g o vs).heap[g]? = some (.cells (cur.toList.take o ++ vs ++ cur.toList.drop (o + vs.length)).toArray t fz)
  | [], o, cur, w, hg, _ => by
    show w.heap[g]? = _
    rw [hg]
    simp only [List.append_nil, List.length_nil, Nat.add_zero, List.take_append_drop, Array.toArray_toList]
  | v :: rest, o, cur, w, hg, hl => by
    simp only [List.length_cons] at hl
    have h1 : (w.setCell ⟨g, o, none⟩ v).heap[g]? = some (.cells (cur.setIfInBounds o v) t fz) := by
      rw [setCell_eq_setRow w g o cur t fz v hg]
      exact setRow_heap w g cur _ t fz hg
    have ih := setCells_row g t fz rest (o + 1) (cur.setIfInBounds o v) (w.setCell ⟨g, o, none⟩ v) h1 (by simp; omega)
    show ((w.setCell ⟨g, o, none⟩ v).setCells g (o + 1) rest).heap[g]? = _
    rw [ih]
    have e := list_seg_step cur.toList o v rest (by simp; omega)
    simp only [Array.toList_setIfInBounds, List.length_cons]
    rw [e]
theorem setCells_else (g : Nat) : ∀ (vs : List Value) (o : Nat) (w : World), w.grownBy (w.setCells g o vs) (some g)
  | [], _, w => World.grownBy.refl w _
  | v :: rest, o, w => by
    have ih := setCells_else g rest (o + 1) (w.setCell ⟨g, o, none⟩ v)
    refine ⟨ih.os, ih.tape, ih.output, ?_, fun k hk hne => ?_⟩
    · have hs : (w.setCell ⟨g, o, none⟩ v).heap.size = w.heap.size := by simp [World.setCell]
      have := ih.size
      rw [hs] at this
      exact this
    · rw [show (w.setCells g o (v :: rest)) = (w.setCell ⟨g, o, none⟩ v).setCells g (o + 1) rest from rfl,
        ih.block k (by simpa [World.setCell] using hk) hne]
      exact heap_setCell_other w ⟨g, o, none⟩ k v (fun e => hne (by rw [e]))
section
variable {P : Program} (w : World)
theorem run_append_H (t tx ty e : TypeId) (i : TypeInfo) (z : Value) (ht : P.underlying t = some (.slice e)) (hi : P.info? e = some i) (hz : i.zero = some z)
    (hsize : i.size = 1) (hby : i.bytes = 1) (hzs : z.cells.size = 1)
    (v : Value) (n : Nat) (xs : List Value) (hown : w.ownsRowF 0 e 1 v n xs) (x : Value) (m : Nat) (news : List Value) (hs : Src P 1 tx x m news w)
    (h63 : n + m ≤ 140737488355328) :
    ∃ v' w', (Builtin.append_ #[t, tx] ty #[v, x]).run P w = .ok v' w' ∧ w'.ownsRowF 0 e 1 v' (n + m) (xs ++ news) ∧ w.grownBy w' v.ownBlock ∧ (v'.ownBlock = v.ownBlock ∨ v'.ownBlock = some w.heap.size) := by
  have hml : n + m ≤ maxLen := by unfold maxLen; omega
  have hsmall : ((n + m : Nat) : Int) ≤ 9223372036854775807 := by omega
  have hlen : (xs ++ news).length = (n + m) * 1 := by rw [List.length_append, hown.1, hs.newsLen, Nat.add_mul]
  have hs' : Src P i.size tx x m news w := by rw [hsize]; exact hs
  rcases hown.2 with ⟨rfl, rfl⟩ | ⟨g, cap, cur, fz, rfl, hbg, hg, hfz, hnc, hcm, hcs, htake⟩
  · have hx0 : xs = [] := List.eq_nil_of_length_eq_zero (by rw [hown.1])
    subst hx0
    by_cases hm : m = 0
    · subst hm
      have hn0 : news = [] := List.eq_nil_of_length_eq_zero (by rw [hs.newsLen])
      subst hn0
      refine ⟨.slice none 0 0, w, ?_, ⟨by simp, .inl ⟨rfl, rfl⟩⟩, World.grownBy.refl w _, .inl rfl⟩
      have hc := hs'.cells
      rcases hs.kind with ⟨e', hk⟩ | hk <;>
        simp [Builtin.append_, run_underlying ht, run_underlying hk, sizeOf, typeInfo, hi, hs.len, hc]
    · have hr := run_append_grow_src (P := P) w t tx ty e i z ht hi hz none 0 0 [] (run_firstCells_none w.drew i.size 0 0 0) x m news hs' (by omega) hsmall (growslice_fits (by omega) (by rw [hby]; omega))
      have hg2 := grownCap_ge w (0 + m) 0 e
      have hm2 : grownCap w (0 + m) 0 e ≤ maxLen := grownCap_le_maxLen w (0 + m) 0 e hml
      refine ⟨_, _, hr, ⟨hlen, .inr ⟨w.heap.size, _, _, (0, 0), rfl, Nat.zero_le _, heap_alloc_new w.drew _, Nat.zero_le _, hg2, hm2, ?_, ?_⟩⟩, ⟨rfl, rfl, rfl, by simp, fun k hk _ => Below.heap_alloc w.drew _ k hk⟩, .inr rfl⟩
      · simp only [Array.size_append, List.size_toArray, size_zeroCells, hzs, hlen]
        omega
      · simp only [Array.toList_append, List.append_assoc]
        rw [← List.append_assoc, ← hlen]
        exact List.take_left
  · by_cases hroom : n + m ≤ cap
    · have hfit : n * i.size + news.length ≤ cur.size := by (rw [hs.newsLen, hcs, hsize]; (try omega))
      have hr := run_append_room_src (P := P) w t tx ty e i ht hi g 0 n cap x m news hs' hroom
        (fun j hj => by
          simp only [World.cell?, hg, Nat.zero_add]
          rw [Array.getElem?_eq_getElem (by omega)]
          rfl)
        (fun j hj => by
          obtain ⟨lo, hi'⟩ := fz
          simp only [World.frozen?, hg, Nat.zero_add, Bool.and_eq_false_iff, decide_eq_false_iff_not]
          simp only at hfz
          rw [hsize]
          omega)
      rw [Nat.zero_add, hsize] at hr
      rw [hsize] at hfit
      have hh := setCells_row g e fz news (n * 1) cur w hg hfit
      refine ⟨_, _, hr, ⟨hlen, .inr ⟨g, cap, _, fz, rfl, hbg, hh, by omega, hroom, hcm, ?_, ?_⟩⟩, setCells_else g news (n * 1) w, .inl rfl⟩
      · simp only [List.size_toArray, List.length_append, List.length_take, List.length_drop, Array.length_toList]
        omega
      · rw [htake, ← hlen]
        exact List.take_left
    · have holds := hown.cells (g := g) rfl
      have hr := run_append_grow_src (P := P) w t tx ty e i z ht hi hz (some ⟨g, 0, none⟩) n cap xs (run_firstCells_some w.drew i.size n ⟨g, 0, none⟩ n cap xs (by rw [hsize]; exact hown.1) (by simpa using holds)) x m news hs' (by omega) hsmall (growslice_fits (by omega) (by rw [hby]; omega))
      have hg2 := grownCap_ge w (n + m) cap e
      have hm2 : grownCap w (n + m) cap e ≤ maxLen := grownCap_le_maxLen w (n + m) cap e hml
      refine ⟨_, _, hr, ⟨hlen, .inr ⟨w.heap.size, _, _, (0, 0), rfl, Nat.zero_le _, heap_alloc_new w.drew _, Nat.zero_le _, hg2, hm2, ?_, ?_⟩⟩, ⟨rfl, rfl, rfl, by simp, fun k hk _ => Below.heap_alloc w.drew _ k hk⟩, .inr rfl⟩
      · simp only [Array.size_append, List.size_toArray, size_zeroCells, hzs, hlen]
        omega
      · simp only [Array.toList_append, List.append_assoc]
        rw [← List.append_assoc, ← hlen]
        exact List.take_left
/-- the same, for the walk -/
theorem wpList_append_H {ops : Array Oper} {rest : List Oper} {o : Oper} {a : Act} {Q : Exit → Act → World → Prop} (hgd : o.guard = none) (sl x : Operand) (t tx : TypeId)
    (ho : o.op = .call { callee := .builtin .append, args := #[sl, x], argTypes := #[t, tx] })
    (e : TypeId) (i : TypeInfo) (z : Value) (ht : P.underlying t = some (.slice e)) (hi : P.info? e = some i) (hz : i.zero = some z)
    (hsize : i.size = 1) (hby : i.bytes = 1) (hzs : z.cells.size = 1)
    (v : Value) (n : Nat) (xs : List Value) (hv : a.eval sl = v) (hown : w.ownsRowF 0 e 1 v n xs) (xv : Value) (m : Nat) (news : List Value) (hx : a.eval x = xv) (hs : Src P 1 tx xv m news w)
    (h63 : n + m ≤ 140737488355328)
    (h : ∀ v' w', w'.ownsRowF 0 e 1 v' (n + m) (xs ++ news) → w.grownBy w' v.ownBlock → (v'.ownBlock = v.ownBlock ∨ v'.ownBlock = some w.heap.size) → wpList P ops Q rest (a.put o.dst v') w') : wpList P ops Q (o :: rest) a w := by
  refine wpList_plain hgd fun K hK => ?_
  obtain ⟨v', w', hr, h2, h3, h4⟩ := run_append_H (P := P) w t tx o.type e i z ht hi hz hsize hby hzs v n xs hown xv m news hs h63
  unfold Oper.wp execOp
  simp only [ho, resolve, invoke, builtin, Sem.run_bind, Sem.run_pure, Result.andThen_ok, List.map_toArray, List.map_cons, List.map_nil, hv, hx, hr]
  exact hK _ _ (h v' w' h2 h3 h4)
end
end Go.Proofs.YtbcmfcddkegcoaaGreatDoor

/-! The program's flow, in blocks of its own: its struct (a Builder, how many lines' ends wait, which blanks), the Builder's row of bytes, the row of blanks: what its methods do. -/
namespace Go.Proofs.YtbcmfcddkegcoaaGreatDoor
open Go.RowKit Go.Lib

theorem sizeBuilderF : (Tryz.prog.info? 53).map (·.size) = some 2 := by kernel_rfl
theorem liesBuilderF : liesAt Tryz.prog Tryz.prog.depth 74 (4 / Tryz.prog.cellsOf 74) 0 53 1 = true := by kernel_rfl
theorem infoByteF : (Tryz.prog.info? 5).map (fun i => (i.zero, i.size, i.bytes)) = some (some (.int .u8 0), 1, 1) := by kernel_rfl
theorem cellsByteF : Tryz.prog.cellsOf 5 = 1 := by kernel_rfl

/-! rows that stand -/
theorem rowF_same {w w' : World} {base : Nat} {e : TypeId} {size : Nat} {v : Value} {n : Nat} {xs : List Value} (h : w.ownsRowF base e size v n xs) (hk : ∀ k, v.ownBlock = some k → w'.heap[k]? = w.heap[k]?) : w'.ownsRowF base e size v n xs := by
  refine ⟨h.1, ?_⟩
  rcases h.2 with hn | ⟨g, cap, cur, fz, rfl, hb, hg, rest⟩
  · exact .inl hn
  · exact .inr ⟨g, cap, cur, fz, rfl, hb, (hk g rfl).trans hg, rest⟩
theorem row_same {w w' : World} {base : Nat} {e : TypeId} {size : Nat} {v : Value} {n : Nat} {xs : List Value} (h : w.ownsRow base e size v n xs) (hk : ∀ k, v.ownBlock = some k → w'.heap[k]? = w.heap[k]?) : w'.ownsRow base e size v n xs := by
  refine ⟨h.1, ?_⟩
  rcases h.2 with hn | ⟨g, cap, cur, rfl, hb, hg, rest⟩
  · exact .inl hn
  · exact .inr ⟨g, cap, cur, rfl, hb, (hk g rfl).trans hg, rest⟩
theorem rowF_lt {w : World} {base : Nat} {e : TypeId} {size : Nat} {v : Value} {n : Nat} {xs : List Value} (h : w.ownsRowF base e size v n xs) (k : Nat) (hk : v.ownBlock = some k) : k < w.heap.size := (h.lt k hk).2
theorem row_lt {w : World} {base : Nat} {e : TypeId} {size : Nat} {v : Value} {n : Nat} {xs : List Value} (h : w.ownsRow base e size v n xs) (k : Nat) (hk : v.ownBlock = some k) : k < w.heap.size := (h.lt k hk).2

/-- the flow's struct at block b, and its two rows -/
structure FloX (w : World) (b : Nat) (p v1 : Value) (n : Nat) (v2 : Value) (t l : Txt) : Prop where
  blk : w.heap[b]? = some (.cells #[p, v1, .int .i64 (n : Int), v2] 74 (0, 0))
  ptr : p = .pointer none ∨ p = .pointer (some ⟨b, 0, none⟩)
  told : w.ownsRowF 0 5 1 v1 t.length (Lib.byteCells t)
  blanks : w.ownsRow 0 5 1 v2 l.length (Lib.byteCells l)
  apart : ∀ k, v1.ownBlock = some k → v2.ownBlock ≠ some k
  bare : t = [] → v1 = .slice none 0 0
/-- the blocks that it lies in -/
def Foot (b : Nat) (v1 v2 : Value) : Blocks := fun k => k = b ∨ v1.ownBlock = some k ∨ v2.ownBlock = some k
/-- the flow as an object -/
def FloO (g : Addr) (f : FloP) : Own := fun w F => ∃ b p v1 v2, g = ⟨b, 0, none⟩ ∧ FloX w b p v1 f.ends v2 f.told f.blanks ∧ ∀ k, F k ↔ Foot b v1 v2 k

section
variable {w w' : World} {b : Nat} {p v1 : Value} {n : Nat} {v2 : Value} {t l : Txt}
theorem FloX.ltb (h : FloX w b p v1 n v2 t l) : b < w.heap.size := (Array.getElem?_eq_some_iff.1 h.blk).1
theorem FloX.ne1 (h : FloX w b p v1 n v2 t l) : v1.ownBlock ≠ some b := Lib.ownBlock_neF h.told h.blk (by decide)
theorem FloX.ne2 (h : FloX w b p v1 n v2 t l) : v2.ownBlock ≠ some b := Lib.ownBlock_ne h.blanks h.blk (by decide)
theorem FloX.lt (h : FloX w b p v1 n v2 t l) : ∀ k, Foot b v1 v2 k → k < w.heap.size := by
  rintro k (rfl | hk | hk)
  · exact h.ltb
  · exact rowF_lt h.told k hk
  · exact row_lt h.blanks k hk
theorem FloX.same (h : FloX w b p v1 n v2 t l) (hk : ∀ k, Foot b v1 v2 k → w'.heap[k]? = w.heap[k]?) : FloX w' b p v1 n v2 t l :=
  ⟨(hk b (.inl rfl)).trans h.blk, h.ptr, rowF_same h.told (fun k e => hk k (.inr (.inl e))), row_same h.blanks (fun k e => hk k (.inr (.inr e))), h.apart, h.bare⟩
theorem FloX.cells (h : FloX w b p v1 n v2 t l) : w.cell? ⟨b, 0, none⟩ = some p ∧ w.cell? ⟨b, 1, none⟩ = some v1 ∧ w.cell? ⟨b, 2, none⟩ = some (.int .i64 (n : Int)) ∧ w.cell? ⟨b, 3, none⟩ = some v2 := by
  refine ⟨?_, ?_, ?_, ?_⟩ <;> (rw [Lib.cell_of_heap h.blk]; rfl)
theorem FloX.thawed (h : FloX w b p v1 n v2 t l) (i : Nat) : w.frozen? ⟨b, i, none⟩ = false := Lib.frozen_of_heap h.blk i
theorem FloX.shape (h : FloX w b p v1 n v2 t l) : w.shape? b = some (74, 4) := by simp [World.shape?, h.blk]
/-- the first row's form -/
theorem FloX.form1 (h : FloX w b p v1 n v2 t l) : ∃ a cap, v1 = .slice a t.length cap := by
  rcases h.told.2 with ⟨e, e0⟩ | ⟨g, cap, cur, fz, e, _⟩
  · exact ⟨none, 0, by rw [e, e0]⟩
  · exact ⟨_, cap, e⟩
theorem FloX.form2 (h : FloX w b p v1 n v2 t l) : (v2 = .slice none 0 0 ∧ l.length = 0) ∨ ∃ g cap, v2 = .slice (some ⟨g, 0, none⟩) l.length cap ∧ l.length ≤ cap ∧ cap ≤ maxLen := by
  rcases h.blanks.2 with ⟨e, e0⟩ | ⟨g, cap, cur, e, _, _, hc, hm, _⟩
  · exact .inl ⟨e, e0⟩
  · exact .inr ⟨g, cap, e, hc, hm⟩
/-- a store into the struct, behind what has grown a row -/
theorem moves_set {w w2 : World} {b : Nat} {v1 v2 v1' v2' : Value} {row : Option Nat} (hg : w.grownBy w2 row) (hrow : ∀ k, row = some k → Foot b v1 v2 k) (hf : ∀ k, Foot b v1' v2' k → Foot b v1 v2 k ∨ w.heap.size ≤ k) (i : Nat) (u : Value) :
    Moves (Foot b v1 v2) (Foot b v1' v2') w (w2.setCell ⟨b, i, none⟩ u) := by
  refine ⟨hg.os, hg.tape, hg.output, by simpa [World.setCell] using hg.size, fun k hk hF => ?_, hf⟩
  rw [Below.heap_setCell w2 ⟨b, i, none⟩ u k (fun e => hF (.inl e))]
  exact hg.block k hk (fun e => hF (hrow k e.symm))
theorem moves_one {w : World} {b : Nat} {v1 v2 : Value} (i : Nat) (u : Value) : Moves (Foot b v1 v2) (Foot b v1 v2) w (w.setCell ⟨b, i, none⟩ u) :=
  moves_set (World.grownBy.refl w none) (fun _ e => by cases e) (fun _ h => .inl h) i u
theorem FloX.other (h : FloX w b p v1 n v2 t l) (i : Nat) (u : Value) : (w.setCell ⟨b, i, none⟩ u).ownsRowF 0 5 1 v1 t.length (Lib.byteCells t) ∧ (w.setCell ⟨b, i, none⟩ u).ownsRow 0 5 1 v2 l.length (Lib.byteCells l) :=
  ⟨rowF_same h.told (fun k e => Below.heap_setCell w ⟨b, i, none⟩ u k (fun e2 => h.ne1 (by rw [e, e2]))), row_same h.blanks (fun k e => Below.heap_setCell w ⟨b, i, none⟩ u k (fun e2 => h.ne2 (by rw [e, e2])))⟩
/-- its own address laid down -/
theorem FloX.used (h : FloX w b p v1 n v2 t l) : FloX (w.setCell ⟨b, 0, none⟩ (.pointer (some ⟨b, 0, none⟩))) b (.pointer (some ⟨b, 0, none⟩)) v1 n v2 t l :=
  ⟨Go.heap_setCell_same w b 0 _ _ _ h.blk, .inr rfl, (h.other 0 _).1, (h.other 0 _).2, h.apart, h.bare⟩
/-- how many lines' ends wait -/
theorem FloX.waits (h : FloX w b p v1 n v2 t l) (m : Nat) : FloX (w.setCell ⟨b, 2, none⟩ (.int .i64 (m : Int))) b p v1 m v2 t l :=
  ⟨Go.heap_setCell_same w b 2 _ _ _ h.blk, h.ptr, (h.other 2 _).1, (h.other 2 _).2, h.apart, h.bare⟩
/-- other bytes told: the first row has grown -/
theorem FloX.grow1 {w2 : World} {v1' : Value} {t' : Txt} (h : FloX w b p v1 n v2 t l) (hg : w.grownBy w2 v1.ownBlock) (ho : w2.ownsRowF 0 5 1 v1' t'.length (Lib.byteCells t')) (hl : ∀ k, v1'.ownBlock = some k → v1.ownBlock = some k ∨ w.heap.size ≤ k) (hb : t' = [] → v1' = .slice none 0 0) :
    FloX (w2.setCell ⟨b, 1, none⟩ v1') b p v1' n v2 t' l ∧ Moves (Foot b v1 v2) (Foot b v1' v2) w (w2.setCell ⟨b, 1, none⟩ v1') := by
  have hb2 : w2.heap[b]? = some (.cells #[p, v1, .int .i64 (n : Int), v2] 74 (0, 0)) := (hg.block b h.ltb (fun e => h.ne1 e.symm)).trans h.blk
  have hne : ∀ k, v1'.ownBlock = some k → k ≠ b := fun k e e2 => by
    rcases hl k e with h1 | h1
    · exact h.ne1 (by rw [h1, e2])
    · have := h.ltb; omega
  refine ⟨⟨Go.heap_setCell_same w2 b 1 _ _ _ hb2, h.ptr, rowF_same ho (fun k e => Below.heap_setCell w2 ⟨b, 1, none⟩ _ k (hne k e)), ?_, fun k e => ?_, hb⟩, moves_set hg (fun k e => .inr (.inl e)) ?_ 1 _⟩
  · refine row_same h.blanks (fun k e => ?_)
    rw [Below.heap_setCell w2 ⟨b, 1, none⟩ _ k (fun e2 => h.ne2 (by rw [e, e2]))]
    exact hg.block k (row_lt h.blanks k e) (fun e2 => h.apart k e2.symm e)
  · rcases hl k e with h1 | h1
    · exact h.apart k h1
    · intro e2
      have := row_lt h.blanks k e2
      omega
  · rintro k (e | e | e)
    · exact .inl (.inl e)
    · exact (hl k e).elim (fun x => .inl (.inr (.inl x))) .inr
    · exact .inl (.inr (.inr e))
/-- other blanks: the second row has grown -/
theorem FloX.grow2 {w2 : World} {v2' : Value} {l' : Txt} (h : FloX w b p v1 n v2 t l) (hg : w.grownBy w2 v2.ownBlock) (ho : w2.ownsRow 0 5 1 v2' l'.length (Lib.byteCells l')) (hl : ∀ k, v2'.ownBlock = some k → v2.ownBlock = some k ∨ w.heap.size ≤ k) :
    FloX (w2.setCell ⟨b, 3, none⟩ v2') b p v1 n v2' t l' ∧ Moves (Foot b v1 v2) (Foot b v1 v2') w (w2.setCell ⟨b, 3, none⟩ v2') := by
  have hb2 : w2.heap[b]? = some (.cells #[p, v1, .int .i64 (n : Int), v2] 74 (0, 0)) := (hg.block b h.ltb (fun e => h.ne2 e.symm)).trans h.blk
  have hne : ∀ k, v2'.ownBlock = some k → k ≠ b := fun k e e2 => by
    rcases hl k e with h1 | h1
    · exact h.ne2 (by rw [h1, e2])
    · have := h.ltb; omega
  refine ⟨⟨Go.heap_setCell_same w2 b 3 _ _ _ hb2, h.ptr, ?_, row_same ho (fun k e => Below.heap_setCell w2 ⟨b, 3, none⟩ _ k (hne k e)), fun k e => ?_, h.bare⟩, moves_set hg (fun k e => .inr (.inr e)) ?_ 3 _⟩
  · refine rowF_same h.told (fun k e => ?_)
    rw [Below.heap_setCell w2 ⟨b, 3, none⟩ _ k (fun e2 => h.ne1 (by rw [e, e2]))]
    exact hg.block k (rowF_lt h.told k e) (fun e2 => h.apart k e e2.symm)
  · intro e2
    rcases hl k e2 with h1 | h1
    · exact h.apart k e h1
    · have := rowF_lt h.told k e
      omega
  · rintro k (e | e | e)
    · exact .inl (.inl e)
    · exact .inl (.inr (.inl e))
    · exact (hl k e).elim (fun x => .inl (.inr (.inr x))) .inr
end
theorem floO_lies (g : Addr) (f : FloP) : Lies (FloO g f) := by
  refine ⟨?_, ?_⟩
  · rintro w F ⟨b, p, v1, v2, rfl, h, hF⟩ k hk
    exact h.lt k ((hF k).1 hk)
  · rintro w w' F ⟨b, p, v1, v2, rfl, h, hF⟩ hk
    exact ⟨b, p, v1, v2, rfl, h.same (fun k e => hk k ((hF k).2 e)), hF⟩
/-- a flow's contract, told of its blocks -/
theorem floO_of {g : Addr} {f : FloP} {w : World} {F : Blocks} (h : FloO g f w F) : ∃ b p v1 v2, g = ⟨b, 0, none⟩ ∧ FloX w b p v1 f.ends v2 f.told f.blanks ∧ F = Foot b v1 v2 := by
  obtain ⟨b, p, v1, v2, e, h1, hF⟩ := h
  exact ⟨b, p, v1, v2, e, h1, funext fun k => propext (hF k)⟩

/-! the Builder, at the head of the struct -/
set_option maxHeartbeats 1000000 in
set_option maxRecDepth 100000 in
theorem ccF_used (b : Nat) (w : World) (h0 : w.cell? ⟨b, 0, none⟩ = some (.pointer (some ⟨b, 0, none⟩))) :
    Calls Tryz.prog 42 #[.pointer (some ⟨b, 0, none⟩)] w fun e w' => e = .returned (.tuple #[]) ∧ w = w' := by
  obtain ⟨j, hj, _⟩ := Option.map_eq_some_iff.1 sizeBuilderF
  go_enter Tryz.func42, Tryz.ntmps42
  go_wp2
  rw [Lib.run_neq_ptr_same w _ Tryz.underlying51 hj]
  go_wp2
  go_end0
  exact ⟨rfl, rfl⟩
set_option maxHeartbeats 1000000 in
set_option maxRecDepth 100000 in
theorem ccF_fresh (b : Nat) (w : World) (h0 : w.cell? ⟨b, 0, none⟩ = some (.pointer none)) (hsh : w.shape? b = some (74, 4)) (hfz : w.frozen? ⟨b, 0, none⟩ = false) :
    Calls Tryz.prog 42 #[.pointer (some ⟨b, 0, none⟩)] w fun e w' => e = .returned (.tuple #[]) ∧ w' = w.setCell ⟨b, 0, none⟩ (.pointer (some ⟨b, 0, none⟩)) := by
  obtain ⟨j, hj, hjs⟩ := Option.map_eq_some_iff.1 sizeBuilderF
  go_enter Tryz.func42, Tryz.ntmps42
  go_wp2
  rw [Lib.run_to_unsafe w ⟨b, 0, none⟩ Tryz.underlying51 Tryz.underlying95 hj (by rw [hjs]; decide) hsh (Nat.zero_lt_succ 3)]
  simp only [Result.andThen]
  rw [Oper.upon_value]
  go_wp2
  rw [run_callFunc_extern Tryz.func65 (by kernel_rfl) (by kernel_rfl) (by kernel_rfl) (e := Extern.AbiNoEscape.same) (by kernel_rfl)]
  rw [Lib.run_noEscape]
  simp only [Result.andThen]
  rw [Oper.upon_value]
  go_wp2
  rw [Lib.run_from_unsafe w ⟨b, 0, none⟩ Tryz.underlying95 Tryz.underlying51 hj hsh liesBuilderF]
  simp only [Result.andThen]
  rw [Oper.upon_value]
  go_wp2
  go_end0
  exact ⟨rfl, rfl⟩
theorem ccF {w : World} {b : Nat} {p v1 : Value} {n : Nat} {v2 : Value} {t l : Txt} (h : FloX w b p v1 n v2 t l) :
    Calls Tryz.prog 42 #[.pointer (some ⟨b, 0, none⟩)] w fun e w' => e = .returned (.tuple #[]) ∧ FloX w' b (.pointer (some ⟨b, 0, none⟩)) v1 n v2 t l ∧ Moves (Foot b v1 v2) (Foot b v1 v2) w w' := by
  rcases h.ptr with e | e
  · refine (ccF_fresh b w (by rw [h.cells.1, e]) h.shape (h.thawed 0)).mono ?_
    rintro x w' ⟨rfl, rfl⟩
    exact ⟨rfl, h.used, moves_one 0 _⟩
  · refine (ccF_used b w (by rw [h.cells.1, e])).mono ?_
    rintro x w' ⟨rfl, rfl⟩
    exact ⟨rfl, by rw [← e]; exact h, Moves.refl _ _⟩
theorem one_byteF (c : UInt8) (q : Int) (hq : (c.toNat : Int) = q) : Lib.byteCells [c] = [Value.int .u8 q] := by rw [← hq]; rfl
theorem src_one {w : World} {tx : TypeId} (ht : Tryz.prog.underlying tx = some (.slice 5)) (a : Addr) (q : Int) (h : w.cell? a = some (.int .u8 q)) : Src Tryz.prog 1 tx (.slice (some a) 1 1) 1 [.int .u8 q] w := by
  refine Src.ofSlice w ht a 1 1 _ rfl (fun j u hj => ?_) (fun u hu => ?_)
  · match j, hj with
    | 0, hj => simp at hj; subst hj; simpa [Addr.add] using h
  · simp at hu; subst hu; rfl

set_option maxHeartbeats 2000000 in
set_option maxRecDepth 100000 in
theorem writeByteF {w : World} {b : Nat} {p v1 : Value} {n : Nat} {v2 : Value} {t l : Txt} (h : FloX w b p v1 n v2 t l) (c : UInt8) (q : Int) (hq : (c.toNat : Int) = q) (ht : t.length ≤ 2147483648) :
    Calls Tryz.prog 20 #[.pointer (some ⟨b, 0, none⟩), .int .u8 q] w fun e w' => e = .returned .nilIface ∧ ∃ p' v1', FloX w' b p' v1' n v2 (t ++ [c]) l ∧ Moves (Foot b v1 v2) (Foot b v1' v2) w w' := by
  obtain ⟨i0, hi, hz0, hz1, hz2⟩ := info_parts infoByteF
  have HQ := Lib.hid (one_byteF c q hq)
  have CC := Lib.hid (ccF h)
  clear h hq
  go_enter Tryz.func20, Tryz.ntmps20
  go_wp2_with (go_at_call 42; refine CC.out.mono ?_)
  rintro e w1 ⟨rfl, h1, m1⟩
  have H1 := Lib.hid h1
  have M1 := Lib.hid m1
  obtain ⟨c0, c1, c2, c3⟩ := h1.cells
  have s1 := src_one (w := w1.alloc (.cells #[.int .u8 q] 5)) (tx := 25) Tryz.underlying25 ⟨w1.heap.size, 0, none⟩ q (by rw [Lib.cell_of_heap (heap_alloc_new w1 _)]; rfl)
  have S1 := Lib.hid s1
  clear h1 m1 c0 c2 c3 s1
  go_wp2_with (at_builtin; refine wpList_append_H _ rfl _ _ 25 25 rfl 5 i0 (.int .u8 0) Tryz.underlying25 hi hz0 hz1 hz2 rfl _ _ _ rfl (World.ownsRowF.alloc H1.out.told _) _ _ _ rfl S1.out (by omega) ?_)
  intro v' w2 hown hgrow hloc
  have hG : w1.grownBy w2 v1.ownBlock := (World.grownBy_alloc w1 _ _).trans hgrow
  have hL : ∀ k, v'.ownBlock = some k → v1.ownBlock = some k ∨ w1.heap.size ≤ k := fun k e => by
    rcases hloc with x | x
    · exact .inl (by rw [← x, e])
    · rw [e] at x; injection x with x; exact .inr (by rw [x]; simp)
  have hO : w2.ownsRowF 0 5 1 v' (t ++ [c]).length (Lib.byteCells (t ++ [c])) := by
    rw [List.length_append, Lib.byteCells_append, HQ.out]; exact hown
  obtain ⟨x1, x2⟩ := H1.out.grow1 (t' := t ++ [c]) hG hO hL (fun e => by simp at e)
  have X1 := Lib.hid x1
  have X2 := Lib.hid (M1.out.trans x2)
  have hb2 : w2.heap[b]? = w1.heap[b]? := hG.block b H1.out.ltb (fun e => H1.out.ne1 e.symm)
  have d1 : w2.cell? ⟨b, 1, none⟩ = some v1 := by rw [Lib.cell_of_heap (hb2.trans H1.out.blk)]; rfl
  have f1 : w2.frozen? ⟨b, 1, none⟩ = false := Lib.frozen_of_heap (hb2.trans H1.out.blk) 1
  clear hown hgrow hloc hG hL hO x1 x2 hb2
  obtain ⟨a, m, cap, e⟩ : ∃ a m cap, v' = .slice a m cap := by
    obtain ⟨a, cap, e⟩ := X1.out.form1
    exact ⟨a, _, cap, e⟩
  subst e
  go_wp2
  go_ret
  exact ⟨rfl, _, _, X1.out, X2.out⟩

/-- the blanks, as what is appended -/
theorem src_blanks {w : World} {b : Nat} {p v1 : Value} {n : Nat} {v2 : Value} {t l : Txt} (h : FloX w b p v1 n v2 t l) : Src Tryz.prog 1 25 v2 l.length (Lib.byteCells l) w := by
  rcases h.blanks.2 with ⟨rfl, e0⟩ | ⟨g, cap, cur, rfl, _, _⟩
  · have : l = [] := List.eq_nil_of_length_eq_zero e0
    subst this
    exact Src.ofNil w Tryz.underlying25 0
  · refine Src.ofSlice w Tryz.underlying25 ⟨g, 0, none⟩ l.length cap _ (by simp [Lib.byteCells]) (h.blanks.cells (g := g) rfl) (fun u hu => ?_)
    obtain ⟨c, _, rfl⟩ := List.mem_map.1 hu
    rfl

set_option maxHeartbeats 2000000 in
set_option maxRecDepth 100000 in
theorem writeF {w : World} {b : Nat} {p v1 : Value} {n : Nat} {v2 : Value} {t l : Txt} (h : FloX w b p v1 n v2 t l) (hne : t ≠ []) (ht : t.length + l.length ≤ 2147483648) :
    Calls Tryz.prog 119 #[.pointer (some ⟨b, 0, none⟩), v2] w fun e w' => e = .returned (.tuple #[.int .i64 (l.length : Int), .nilIface]) ∧ ∃ p' v1', FloX w' b p' v1' n v2 (t ++ l) l ∧ Moves (Foot b v1 v2) (Foot b v1' v2) w w' := by
  obtain ⟨i0, hi, hz0, hz1, hz2⟩ := info_parts infoByteF
  have HN := Lib.hid hne
  have CC := Lib.hid (ccF h)
  obtain ⟨a2, cap2, e2⟩ : ∃ a cap, v2 = .slice a l.length cap := by
    rcases h.form2 with ⟨e, e0⟩ | ⟨g, cap, e, _⟩
    · exact ⟨none, 0, by rw [e, e0]⟩
    · exact ⟨_, cap, e⟩
  subst e2
  clear h hne
  go_enter Tryz.func119, Tryz.ntmps119
  go_wp2_with (go_at_call 42; refine CC.out.mono ?_)
  rintro e w1 ⟨rfl, h1, m1⟩
  have H1 := Lib.hid h1
  have M1 := Lib.hid m1
  obtain ⟨c0, c1, c2, c3⟩ := h1.cells
  have S1 := Lib.hid (src_blanks h1)
  clear h1 m1 c0 c2 c3
  go_wp2_with (at_builtin; refine wpList_append_H _ rfl _ _ 25 25 rfl 5 i0 (.int .u8 0) Tryz.underlying25 hi hz0 hz1 hz2 rfl _ _ _ rfl H1.out.told _ _ _ rfl S1.out (by omega) ?_)
  intro v' w2 hown hG hloc
  have hL : ∀ k, v'.ownBlock = some k → v1.ownBlock = some k ∨ w1.heap.size ≤ k := fun k e => by
    rcases hloc with x | x
    · exact .inl (by rw [← x, e])
    · rw [e] at x; injection x with x; exact .inr (by rw [x]; exact Nat.le_refl _)
  have hO : w2.ownsRowF 0 5 1 v' (t ++ l).length (Lib.byteCells (t ++ l)) := by
    rw [List.length_append, Lib.byteCells_append]; exact hown
  obtain ⟨x1, x2⟩ := H1.out.grow1 (t' := t ++ l) hG hO hL (fun e => absurd (List.append_eq_nil_iff.1 e).1 HN.out)
  have X1 := Lib.hid x1
  have X2 := Lib.hid (M1.out.trans x2)
  have hb2 : w2.heap[b]? = w1.heap[b]? := hG.block b H1.out.ltb (fun e => H1.out.ne1 e.symm)
  have d1 : w2.cell? ⟨b, 1, none⟩ = some v1 := by rw [Lib.cell_of_heap (hb2.trans H1.out.blk)]; rfl
  have f1 : w2.frozen? ⟨b, 1, none⟩ = false := Lib.frozen_of_heap (hb2.trans H1.out.blk) 1
  clear hown hloc hG hL hO x1 x2 hb2
  obtain ⟨a, m, cap, e⟩ : ∃ a m cap, v' = .slice a m cap := by
    obtain ⟨a, cap, e⟩ := X1.out.form1
    exact ⟨a, _, cap, e⟩
  subst e
  go_wp2
  go_ret2
  exact ⟨rfl, _, _, X1.out, X2.out⟩

set_option maxHeartbeats 1000000 in
set_option maxRecDepth 100000 in
theorem lenF {w : World} {b : Nat} {p v1 : Value} {n : Nat} {v2 : Value} {t l : Txt} (h : FloX w b p v1 n v2 t l) :
    Calls Tryz.prog 118 #[.pointer (some ⟨b, 0, none⟩)] w fun e w' => e = .returned (.int .i64 (t.length : Int)) ∧ w' = w := by
  obtain ⟨a, cap, e⟩ := h.form1
  subst e
  obtain ⟨c0, c1, c2, c3⟩ := h.cells
  clear h
  go_enter Tryz.func118, Tryz.ntmps118
  go_wp2
  go_ret
  exact ⟨rfl, rfl⟩

/-- a row whose head is frozen -/
theorem FloX.froze {w : World} {b : Nat} {p : Value} {n : Nat} {v2 : Value} {t l : Txt} {g cap : Nat} (h : FloX w b p (.slice (some ⟨g, 0, none⟩) t.length cap) n v2 t l) :
    FloX (w.freeze ⟨g, 0, none⟩ t.length) b p (.slice (some ⟨g, 0, none⟩) t.length cap) n v2 t l ∧ Moves (Foot b (.slice (some ⟨g, 0, none⟩) t.length cap) v2) (Foot b (.slice (some ⟨g, 0, none⟩) t.length cap) v2) w (w.freeze ⟨g, 0, none⟩ t.length) := by
  have hgb : g ≠ b := fun e => h.ne1 (by simp [Value.ownBlock, e])
  have hoth : ∀ k, k ≠ g → (w.freeze ⟨g, 0, none⟩ t.length).heap[k]? = w.heap[k]? := fun k hk => by
    unfold World.freeze
    split
    · rfl
    · simp only [Array.getElem?_modify]
      rw [if_neg (fun e => hk e.symm)]
  refine ⟨⟨(hoth b (fun e => hgb e.symm)).trans h.blk, h.ptr, ?_, row_same h.blanks (fun k e => hoth k (fun e2 => h.apart g rfl (by rw [e, e2]))), h.apart, h.bare⟩, ?_⟩
  · refine ⟨h.told.1, ?_⟩
    rcases h.told.2 with ⟨hv, _⟩ | ⟨g', cap', cur, fz, hv, hbg, hg, hfz, rest⟩
    · cases hv
    · injection hv with ha _ hcap
      injection ha with ha
      injection ha with hgg _ _
      subst hgg
      subst hcap
      unfold World.freeze
      split
      · exact .inr ⟨g, _, cur, fz, rfl, hbg, hg, hfz, rest⟩
      · obtain ⟨lo, hi⟩ := fz
        refine .inr ⟨g, _, cur, (if lo == hi then (0, 0 + t.length) else (min lo 0, max hi (0 + t.length))), rfl, hbg, ?_, ?_, rest⟩
        · simp [Array.getElem?_modify, hg]
        · simp only at hfz
          split <;> simp <;> omega
  · refine ⟨?_, ?_, ?_, ?_, fun k hk hF => hoth k (fun e => hF (.inr (.inl (by rw [e]; rfl)))), fun _ h => .inl h⟩
    all_goals (unfold World.freeze; split <;> simp)
theorem FloX.drew {w : World} {b : Nat} {p v1 : Value} {n : Nat} {v2 : Value} {t l : Txt} (h : FloX w b p v1 n v2 t l) : FloX w.drew b p v1 n v2 t l := h.same (fun _ _ => rfl)
theorem moves_drew (F : Blocks) (w : World) : Moves F F w w.drew := Moves.of_below F (Below.refl _ w).drew

set_option maxHeartbeats 2000000 in
set_option maxRecDepth 100000 in
theorem stringF {w : World} {b : Nat} {p v1 : Value} {n : Nat} {v2 : Value} {t l : Txt} (h : FloX w b p v1 n v2 t l) :
    Calls Tryz.prog 18 #[.pointer (some ⟨b, 0, none⟩)] w fun e w' => e = .returned (.string ⟨t.toArray⟩) ∧ FloX w' b p v1 n v2 t l ∧ Moves (Foot b v1 v2) (Foot b v1 v2) w w' := by
  by_cases h0 : t = []
  · have e := h.bare h0
    subst e; subst h0
    have hUS : ∀ (W : World), (Builtin.unsafeString_ #[78, 3] 9 #[.pointer none, .int .i64 0]).run Tryz.prog W = .ok (.string .empty) W := fun W => Lib.run_unsafeString_none W _ _ _ none
    have hSD : (Builtin.unsafeSliceData_ #[25] 78 #[.slice none 0 0]).run Tryz.prog w.drew = .ok (.pointer none) w.drew := rfl
    have H := Lib.hid h
    obtain ⟨c0, c1, c2, c3⟩ := h.drew.cells
    clear h c0 c2 c3
    go_enter Tryz.func18, Tryz.ntmps18
    go_wp2
    go_region
    all_goals (go_wp2; go_ret; exact ⟨rfl, H.out.drew, moves_drew _ _⟩)
  · obtain ⟨g, cap, e, hc⟩ : ∃ g cap, v1 = .slice (some ⟨g, 0, none⟩) t.length cap ∧ t.length ≤ cap := by
      rcases h.told.2 with ⟨_, e⟩ | ⟨g, cap, cur, fz, e, _, _, _, hc, _⟩
      · exact absurd (List.eq_nil_of_length_eq_zero e) h0
      · exact ⟨g, cap, e, hc⟩
    subst e
    have hl0 : t.length ≠ 0 := fun e => h0 (List.eq_nil_of_length_eq_zero e)
    have hSD : (Builtin.unsafeSliceData_ #[25] 78 #[.slice (some ⟨g, 0, none⟩) t.length cap]).run Tryz.prog w.drew = .ok (.pointer (some ⟨g, 0, none⟩)) w.drew :=
      Lib.run_unsafeSliceData_row _ _ _ _ _ _ (by omega)
    have hUS : (Builtin.unsafeString_ #[78, 3] 9 #[.pointer (some ⟨g, 0, none⟩), .int .i64 t.length]).run Tryz.prog w.drew = .ok (.string ⟨t.toArray⟩) (w.drew.freeze ⟨g, 0, none⟩ t.length) := by
      rcases h.told.2 with ⟨hv, _⟩ | ⟨g', cap', cur, fz, hv, hbg, hg, hfz, hnc, hcm, hcs, _⟩
      · cases hv
      · injection hv with ha _ hcap
        injection ha with ha
        injection ha with hgg _ _
        subst hgg
        refine Lib.run_unsafeString_row w.drew 78 3 9 5 Tryz.underlying78 cellsByteF g cur.size (by have hg' : w.drew.heap[g]? = some (.cells cur 5 fz) := hg; simp [World.shape?, hg']) t h0 (by omega) (by unfold maxLen at hcm; omega) ?_
        intro j x hx
        exact h.drew.told.cells (g := g) rfl j (.int .u8 x.toNat) (by simp [Lib.byteCells, hx])
    obtain ⟨x1, x2⟩ := h.drew.froze
    have X1 := Lib.hid x1
    have X2 := Lib.hid ((moves_drew _ _).trans x2)
    obtain ⟨c0, c1, c2, c3⟩ := h.drew.cells
    clear h c0 c2 c3 x1 x2 h0
    go_enter Tryz.func18, Tryz.ntmps18
    go_wp2
    go_region
    all_goals (go_wp2; go_ret; exact ⟨rfl, X1.out, X2.out⟩)

/-! what is done -/
set_option maxHeartbeats 1000000 in
set_option maxRecDepth 100000 in
theorem dropF {w : World} {b : Nat} {p v1 : Value} {n : Nat} {v2 : Value} {t l : Txt} (h : FloX w b p v1 n v2 t l) :
    Calls Tryz.prog 89 #[.pointer (some ⟨b, 0, none⟩)] w fun e w' => e = .returned (.tuple #[]) ∧ ∃ v2', FloX w' b p v1 n v2' t [] ∧ Moves (Foot b v1 v2) (Foot b v1 v2') w w' := by
  obtain ⟨c0, c1, c2, c3⟩ := h.cells
  have f3 := h.thawed 3
  rcases h.blanks.2 with ⟨rfl, e0⟩ | ⟨g, cap, cur, rfl, hb, hg, hn, hm, hs, ht⟩
  · obtain ⟨x1, x2⟩ := h.grow2 (v2' := .slice none 0 0) (l' := []) (World.grownBy.refl w _) (World.ownsRow_nil w 0 _ 1) (fun k e => .inl e)
    have X1 := Lib.hid x1
    have X2 := Lib.hid x2
    clear h c0 c1 c2 x1 x2
    go_enter Tryz.func89, Tryz.ntmps89
    go_wp2
    refine bodyPost_end (results_none rfl _ _ _) rfl ?_
    exact ⟨rfl, _, X1.out, X2.out⟩
  · obtain ⟨x1, x2⟩ := h.grow2 (v2' := .slice (some ⟨g, 0, none⟩) 0 cap) (l' := []) (World.grownBy.refl w _) ⟨rfl, .inr ⟨g, cap, cur, rfl, hb, hg, Nat.zero_le _, hm, hs, by simp [Lib.byteCells]⟩⟩ (fun k e => .inl e)
    have X1 := Lib.hid x1
    have X2 := Lib.hid x2
    have hm2 : (cap : Int) ≤ 9223372036854775807 := by unfold maxLen at hm; omega
    have hn2 : (0 : Int) ≤ (cap : Int) := by omega
    clear h c0 c1 c2 x1 x2 hb hg hm hs ht hn
    go_enter Tryz.func89, Tryz.ntmps89
    go_wp2
    refine bodyPost_end (results_none rfl _ _ _) rfl ?_
    exact ⟨rfl, _, X1.out, X2.out⟩
set_option maxHeartbeats 1000000 in
set_option maxRecDepth 100000 in
theorem lineF_any {w : World} {b : Nat} {p v1 : Value} {n : Nat} {v2 : Value} {t l : Txt} (h : FloX w b p v1 n v2 t l) (hn : n ≤ 2147483648) :
    Calls Tryz.prog 60 #[.pointer (some ⟨b, 0, none⟩)] w fun e w' => e = .returned (.tuple #[]) ∧ ∃ v2', FloX w' b p v1 (n + 1) v2' t [] ∧ Moves (Foot b v1 v2) (Foot b v1 v2') w w' := by
  obtain ⟨c0, c1, c2, c3⟩ := h.cells
  have f2 := h.thawed 2
  have C := Lib.hid (dropF (h.waits (n + 1)))
  have M := Lib.hid (moves_one (w := w) (b := b) (v1 := v1) (v2 := v2) 2 (.int .i64 ((n + 1 : Nat) : Int)))
  clear h c0 c1 c3
  go_enter Tryz.func60, Tryz.ntmps60
  go_wp2_with (go_at_call 89; refine C.out.mono ?_; rintro e w' ⟨rfl, v2', x1, x2⟩; have X1 := Lib.hid x1; have X2 := Lib.hid (M.out.trans x2); clear x1 x2)
  refine bodyPost_end (results_none rfl _ _ _) rfl ?_
  exact ⟨rfl, v2', X1.out, X2.out⟩
set_option maxHeartbeats 1000000 in
set_option maxRecDepth 100000 in
theorem breakF_any {w : World} {b : Nat} {p v1 : Value} {n : Nat} {v2 : Value} {t l : Txt} (h : FloX w b p v1 n v2 t l) (m : Int) (hn : n ≤ 2147483648) (hm : -9223372036854775808 ≤ m ∧ m ≤ 9223372036854775807) :
    Calls Tryz.prog 62 #[.pointer (some ⟨b, 0, none⟩), .int .i64 m] w fun e w' => e = .returned (.tuple #[]) ∧ ∃ v2', FloX w' b p v1 (max n (min m 100).toNat) v2' t [] ∧ Moves (Foot b v1 v2) (Foot b v1 v2') w w' := by
  obtain ⟨c0, c1, c2, c3⟩ := h.cells
  have f2 := h.thawed 2
  obtain ⟨r, hr⟩ : ∃ r : Nat, max n (min m 100).toNat = r := ⟨_, rfl⟩
  rw [hr]
  have C := Lib.hid (dropF (h.waits r))
  have M := Lib.hid (moves_one (w := w) (b := b) (v1 := v1) (v2 := v2) 2 (.int .i64 (r : Int)))
  clear h c0 c1 c3
  by_cases h1 : m ≤ 100 <;> by_cases h2 : (n : Int) < min m 100
  · obtain rfl : m = (r : Int) := by omega
    have h2 : (n : Int) < (r : Int) := by omega
    have e1 : min (r : Int) 100 = (r : Int) := by omega
    have e2 : max (n : Int) (r : Int) = (r : Int) := by omega
    clear hr
    go_enter Tryz.func62, Tryz.ntmps62
    go_wp2_with (go_at_call 89; refine C.out.mono ?_; rintro e w' ⟨rfl, v2', x1, x2⟩; have X1 := Lib.hid x1; have X2 := Lib.hid (M.out.trans x2); clear x1 x2)
    refine bodyPost_end (results_none rfl _ _ _) rfl ?_
    exact ⟨rfl, v2', X1.out, X2.out⟩
  · obtain rfl : r = n := by omega
    have h2 : m ≤ (r : Int) := by omega
    have e1 : min m 100 = m := by omega
    have e2 : max (r : Int) m = (r : Int) := by omega
    clear hr
    go_enter Tryz.func62, Tryz.ntmps62
    go_wp2_with (go_at_call 89; refine C.out.mono ?_; rintro e w' ⟨rfl, v2', x1, x2⟩; have X1 := Lib.hid x1; have X2 := Lib.hid (M.out.trans x2); clear x1 x2)
    refine bodyPost_end (results_none rfl _ _ _) rfl ?_
    exact ⟨rfl, v2', X1.out, X2.out⟩
  · obtain rfl : r = 100 := by omega
    have h2 : (n : Int) < 100 := by omega
    have h1 : 100 < m := by omega
    have e1 : min m 100 = 100 := by omega
    have e2 : max (n : Int) 100 = 100 := by omega
    clear hr
    go_enter Tryz.func62, Tryz.ntmps62
    go_wp2_with (go_at_call 89; refine C.out.mono ?_; rintro e w' ⟨rfl, v2', x1, x2⟩; have X1 := Lib.hid x1; have X2 := Lib.hid (M.out.trans x2); clear x1 x2)
    refine bodyPost_end (results_none rfl _ _ _) rfl ?_
    exact ⟨rfl, v2', X1.out, X2.out⟩
  · obtain rfl : r = n := by omega
    have h2 : (100 : Int) ≤ (r : Int) := by omega
    have h1 : 100 < m := by omega
    have e1 : min m 100 = 100 := by omega
    have e2 : max (r : Int) 100 = (r : Int) := by omega
    clear hr
    go_enter Tryz.func62, Tryz.ntmps62
    go_wp2_with (go_at_call 89; refine C.out.mono ?_; rintro e w' ⟨rfl, v2', x1, x2⟩; have X1 := Lib.hid x1; have X2 := Lib.hid (M.out.trans x2); clear x1 x2)
    refine bodyPost_end (results_none rfl _ _ _) rfl ?_
    exact ⟨rfl, v2', X1.out, X2.out⟩
end Go.Proofs.YtbcmfcddkegcoaaGreatDoor

/-! The program's flow: what is done with a byte, with a text; a new one; what is told. -/
namespace Go.Proofs.YtbcmfcddkegcoaaGreatDoor
open Go.RowKit Go.Lib

/-- what is done with a byte: the method -/
def deedN (keep : Bool) (c : UInt8) : Nat :=
  if c = 0 then 92
  else if c = 10 ∨ c = 13 then (if keep = true then 93 else 94)
  else if c = 9 ∨ c = 12 ∨ c = 32 then (if keep = true then 95 else 94)
  else 96
theorem u8_neq (c : UInt8) (q : Int) (hq : (c.toNat : Int) = q) (k : Nat) (hk : k < 256) (h : c ≠ UInt8.ofNat k) : (q == (k : Int)) = false := by
  rw [beq_eq_false_iff_ne]
  intro e
  exact h (u8_eq c k hk (by omega))
set_option maxRecDepth 100000 in
set_option maxHeartbeats 2000000 in
theorem deed_any (keep : Bool) (c : UInt8) (q : Int) (w : World) (hq : (c.toNat : Int) = q) :
    Calls Tryz.prog 64 #[.int .u8 q, .bool keep] w fun e w' => e = .returned (.func (.func (deedN keep c)) #[] #[]) ∧ w' = w := by
  by_cases h0 : c = 0
  · subst h0
    obtain rfl : q = 0 := by rw [← hq]; rfl
    have e : deedN keep 0 = 92 := rfl
    rw [e]
    clear hq e
    go_enter Tryz.func64, Tryz.ntmps64
    go_wp2
    go_ret
    exact ⟨rfl, rfl⟩
  by_cases h1 : c = 10 ∨ c = 13
  · rcases h1 with rfl | rfl
    all_goals
      subst hq
      simp only [show (((10 : UInt8).toNat : Nat) : Int) = 10 from rfl, show (((13 : UInt8).toNat : Nat) : Int) = 13 from rfl]
      cases keep
      all_goals
        simp only [show deedN false 10 = 94 from rfl, show deedN false 13 = 94 from rfl, show deedN true 10 = 93 from rfl, show deedN true 13 = 93 from rfl]
        clear h0
        go_enter Tryz.func64, Tryz.ntmps64
        go_wp2
        go_ret
        exact ⟨rfl, rfl⟩
  by_cases h2 : c = 9 ∨ c = 12 ∨ c = 32
  · rcases h2 with rfl | rfl | rfl
    all_goals
      subst hq
      simp only [show (((9 : UInt8).toNat : Nat) : Int) = 9 from rfl, show (((12 : UInt8).toNat : Nat) : Int) = 12 from rfl, show (((32 : UInt8).toNat : Nat) : Int) = 32 from rfl]
      cases keep
      all_goals
        simp only [show deedN false 9 = 94 from rfl, show deedN false 12 = 94 from rfl, show deedN false 32 = 94 from rfl, show deedN true 9 = 95 from rfl, show deedN true 12 = 95 from rfl, show deedN true 32 = 95 from rfl]
        clear h0 h1
        go_enter Tryz.func64, Tryz.ntmps64
        go_wp2
        go_ret
        exact ⟨rfl, rfl⟩
  have e : deedN keep c = 96 := by unfold deedN; rw [if_neg h0, if_neg h1, if_neg h2]
  rw [e]
  have b0 := u8_neq c q hq 0 (by decide) h0
  have b9 := u8_neq c q hq 9 (by decide) (fun x => h2 (.inl x))
  have b10 := u8_neq c q hq 10 (by decide) (fun x => h1 (.inl x))
  have b12 := u8_neq c q hq 12 (by decide) (fun x => h2 (.inr (.inl x)))
  have b13 := u8_neq c q hq 13 (by decide) (fun x => h1 (.inr x))
  have b32 := u8_neq c q hq 32 (by decide) (fun x => h2 (.inr (.inr x)))
  clear hq e h0 h1 h2
  go_enter Tryz.func64, Tryz.ntmps64
  go_wp2
  go_ret
  exact ⟨rfl, rfl⟩

/-- what a deed leaves -/
def Did (w : World) (b : Nat) (v1 v2 : Value) (f : FloP) (e : Ending) (w' : World) : Prop :=
  e = .returned (.tuple #[]) ∧ ∃ p' v1' v2', FloX w' b p' v1' f.ends v2' f.told f.blanks ∧ Moves (Foot b v1 v2) (Foot b v1' v2') w w'

set_option maxRecDepth 100000 in
set_option maxHeartbeats 2000000 in
theorem passF {w : World} {b : Nat} {p v1 : Value} {n : Nat} {v2 : Value} {t l : Txt} (h : FloX w b p v1 n v2 t l) (q : Int) :
    Calls Tryz.prog 92 #[.pointer (some ⟨b, 0, none⟩), .int .u8 q] w (Did w b v1 v2 ⟨t, n, l⟩) := by
  have H := Lib.hid h
  clear h
  go_enter Tryz.func92, Tryz.ntmps92
  go_wp2
  refine bodyPost_end (results_none rfl _ _ _) rfl ?_
  exact ⟨rfl, _, _, _, H.out, Moves.refl _ _⟩
set_option maxRecDepth 100000 in
set_option maxHeartbeats 2000000 in
theorem endF {w : World} {b : Nat} {p v1 : Value} {n : Nat} {v2 : Value} {t l : Txt} (h : FloX w b p v1 n v2 t l) (hn : n ≤ 2147483648) (q : Int) :
    Calls Tryz.prog 93 #[.pointer (some ⟨b, 0, none⟩), .int .u8 q] w (Did w b v1 v2 ⟨t, n + 1, []⟩) := by
  have C := Lib.hid (lineF_any h hn)
  clear h
  go_enter Tryz.func93, Tryz.ntmps93
  go_wp2_with (go_at_call 60; refine C.out.mono ?_; rintro e w' ⟨rfl, v2', x1, x2⟩; have X1 := Lib.hid x1; have X2 := Lib.hid x2; clear x1 x2)
  refine bodyPost_end (results_none rfl _ _ _) rfl ?_
  exact ⟨rfl, _, _, _, X1.out, X2.out⟩
set_option maxRecDepth 100000 in
set_option maxHeartbeats 2000000 in
theorem holdF {w : World} {b : Nat} {p v1 : Value} {n : Nat} {v2 : Value} {t l : Txt} (h : FloX w b p v1 n v2 t l) (hl : l.length ≤ 2147483648) (c : UInt8) (q : Int) (hq : (c.toNat : Int) = q) :
    Calls Tryz.prog 95 #[.pointer (some ⟨b, 0, none⟩), .int .u8 q] w (Did w b v1 v2 ⟨t, n, l ++ [c]⟩) := by
  obtain ⟨i0, hi, hz0, hz1, hz2⟩ := info_parts infoByteF
  have HQ := Lib.hid (one_byteF c q hq)
  have H := Lib.hid h
  obtain ⟨c0, c1, c2, c3⟩ := h.cells
  clear h hq c0 c1 c2
  go_enter Tryz.func95, Tryz.ntmps95
  go_wp2_with (at_builtin; refine wpList_append_own_at _ rfl _ _ 25 rfl 0 5 i0 (.int .u8 0) 1 1 Tryz.underlying25 hi hz0 hz1 hz2 rfl (by decide) _ _ _ rfl (H.out.blanks.alloc _) ⟨w.heap.size, 0, none⟩ 1 1 [.int .u8 q] rfl rfl (cell_one_new _ _ _) ?c2 ?c3 ?c4 (Nat.zero_le _) ?_)
  case c2 => intro u hu; simp at hu; subst hu; rfl
  case c3 => unfold maxLen; omega
  case c4 => omega
  intro v' w2 hown hgrow _ hloc
  have hG : w.grownBy w2 v2.ownBlock := (World.grownBy_alloc w _ _).trans hgrow
  have hL : ∀ k, v'.ownBlock = some k → v2.ownBlock = some k ∨ w.heap.size ≤ k := fun k e => by
    rcases hloc with x | x
    · exact .inl (by rw [← x, e])
    · rw [e] at x; injection x with x; exact .inr (by rw [x]; simp)
  have hO : w2.ownsRow 0 5 1 v' (l ++ [c]).length (Lib.byteCells (l ++ [c])) := by
    rw [List.length_append, Lib.byteCells_append, HQ.out]; exact hown
  obtain ⟨x1, x2⟩ := H.out.grow2 (l' := l ++ [c]) hG hO hL
  have X1 := Lib.hid x1
  have X2 := Lib.hid x2
  have hb2 : w2.heap[b]? = w.heap[b]? := hG.block b H.out.ltb (fun e => H.out.ne2 e.symm)
  have d1 : w2.cell? ⟨b, 3, none⟩ = some v2 := by rw [Lib.cell_of_heap (hb2.trans H.out.blk)]; rfl
  have f1 : w2.frozen? ⟨b, 3, none⟩ = false := Lib.frozen_of_heap (hb2.trans H.out.blk) 3
  clear hown hgrow hloc hG hL hO x1 x2 hb2
  obtain ⟨a, m, cap, e⟩ : ∃ a m cap, v' = .slice a m cap := by
    rcases X1.out.form2 with ⟨e, _⟩ | ⟨g, cap, e, _⟩ <;> exact ⟨_, _, _, e⟩
  subst e
  go_wp2
  refine bodyPost_end (results_none rfl _ _ _) rfl ?_
  exact ⟨rfl, _, _, _, X1.out, X2.out⟩
set_option maxRecDepth 100000 in
set_option maxHeartbeats 2000000 in
theorem foldF {w : World} {b : Nat} {p v1 : Value} {n : Nat} {v2 : Value} {t l : Txt} (h : FloX w b p v1 n v2 t l) (q : Int) :
    Calls Tryz.prog 94 #[.pointer (some ⟨b, 0, none⟩), .int .u8 q] w (Did w b v1 v2 (if n = 0 ∧ l = [] then ⟨t, 0, [32]⟩ else ⟨t, n, l⟩)) := by
  obtain ⟨i0, hi, hz0, hz1, hz2⟩ := info_parts infoByteF
  obtain ⟨c0, c1, c2, c3⟩ := h.cells
  obtain ⟨a2, cap2, e2⟩ : ∃ a cap, v2 = .slice a l.length cap := by
    rcases h.form2 with ⟨e, e0⟩ | ⟨g, cap, e, _⟩
    · exact ⟨none, 0, by rw [e, e0]⟩
    · exact ⟨_, cap, e⟩
  subst e2
  by_cases hn : n = 0
  · subst hn
    cases l with
    | nil =>
      rw [if_pos ⟨rfl, rfl⟩]
      have H := Lib.hid h
      clear h c0 c1
      simp only [List.length_nil] at c3 H ⊢
      go_enter Tryz.func94, Tryz.ntmps94
      go_wp2_with (at_builtin; refine wpList_append_own_at _ rfl _ _ 25 rfl 0 5 i0 (.int .u8 0) 1 1 Tryz.underlying25 hi hz0 hz1 hz2 rfl (by decide) _ _ _ rfl (H.out.blanks.alloc _) ⟨w.heap.size, 0, none⟩ 1 1 [.int .u8 32] rfl rfl (cell_one_new _ _ _) ?c2 ?c3 ?c4 (Nat.zero_le _) ?_)
      case c2 => intro u hu; simp at hu; subst hu; rfl
      case c3 => unfold maxLen; simp
      case c4 => simp
      intro v' w2 hown hgrow _ hloc
      have hG : w.grownBy w2 (Value.slice a2 0 cap2).ownBlock := (World.grownBy_alloc w _ _).trans hgrow
      have hL : ∀ k, v'.ownBlock = some k → (Value.slice a2 0 cap2).ownBlock = some k ∨ w.heap.size ≤ k := fun k e => by
        rcases hloc with x | x
        · exact .inl (by rw [← x, e])
        · rw [e] at x; injection x with x; exact .inr (by rw [x]; simp)
      have hO : w2.ownsRow 0 5 1 v' ([32] : Txt).length (Lib.byteCells [32]) := hown
      obtain ⟨x1, x2⟩ := H.out.grow2 (l' := [32]) hG hO hL
      have X1 := Lib.hid x1
      have X2 := Lib.hid x2
      have hb2 : w2.heap[b]? = w.heap[b]? := hG.block b H.out.ltb (fun e => H.out.ne2 e.symm)
      have d1 : w2.cell? ⟨b, 3, none⟩ = some (.slice a2 0 cap2) := by rw [Lib.cell_of_heap (hb2.trans H.out.blk)]; rfl
      have f1 : w2.frozen? ⟨b, 3, none⟩ = false := Lib.frozen_of_heap (hb2.trans H.out.blk) 3
      clear hown hgrow hloc hG hL hO x1 x2 hb2
      obtain ⟨a, m, cap, e⟩ : ∃ a m cap, v' = .slice a m cap := by
        rcases X1.out.form2 with ⟨e, _⟩ | ⟨g, cap, e, _⟩ <;> exact ⟨_, _, _, e⟩
      subst e
      go_wp2
      refine bodyPost_end (results_none rfl _ _ _) rfl ?_
      exact ⟨rfl, _, _, _, X1.out, X2.out⟩
    | cons d l =>
      rw [if_neg (fun e => by cases e.2)]
      obtain ⟨k, hk⟩ : ∃ k, (d :: l).length = k := ⟨_, rfl⟩
      have hk0 : ((k : Int) == 0) = false := by rw [beq_eq_false_iff_ne]; simp only [List.length_cons] at hk; omega
      rw [hk] at c3 h ⊢
      have H := Lib.hid h
      clear h c0 c1 hk
      go_enter Tryz.func94, Tryz.ntmps94
      go_wp2
      refine bodyPost_end (results_none rfl _ _ _) rfl ?_
      exact ⟨rfl, _, _, _, H.out, Moves.refl _ _⟩
  · rw [if_neg (fun e => hn e.1)]
    have hn0 : ((n : Int) == 0) = false := by rw [beq_eq_false_iff_ne]; omega
    have H := Lib.hid h
    clear h c0 c1 hn
    go_enter Tryz.func94, Tryz.ntmps94
    go_wp2
    refine bodyPost_end (results_none rfl _ _ _) rfl ?_
    exact ⟨rfl, _, _, _, H.out, Moves.refl _ _⟩

set_option maxRecDepth 100000 in
set_option maxHeartbeats 4000000 in
/-- tell, from where the byte itself is told -/
theorem tell_any {w : World} {b : Nat} {p v1 : Value} {n : Nat} {v2 : Value} {t l : Txt} (h : FloX w b p v1 n v2 t l) (hs : t.length + n + l.length ≤ 1073741824) (c : UInt8) (q : Int) (hq : (c.toNat : Int) = q) :
    Calls Tryz.prog 96 #[.pointer (some ⟨b, 0, none⟩), .int .u8 q] w (Did w b v1 v2 ⟨tellF ⟨t, n, l⟩ c, 0, []⟩) := by
  have CL := Lib.hid (lenF h)
  have CW := fun {w' : World} {p' v1' : Value} (t' : Txt) (h' : FloX w' b p' v1' n v2 t' l) (ht : t'.length ≤ 2147483648) => Lib.hid (writeByteF h' c q hq ht)
  have CD := fun {w' : World} {p' v1' : Value} (t' : Txt) (h' : FloX w' b p' v1' n v2 t' l) => Lib.hid (dropF (h'.waits 0))
  have CN := fun {w' : World} {p' v1' : Value} (i : Nat) (hi : i ≤ n) (h' : FloX w' b p' v1' n v2 (t ++ List.replicate i 10) l) => Lib.hid (writeByteF h' 10 10 rfl (by rw [List.length_append, List.length_replicate]; omega))
  have MZ := fun (w' : World) (v1' : Value) => Lib.hid (moves_one (w := w') (b := b) (v1 := v1') (v2 := v2) 2 (.int .i64 ((0 : Nat) : Int)))
  have H := Lib.hid h
  by_cases h0 : t = []
  · subst h0
    have e : tellF ⟨[], n, l⟩ c = [] ++ [c] := by unfold tellF; simp
    rw [e]
    have hw := CW [] h (by simp)
    clear h CW CN hq e hs
    go_enter Tryz.func96, Tryz.ntmps96
    go_wp2_with (first
      | (go_at_call 118; refine CL.out.mono ?_; rintro e w' ⟨rfl, rfl⟩)
      | (go_at_call 20; refine hw.out.mono ?_; rintro e w1 ⟨rfl, p', v1', x1, x2⟩; have X1 := Lib.hid x1; have X2 := Lib.hid x2; have D := CD _ x1; obtain ⟨y0, y1, y2, y3⟩ := x1.cells; have f2 := x1.thawed 2; clear x1 x2 y0 y1 y3)
      | (go_at_call 89; refine D.out.mono ?_; rintro e w2 ⟨rfl, v2', z1, z2⟩; have Z1 := Lib.hid z1; have Z2 := Lib.hid (X2.out.trans ((MZ _ _).out.trans z2)); clear z1 z2))
    refine bodyPost_end (results_none rfl _ _ _) rfl ?_
    exact ⟨rfl, _, _, _, Z1.out, Z2.out⟩
  · have e : tellF ⟨t, n, l⟩ c = ((t ++ List.replicate n 10) ++ l) ++ [c] := by unfold tellF; rw [if_neg h0]
    rw [e]
    have hpos : (0 : Int) < (t.length : Int) := by
      have := List.length_pos_iff.2 h0
      omega
    have hn : n ≤ 1073741824 := by omega
    have hd1 : decide ((0 : Int) < (t.length : Int)) = true := by simpa using hpos
    have hd2 : decide (0 < t.length) = true := by simpa using hpos
    have CR := fun {w' : World} {p' v1' : Value} (h' : FloX w' b p' v1' n v2 (t ++ List.replicate n 10) l) => Lib.hid (writeF h' (fun e => h0 (List.append_eq_nil_iff.1 e).1) (by rw [List.length_append, List.length_replicate]; omega))
    have CW := fun {w' : World} {p' v1' : Value} (h' : FloX w' b p' v1' n v2 ((t ++ List.replicate n 10) ++ l) l) => CW _ h' (by rw [List.length_append, List.length_append, List.length_replicate]; omega)
    obtain ⟨c0, c1, c2, c3⟩ := h.cells
    clear h hq e hs c0 c1 c3
    have h0 := Lib.hid h0
    go_enter Tryz.func96, Tryz.ntmps96
    go_wp2_with (go_at_call 118; refine CL.out.mono ?_; rintro e w' ⟨rfl, rfl⟩)
    clear CL hpos hd1 hd2 c2
    go_loopw [13] (fun v wr => ∃ i : Nat, v = .int .i64 (i : Int) ∧ i ≤ n ∧ ∃ p' v1', FloX wr b p' v1' n v2 (t ++ List.replicate i 10) l ∧ Moves (Foot b v1 v2) (Foot b v1' v2) w' wr) (fun v _ => n - (intOf v).toNat)
    case atStart => exact ⟨0, rfl, Nat.zero_le _, _, _, by rw [List.replicate_zero, List.append_nil]; exact H.out, Moves.refl _ _⟩
    case round =>
      obtain ⟨i, rfl, hi, p', v1', x1, x2⟩ := hrel
      by_cases hlt : i < n
      · have C := CN i hi x1
        have X2 := Lib.hid x2
        clear x1 x2
        go_wp2_with (go_at_call 20; refine C.out.mono ?_; rintro e w1 ⟨rfl, p2, v12, z1, z2⟩)
        go_roundw
        case rel =>
          refine ⟨i + 1, by go_num, by omega, p2, v12, ?_, X2.out.trans z2⟩
          rw [List.replicate_succ', ← List.append_assoc]; exact z1
        case measure => simp [intOf]; omega
      · obtain rfl : i = n := by omega
        have C := CR x1
        have X2 := Lib.hid x2
        obtain ⟨c0, c1, c2, c3⟩ := x1.drew.cells
        have C := CR x1.drew
        clear x1 x2 c0 c1 c2 CN
        go_wp2
        go_still_tail 7, (by kernel_rfl)
        change wpList _ _ _ _ _ wr.drew
        obtain ⟨w2, hw2⟩ : ∃ w2, wr.drew = w2 := ⟨_, rfl⟩
        have X3 := Lib.hid (show Moves _ _ _ w2 from X2.out.trans (hw2 ▸ moves_drew _ _))
        rw [hw2] at C c3 ⊢
        clear hw2
        go_wp2_with (go_at_call 119; refine C.out.mono ?_; rintro e w3 ⟨rfl, p3, v13, x1, x2⟩; have HW := CW x1; have X4 := Lib.hid (X3.out.trans x2); clear x1 x2)
        go_wp2_with (first
          | (go_at_call 20; refine HW.out.mono ?_; rintro e w4 ⟨rfl, p4, v14, x1, x2⟩; have X1 := Lib.hid x1; have X5 := Lib.hid (X4.out.trans x2); have D := CD _ x1; obtain ⟨y0, y1, y2, y3⟩ := x1.cells; have f2 := x1.thawed 2; clear x1 x2 y0 y1 y3)
          | (go_at_call 89; refine D.out.mono ?_; rintro e w5 ⟨rfl, v2', z1, z2⟩; have Z1 := Lib.hid z1; have Z2 := Lib.hid (X5.out.trans ((MZ _ _).out.trans z2)); clear z1 z2))
        refine bodyPost_end (results_none rfl _ _ _) rfl ?_
        exact ⟨rfl, _, _, _, Z1.out, Z2.out⟩

theorem putL_next (keep : Bool) (f : FloP) (s : Txt) (i : Nat) (c : UInt8) (h : s[i]? = some c) : putL keep f (s.take (i + 1)) = putB keep (putL keep f (s.take i)) c := by
  rw [List.take_add_one, h, putL_app]; rfl
theorem deed_ways (keep : Bool) (c : UInt8) :
    (deedN keep c = 92 ∧ ∀ f, putB keep f c = f) ∨
    (deedN keep c = 93 ∧ ∀ f, putB keep f c = ⟨f.told, f.ends + 1, []⟩) ∨
    (deedN keep c = 94 ∧ ∀ f, putB keep f c = if f.ends = 0 ∧ f.blanks = [] then ⟨f.told, 0, [32]⟩ else ⟨f.told, f.ends, f.blanks⟩) ∨
    (deedN keep c = 95 ∧ ∀ f, putB keep f c = ⟨f.told, f.ends, f.blanks ++ [c]⟩) ∨
    (deedN keep c = 96 ∧ ∀ f, putB keep f c = ⟨tellF f c, 0, []⟩) := by
  by_cases h0 : c = 0
  · exact .inl ⟨by unfold deedN; rw [if_pos h0], fun f => by unfold putB; rw [if_pos h0]⟩
  by_cases h1 : c = 10 ∨ c = 13
  · have hb : blkB c = true := by rcases h1 with rfl | rfl <;> rfl
    cases keep with
    | true => exact .inr (.inl ⟨by unfold deedN; rw [if_neg h0, if_pos h1, if_pos rfl], fun f => by unfold putB; rw [if_neg h0, if_pos hb, if_pos rfl, if_pos h1]⟩)
    | false => exact .inr (.inr (.inl ⟨by unfold deedN; rw [if_neg h0, if_pos h1, if_neg Bool.false_ne_true], fun f => by unfold putB; rw [if_neg h0, if_pos hb, if_neg Bool.false_ne_true]⟩))
  by_cases h2 : c = 9 ∨ c = 12 ∨ c = 32
  · have hb : blkB c = true := by rcases h2 with rfl | rfl | rfl <;> rfl
    cases keep with
    | true => exact .inr (.inr (.inr (.inl ⟨by unfold deedN; rw [if_neg h0, if_neg h1, if_pos h2, if_pos rfl], fun f => by unfold putB; rw [if_neg h0, if_pos hb, if_pos rfl, if_neg h1]⟩)))
    | false => exact .inr (.inr (.inl ⟨by unfold deedN; rw [if_neg h0, if_neg h1, if_pos h2, if_neg Bool.false_ne_true], fun f => by unfold putB; rw [if_neg h0, if_pos hb, if_neg Bool.false_ne_true]⟩))
  · have hb : ¬ blkB c = true := fun e => by
      rcases (blk_is c).1 e with e | e | e | e | e
      · exact h2 (.inl e)
      · exact h1 (.inl e)
      · exact h2 (.inr (.inl e))
      · exact h1 (.inr e)
      · exact h2 (.inr (.inr e))
    exact .inr (.inr (.inr (.inr ⟨by unfold deedN; rw [if_neg h0, if_neg h1, if_neg h2], fun f => by unfold putB; rw [if_neg h0, if_neg hb]⟩)))

set_option maxRecDepth 100000 in
set_option maxHeartbeats 8000000 in
theorem putF_any {w : World} {b : Nat} {p v1 v2 : Value} (f : FloP) (h : FloX w b p v1 f.ends v2 f.told f.blanks) (s : ByteArray) (keep : Bool) (hs : f.size + s.size ≤ 1073741824) :
    Calls Tryz.prog 41 #[.pointer (some ⟨b, 0, none⟩), .string s, .bool keep] w (Did w b v1 v2 (putL keep f s.data.toList)) := by
  have H := Lib.hid h
  have HS := Lib.hid hs
  have hsz : s.size ≤ 1073741824 := by omega
  clear h hs
  go_enter Tryz.func41, Tryz.ntmps41
  go_wp2
  go_loopw [10] (fun v wr => ∃ i : Nat, v = .int .i64 (i : Int) ∧ i ≤ s.size ∧ ∃ p' v1' v2', FloX wr b p' v1' (putL keep f (s.data.toList.take i)).ends v2' (putL keep f (s.data.toList.take i)).told (putL keep f (s.data.toList.take i)).blanks ∧ Moves (Foot b v1 v2) (Foot b v1' v2') w wr) (fun v _ => s.size - (intOf v).toNat)
  case atStart => exact ⟨0, rfl, Nat.zero_le _, p, v1, v2, by rw [List.take_zero]; exact H.out, Moves.refl _ _⟩
  case round =>
    obtain ⟨i, rfl, hi, p', v1', v2', x1, x2⟩ := hrel
    by_cases hlt : i < s.size
    · have SN := Lib.hid (putL_next keep f s.data.toList i s.data[i] (by simp))
      have SZ := Lib.hid (show (putL keep f (s.data.toList.take i)).size ≤ 1073741824 by
        have := putL_size keep (s.data.toList.take i) f
        have h2 := HS.out
        rw [List.length_take] at this
        omega)
      generalize hG : putL keep f (s.data.toList.take i) = G at x1 SN SZ
      have X2 := Lib.hid x2
      obtain ⟨T, n, l⟩ := G
      simp only at x1
      have hz : T.length + n + l.length ≤ 1073741824 := SZ.out
      have CD := deed_any keep s.data[i] ((s.data[i].toNat : Nat) : Int) wr rfl
      rcases deed_ways keep s.data[i] with ⟨e1, e2⟩ | ⟨e1, e2⟩ | ⟨e1, e2⟩ | ⟨e1, e2⟩ | ⟨e1, e2⟩
      · rw [e1] at CD
        have C := Lib.hid (passF x1 _ : Calls Tryz.prog 92 #[.pointer (some ⟨b, 0, none⟩), .int .u8 ((s.data[i].toNat : Nat) : Int)] wr _)
        have E := Lib.hid ((e2 _).symm.trans SN.out.symm)
        have CD := Lib.hid CD
        clear x1 x2 e1 e2 SN SZ hz hG
        go_wp2_with (first
          | (go_at_call 64; refine CD.out.mono ?_; rintro e w' ⟨rfl, rfl⟩)
          | (go_at_call 92; refine C.out.mono ?_; rintro e w3 ⟨rfl, p3, v13, v23, z1, z2⟩))
        go_roundw
        case rel =>
          refine ⟨i + 1, by go_num, by omega, p3, v13, v23, ?_, X2.out.trans z2⟩
          rw [← E.out]; exact z1
        case measure => simp [intOf]; omega
      · rw [e1] at CD
        have C := Lib.hid (endF x1 (by omega) _ : Calls Tryz.prog 93 #[.pointer (some ⟨b, 0, none⟩), .int .u8 ((s.data[i].toNat : Nat) : Int)] wr _)
        have E := Lib.hid ((e2 _).symm.trans SN.out.symm)
        have CD := Lib.hid CD
        clear x1 x2 e1 e2 SN SZ hz hG
        go_wp2_with (first
          | (go_at_call 64; refine CD.out.mono ?_; rintro e w' ⟨rfl, rfl⟩)
          | (go_at_call 93; refine C.out.mono ?_; rintro e w3 ⟨rfl, p3, v13, v23, z1, z2⟩))
        go_roundw
        case rel =>
          refine ⟨i + 1, by go_num, by omega, p3, v13, v23, ?_, X2.out.trans z2⟩
          rw [← E.out]; exact z1
        case measure => simp [intOf]; omega
      · rw [e1] at CD
        have C := Lib.hid (foldF x1 _ : Calls Tryz.prog 94 #[.pointer (some ⟨b, 0, none⟩), .int .u8 ((s.data[i].toNat : Nat) : Int)] wr _)
        have E := Lib.hid ((e2 _).symm.trans SN.out.symm)
        have CD := Lib.hid CD
        clear x1 x2 e1 e2 SN SZ hz hG
        go_wp2_with (first
          | (go_at_call 64; refine CD.out.mono ?_; rintro e w' ⟨rfl, rfl⟩)
          | (go_at_call 94; refine C.out.mono ?_; rintro e w3 ⟨rfl, p3, v13, v23, z1, z2⟩))
        go_roundw
        case rel =>
          refine ⟨i + 1, by go_num, by omega, p3, v13, v23, ?_, X2.out.trans z2⟩
          rw [← E.out]; exact z1
        case measure => simp [intOf]; omega
      · rw [e1] at CD
        have C := Lib.hid (holdF x1 (by omega) s.data[i] _ rfl : Calls Tryz.prog 95 #[.pointer (some ⟨b, 0, none⟩), .int .u8 ((s.data[i].toNat : Nat) : Int)] wr _)
        have E := Lib.hid ((e2 _).symm.trans SN.out.symm)
        have CD := Lib.hid CD
        clear x1 x2 e1 e2 SN SZ hz hG
        go_wp2_with (first
          | (go_at_call 64; refine CD.out.mono ?_; rintro e w' ⟨rfl, rfl⟩)
          | (go_at_call 95; refine C.out.mono ?_; rintro e w3 ⟨rfl, p3, v13, v23, z1, z2⟩))
        go_roundw
        case rel =>
          refine ⟨i + 1, by go_num, by omega, p3, v13, v23, ?_, X2.out.trans z2⟩
          rw [← E.out]; exact z1
        case measure => simp [intOf]; omega
      · rw [e1] at CD
        have C := Lib.hid (tell_any x1 hz s.data[i] _ rfl : Calls Tryz.prog 96 #[.pointer (some ⟨b, 0, none⟩), .int .u8 ((s.data[i].toNat : Nat) : Int)] wr _)
        have E := Lib.hid ((e2 _).symm.trans SN.out.symm)
        have CD := Lib.hid CD
        clear x1 x2 e1 e2 SN SZ hz hG
        go_wp2_with (first
          | (go_at_call 64; refine CD.out.mono ?_; rintro e w' ⟨rfl, rfl⟩)
          | (go_at_call 96; refine C.out.mono ?_; rintro e w3 ⟨rfl, p3, v13, v23, z1, z2⟩))
        go_roundw
        case rel =>
          refine ⟨i + 1, by go_num, by omega, p3, v13, v23, ?_, X2.out.trans z2⟩
          rw [← E.out]; exact z1
        case measure => simp [intOf]; omega
    · obtain rfl : i = s.size := by omega
      have e : s.data.toList.take s.size = s.data.toList := List.take_of_length_le (by rw [Lib.size_eq]; exact Nat.le_refl _)
      rw [e] at x1
      have X1 := Lib.hid x1
      have X2 := Lib.hid x2
      clear x1 x2 e
      go_wp2
      refine bodyPost_end (results_none rfl _ _ _) (by rfl) ?_
      exact ⟨rfl, _, _, _, X1.out, X2.out⟩

/-! the contracts -/
theorem did_floO {w : World} {b : Nat} {v1 v2 : Value} {f : FloP} {e : Ending} {w' : World} (h : Did w b v1 v2 f e w') : e = .returned (.tuple #[]) ∧ ∃ F', FloO ⟨b, 0, none⟩ f w' F' ∧ Moves (Foot b v1 v2) F' w w' := by
  obtain ⟨e1, p', v1', v2', h1, h2⟩ := h
  exact ⟨e1, _, ⟨b, p', v1', v2', rfl, h1, fun _ => Iff.rfl⟩, h2⟩
theorem floPut_any (g : Addr) (f : FloP) (s : ByteArray) (keep : Bool) (w : World) (F : Blocks) (h : FloO g f w F) (hs : f.size + s.size ≤ 1073741824) :
    Calls Tryz.prog 41 #[.pointer (some g), .string s, .bool keep] w fun e w' => e = .returned (.tuple #[]) ∧ ∃ F', FloO g (putL keep f s.data.toList) w' F' ∧ Moves F F' w w' := by
  obtain ⟨b, p, v1, v2, rfl, h1, rfl⟩ := floO_of h
  exact (putF_any f h1 s keep hs).mono fun e w' hd => did_floO hd
theorem floBreak_any (g : Addr) (f : FloP) (n : Int) (w : World) (F : Blocks) (h : FloO g f w F) (hs : f.size ≤ 1073741824) (hn : -9223372036854775808 ≤ n ∧ n ≤ 9223372036854775807) :
    Calls Tryz.prog 62 #[.pointer (some g), .int .i64 n] w fun e w' => e = .returned (.tuple #[]) ∧ ∃ F', FloO g (brkF n f) w' F' ∧ Moves F F' w w' := by
  obtain ⟨b, p, v1, v2, rfl, h1, rfl⟩ := floO_of h
  refine (breakF_any h1 n (by unfold FloP.size at hs; omega) hn).mono ?_
  rintro e w' ⟨rfl, v2', h2, h3⟩
  exact ⟨rfl, _, ⟨b, p, v1, v2', rfl, h2, fun _ => Iff.rfl⟩, h3⟩
theorem floLine_any (g : Addr) (f : FloP) (w : World) (F : Blocks) (h : FloO g f w F) (hs : f.size ≤ 1073741824) :
    Calls Tryz.prog 60 #[.pointer (some g)] w fun e w' => e = .returned (.tuple #[]) ∧ ∃ F', FloO g (lineF f) w' F' ∧ Moves F F' w w' := by
  obtain ⟨b, p, v1, v2, rfl, h1, rfl⟩ := floO_of h
  refine (lineF_any h1 (by unfold FloP.size at hs; omega)).mono ?_
  rintro e w' ⟨rfl, v2', h2, h3⟩
  exact ⟨rfl, _, ⟨b, p, v1, v2', rfl, h2, fun _ => Iff.rfl⟩, h3⟩
set_option maxRecDepth 100000 in
set_option maxHeartbeats 2000000 in
theorem floText_any (g : Addr) (f : FloP) (w : World) (F : Blocks) (h : FloO g f w F) (_ : f.size ≤ 1073741824) :
    Calls Tryz.prog 16 #[.pointer (some g)] w fun e w' => e = .returned (.string ⟨f.told.toArray⟩) ∧ ∃ F', FloO g f w' F' ∧ Moves F F' w w' := by
  obtain ⟨b, p, v1, v2, rfl, h1, rfl⟩ := floO_of h
  have C := Lib.hid (stringF h1)
  clear h h1
  go_enter Tryz.func16, Tryz.ntmps16
  go_wp2_with (go_at_call 18; refine C.out.mono ?_; rintro e w' ⟨rfl, x1, x2⟩; have X1 := Lib.hid x1; have X2 := Lib.hid x2; clear x1 x2)
  go_ret
  exact ⟨rfl, _, ⟨b, p, v1, v2, rfl, X1.out, fun _ => Iff.rfl⟩, X2.out⟩
set_option maxRecDepth 100000 in
set_option maxHeartbeats 2000000 in
theorem floNew_any (w : World) :
    Calls Tryz.prog 14 #[] w fun e w' => ∃ g F, e = .returned (.pointer (some g)) ∧ FloO g flo0 w' F ∧ (∀ k, F k → w.heap.size ≤ k) ∧ Below w.heap.size w w' := by
  have hX := Lib.hid (show FloX (w.alloc (.cells #[.pointer none, .slice none 0 0, .int .i64 ((0 : Nat) : Int), .slice none 0 0] 74)) w.heap.size (.pointer none) (.slice none 0 0) 0 (.slice none 0 0) [] [] from
    ⟨heap_alloc_new w _, .inl rfl, World.ownsRowF_nil _ _ _ _, World.ownsRow_nil _ _ _ _, fun k e => (by cases e), fun _ => rfl⟩)
  have hB := Lib.hid ((Below.refl w.heap.size w).alloc (Nat.le_refl _) (.cells #[.pointer none, .slice none 0 0, .int .i64 ((0 : Nat) : Int), .slice none 0 0] 74))
  go_enter Tryz.func14, Tryz.ntmps14
  go_wp2
  go_ret
  refine ⟨⟨w.heap.size, 0, none⟩, Foot w.heap.size (.slice none 0 0) (.slice none 0 0), rfl, ⟨w.heap.size, _, _, _, rfl, hX.out, fun _ => Iff.rfl⟩, ?_, hB.out⟩
  rintro k (e | e | e)
  · omega
  · cases e
  · cases e
end Go.Proofs.YtbcmfcddkegcoaaGreatDoor

/-! A row of texts of the call's own, as an object; what reads as a list of texts. -/
namespace Go.Proofs.YtbcmfcddkegcoaaGreatDoor
open Go.RowKit Go.Lib

def strsV (l : List Txt) : List Value := l.map fun x => .string ⟨x.toArray⟩
theorem strsV_len (l : List Txt) : (strsV l).length = l.length := List.length_map _
theorem strsV_app (l m : List Txt) : strsV l ++ strsV m = strsV (l ++ m) := by unfold strsV; rw [List.map_append]
theorem strsV_at (l : List Txt) (i : Nat) (h : i < l.length) : (strsV l)[i]? = some (.string ⟨l[i].toArray⟩) := by
  unfold strsV
  rw [List.getElem?_map, List.getElem?_eq_getElem h]; rfl
theorem strsV_one (l : List Txt) : ∀ u ∈ strsV l, u.oneCell' = true := by
  intro u hu
  obtain ⟨x, -, rfl⟩ := List.mem_map.1 hu
  rfl
/-- what reads as a list of texts -/
def StrsIs (w : World) (v : Value) (l : List Txt) : Prop :=
  ∃ a cap, v = .slice a l.length cap ∧ l.length ≤ cap ∧ cap ≤ maxLen ∧ ∀ i (h : i < l.length), ∃ x, a = some x ∧ w.cell? (x.add i) = some (.string ⟨l[i].toArray⟩)
theorem strsIs_row {w : World} {base : Nat} {v : Value} {l : List Txt} (h : w.ownsRow base 9 1 v l.length (strsV l)) : StrsIs w v l := by
  have hc := fun g hg => h.cells (g := g) hg
  rcases h.2 with ⟨rfl, h0⟩ | ⟨g, cap, cur, rfl, hb, hg, hn, hm, hs, htake⟩
  · exact ⟨none, 0, by rw [h0], by omega, by simp [maxLen], fun i hi => by omega⟩
  · exact ⟨_, cap, rfl, hn, hm, fun i hi => ⟨_, rfl, hc g rfl i _ (strsV_at l i hi)⟩⟩
/-- a row of texts of the call's own -/
def StrO (v : Value) (l : List Txt) : Own := fun w F => w.ownsRow 0 9 1 v l.length (strsV l) ∧ ∀ k, F k ↔ v.ownBlock = some k
theorem strO_lies (v : Value) (l : List Txt) : Lies (StrO v l) := by
  refine ⟨?_, ?_⟩
  · rintro w F ⟨h, hF⟩ k hk
    exact (h.lt k ((hF k).1 hk)).2
  · rintro w w' F ⟨h, hF⟩ hk
    refine ⟨⟨h.1, ?_⟩, hF⟩
    rcases h.2 with h0 | ⟨g, cap, cur, rfl, hb, hg, h4⟩
    · exact .inl h0
    · exact .inr ⟨g, cap, cur, rfl, hb, (hk g ((hF g).2 rfl)).trans hg, h4⟩
theorem strO_nil {w0 w : World} {R : Own} (h : Made w0 w R) (hR : Lies R) : Made w0 w (Sep (StrO (.slice none 0 0) []) R) :=
  h.more hR (Below.refl _ w) (S := StrO (.slice none 0 0) []) (F := fun _ => False) ⟨World.ownsRow_nil _ _ _ _, fun k => ⟨fun h => h.elim, fun h => by cases h⟩⟩ (fun k hk => hk.elim)
theorem strO_is {w0 w : World} {v : Value} {l : List Txt} {R : Own} (h : Made w0 w (Sep (StrO v l) R)) : StrsIs w v l := by
  obtain ⟨F, hF, -, -⟩ := h.first
  exact strsIs_row hF.1
theorem strO_row {w0 w : World} {v : Value} {l : List Txt} {R : Own} (h : Made w0 w (Sep (StrO v l) R)) : w.ownsRow 0 9 1 v l.length (strsV l) := by
  obtain ⟨F, hF, -, -⟩ := h.first
  exact hF.1
theorem info_strO : (Tryz.prog.info? 9).map (fun i => (i.zero, i.size, i.bytes)) = some (some (.string ⟨#[]⟩), 1, 16) := by kernel_rfl
/-- texts put behind a row -/
theorem wpList_append_strO {ops : Array Oper} {rest : List Oper} {o : Oper} {a : Act} {w0 w : World} {P : Exit → Act → World → Prop} (hgd : o.guard = none) (s x : Operand)
    (ho : o.op = .call { callee := .builtin .append, args := #[s, x], argTypes := #[43, 43] }) (v : Value) (l m : List Txt) (R : Own) (hR : Lies R) (hs : a.eval s = v) (hM : Made w0 w (Sep (StrO v l) R))
    (ad : Addr) (c : Nat) (n : Nat) (hx : a.eval x = .slice (some ad) n c) (hn : n = m.length) (hnews : ∀ i (h : i < m.length), w.cell? (ad.add i) = some (.string ⟨m[i].toArray⟩)) (hlen : l.length + m.length ≤ 1073741824)
    (h : ∀ v' w', Made w0 w' (Sep (StrO v' (l ++ m)) R) → wpList Tryz.prog ops P rest (a.put o.dst v') w') : wpList Tryz.prog ops P (o :: rest) a w := by
  obtain ⟨i0, hi0, hz0, hz1, hz2⟩ := info_parts info_strO
  obtain ⟨F, hF, -, hk⟩ := hM.first
  subst hn
  refine wpList_append_own_at (w := w) hgd s x 43 ho 0 9 i0 _ 1 16 Tryz.underlying43 hi0 hz0 hz1 hz2 rfl (by decide) v l.length (strsV l) hs hF.1 ad m.length c (strsV m) hx (by rw [strsV_len, Nat.mul_one]) ?_ (strsV_one m) (by unfold maxLen; omega) (by omega) (Nat.zero_le _) ?_
  · intro j u hj
    have hjl : j < m.length := by
      have := (List.getElem?_eq_some_iff.1 hj).1
      rwa [strsV_len] at this
    rw [strsV_at m j hjl] at hj
    rw [hnews j hjl]; exact hj
  · intro v1 w1 hown hgr _ hat
    refine h v1 w1 (hk w1 (StrO v1 (l ++ m)) (fun k => v1.ownBlock = some k) hR ⟨by rw [List.length_append, ← strsV_app]; exact hown, fun _ => Iff.rfl⟩ ⟨hgr.os, hgr.tape, hgr.output, hgr.size, fun k hkk hFk => hgr.block k hkk (fun e => hFk ((hF.2 k).2 e.symm)), fun k hkk => ?_⟩)
    rcases hat with e | e
    · exact .inl ((hF.2 k).2 (by rw [← e]; exact hkk))
    · refine .inr ?_
      rw [e] at hkk
      have := Option.some.inj hkk
      omega
end Go.Proofs.YtbcmfcddkegcoaaGreatDoor
