/-
  A flow in a block of its own: what is told, how many lines' ends wait, which blanks: laws at the operations (a struct of three cells).
-/
import Derived.Test.YtappdjhhaohejaaFloMath
import Derived.Test.YtappdjhhaohejaaRec
namespace Go.Proofs.Ytappdjhhaohejaa
open Go.RowKit Go.Lib

def floCells (t : ByteArray) (n : Nat) (b : ByteArray) : Array Value := #[.string t, .int .i64 (n : Int), .string b]
def FloAt (T : TypeId) (w : World) (g : Nat) (t : ByteArray) (n : Nat) (b : ByteArray) : Prop := w.heap[g]? = some (.cells (floCells t n b) T (0, 0))
/-- as the mathematics has it -/
def FloIs (T : TypeId) (w : World) (g : Nat) (f : FloP) : Prop := FloAt T w g ⟨f.told.toArray⟩ f.ends ⟨f.blanks.toArray⟩
theorem FloAt.lt {T : TypeId} {w : World} {g : Nat} {t : ByteArray} {n : Nat} {b : ByteArray} (h : FloAt T w g t n b) : g < w.heap.size := (Array.getElem?_eq_some_iff.1 h).1
theorem FloAt.kept {T : TypeId} {w w' : World} {g : Nat} {t : ByteArray} {n : Nat} {b : ByteArray} {r : Option Nat} (h : FloAt T w g t n b) (hg : w.grownBy w' r) (hne : some g ≠ r) : FloAt T w' g t n b := (hg.block _ h.lt hne).trans h
theorem FloAt.below {T : TypeId} {w w' : World} {g : Nat} {t : ByteArray} {n : Nat} {b : ByteArray} (h : FloAt T w g t n b) (hb : Below w.heap.size w w') : FloAt T w' g t n b := (hb.block _ h.lt).trans h
theorem floAt_cells {T : TypeId} {w : World} {g : Nat} {t : ByteArray} {n : Nat} {b : ByteArray} (h : FloAt T w g t n b) :
    w.cell? ⟨g, 0, none⟩ = some (.string t) ∧ w.cell? ⟨g, 1, none⟩ = some (.int .i64 (n : Int)) ∧ w.cell? ⟨g, 2, none⟩ = some (.string b) := by
  refine ⟨?_, ?_, ?_⟩ <;> (rw [cell_of_row _ _ _ _ _ _ h]; rfl)
theorem floAt_thawed {T : TypeId} {w : World} {g : Nat} {t : ByteArray} {n : Nat} {b : ByteArray} (h : FloAt T w g t n b) (i : Nat) : w.frozen? ⟨g, i, none⟩ = false := by
  unfold FloAt at h
  simp [World.frozen?, h]
section
variable {P : Program} {ops : Array Oper} {rest : List Oper} {o : Oper} {a : Act} {w : World} {Q : Exit → Act → World → Prop}
theorem wpList_store_flo (T : TypeId) (hg : o.guard = none) (ty : TypeId) (x y : Operand) (ho : o.op = .store ty x y) (g i : Nat) (v : Value) (t t' : ByteArray) (n n' : Nat) (b b' : ByteArray)
    (hx : a.eval x = .pointer (some ⟨g, i, none⟩)) (hy : a.eval y = v) (hb : FloAt T w g t n b) (hi : i < 3) (hs : (P.info? ty).map (·.size) = some 1) (h1 : v.oneCell' = true) (hc : v.cells = #[v]) (hd : (floCells t n b).setIfInBounds i v = floCells t' n' b')
    (hK : ∀ w', FloAt T w' g t' n' b' → w.grownBy w' (some g) → wpList P ops Q rest (a.put o.dst undef) w') :
    wpList P ops Q (o :: rest) a w :=
  wpList_store_one hg ty x y ho g i v T hx hy (floCells t n b) hb hi hs h1 hc (fun w' h => hK w' (by unfold FloAt; rw [← hd]; exact h))
end
theorem FloAt.set {T : TypeId} {w : World} {g : Nat} {t : ByteArray} {n : Nat} {b : ByteArray} (h : FloAt T w g t n b) (i : Nat) (v : Value) {t' : ByteArray} {n' : Nat} {b' : ByteArray} (hd : (floCells t n b).setIfInBounds i v = floCells t' n' b') :
    FloAt T (w.setCell ⟨g, i, none⟩ v) g t' n' b' ∧ w.grownBy (w.setCell ⟨g, i, none⟩ v) (some g) := by
  refine ⟨?_, rfl, rfl, rfl, by simp, fun k _ hk => ?_⟩
  · unfold FloAt
    rw [← hd]
    exact Go.heap_setCell_same w g i _ T v h
  · exact Below.heap_setCell w ⟨g, i, none⟩ v _ (fun e => hk (congrArg some e))
theorem grown_none {w w' : World} (h : Below w.heap.size w w') (r : Option Nat) : w.grownBy w' r := ⟨h.os, h.tape, h.output, h.size, fun k hk _ => h.block k hk⟩
end Go.Proofs.Ytappdjhhaohejaa
