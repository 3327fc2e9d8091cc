/-
  Slices of texts and of integers, as a law is handed them.
-/
import Derived.Test.YtpdmnnfbdeiejaaDoorP1
namespace Go.Proofs.YtpdmnnfbdeiejaaDoor
open Go.RowKit Go.Lib
def IsStrs (w : World) (a : Option Addr) (len cap : Nat) (f : Nat → ByteArray) : Prop :=
  len ≤ cap ∧ cap ≤ maxLen ∧ ∀ i, i < len → ∃ x, a = some x ∧ w.cell? (x.add i) = some (.string (f i))
theorem IsStrs.below {w w' : World} {B : Nat} {a : Option Addr} {len cap : Nat} {f : Nat → ByteArray} (h : IsStrs w a len cap f) (hb : Below B w w') (hB : w.heap.size ≤ B) : IsStrs w' a len cap f := by
  refine ⟨h.1, h.2.1, fun i hi => ?_⟩
  obtain ⟨x, hx, h1⟩ := h.2.2 i hi
  have b1 := block_lt_of_cell h1
  exact ⟨x, hx, (hb.cell (by omega)).trans h1⟩
def IsInts (k : IntKind) (w : World) (a : Option Addr) (len cap : Nat) (z : Nat → Int) : Prop :=
  len ≤ cap ∧ cap ≤ maxLen ∧ ∀ i, i < len → ∃ x, a = some x ∧ w.cell? (x.add i) = some (.int k (z i)) ∧ (Lit.int k (z i)).wf = true
theorem IsInts.below {k : IntKind} {w w' : World} {B : Nat} {a : Option Addr} {len cap : Nat} {z : Nat → Int} (h : IsInts k w a len cap z) (hb : Below B w w') (hB : w.heap.size ≤ B) : IsInts k w' a len cap z := by
  refine ⟨h.1, h.2.1, fun i hi => ?_⟩
  obtain ⟨x, hx, h1, h2⟩ := h.2.2 i hi
  have b1 := block_lt_of_cell h1
  exact ⟨x, hx, (hb.cell (by omega)).trans h1, h2⟩
end Go.Proofs.YtpdmnnfbdeiejaaDoor
