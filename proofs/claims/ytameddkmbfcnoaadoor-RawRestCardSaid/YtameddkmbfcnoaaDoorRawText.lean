/-
  What a text says that ends with its own tag.
-/
import Derived.Test.YtameddkmbfcnoaaDoorRawMath
import Derived.Test.YtameddkmbfcnoaaDoorP6
namespace Go.Proofs.YtameddkmbfcnoaaDoor
open Go.RowKit Go.Lib

/-- P12.2 -/
def rawT (refs : Bool) (l : Txt) : Txt := cleanL (if refs = true then ddL false l else l)
theorem dd_same : ∀ l : Txt, 38 ∉ l → ddL false l = l
  | [], _ => rfl
  | c :: l, h => by
    rw [List.mem_cons, not_or] at h
    rw [dd_plain false c l (fun e => h.1 e.symm), dd_same l h.2]
theorem raw_same (refs : Bool) (l : Txt) (h : 38 ∉ l) (h0 : 0 ∉ l) : rawT refs l = l := by
  unfold rawT
  cases refs
  · rw [if_neg Bool.false_ne_true]; exact cleanL_same l h0
  · rw [if_pos rfl, dd_same l h]; exact cleanL_same l h0
end Go.Proofs.YtameddkmbfcnoaaDoor
