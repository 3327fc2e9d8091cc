/-
  What the document's add of layer 8 does with its own list, and what Same tells of two.
-/
import Derived.Test.YtpdmnnfbdeiejaaDoorAttMath
import Derived.Test.YtpdmnnfbdeiejaaDoorP3
import Derived.Test.YtpdmnnfbdeiejaaDoorP4
import Derived.Test.YtpdmnnfbdeiejaaDoorP1
import Derived.Test.YtpdmnnfbdeiejaaDoorP6
namespace Go.Proofs.YtpdmnnfbdeiejaaDoor
open Go.RowKit Go.Lib

theorem info_attr : (Tryd.prog.info? 27).map (fun i => (i.zero, i.size, i.bytes)) = some (some (.agg #[.string ⟨#[]⟩, .string ⟨#[]⟩]), 2, 32) := by kernel_rfl
/-- an own row stands where the memory only grows -/
theorem own_below {w w' : World} {base e size : Nat} {v : Value} {n : Nat} {xs : List Value} (h : w.ownsRow base e size v n xs) (hb : Below w.heap.size w w') : w'.ownsRow base e size v n xs :=
  h.kept (row := none) ⟨hb.os, hb.tape, hb.output, hb.size, fun k hk _ => hb.block k hk⟩ (Classical.em _)
theorem any_not (l : List Ln) (N : Txt) (h : ∀ j (hj : j < l.length), l[j].1 ≠ N) : l.any (fun r => r.1 == N) = false := by
  rw [List.any_eq_false]
  intro r hr
  obtain ⟨j, hj, rfl⟩ := List.getElem_of_mem hr
  simpa using h j hj
theorem any_is (l : List Ln) (N : Txt) (j : Nat) (hj : j < l.length) (h : l[j].1 = N) : l.any (fun r => r.1 == N) = true := by
  rw [List.any_eq_true]
  exact ⟨l[j], List.getElem_mem hj, by simpa using h⟩

end Go.Proofs.YtpdmnnfbdeiejaaDoor
