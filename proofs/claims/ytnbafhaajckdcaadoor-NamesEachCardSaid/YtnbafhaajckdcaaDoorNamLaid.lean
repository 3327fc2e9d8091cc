/-
  The library's variable for an error: what the row's list gives, and a world that holds all that is listed.
-/
import Derived.Test.YtnbafhaajckdcaaDoorTie
import Derived.Test.YtnbafhaajckdcaaDoorNamInt
import Derived.ProofKit
import Derived.OpenShut
import Derived.Deep.DeepHandedRow
import Derived.LaidMore
import Derived.LaidLaws
import Derived.RowKitTokens
namespace Go.Proofs.YtnbafhaajckdcaaDoor
open Go.ChangeShapes Go.WideShapes Go.ChangeAt Go.RowKit

theorem gErr : Tryd.prog.globalNamed "strconv.ErrSyntax" = some 1 := by kernel_rfl
theorem gErrType : (Tryd.prog.globals[1]?).map (·.type) = some 55 := by kernel_rfl
theorem cellsErrS : Tryd.prog.cellsOf 81 = 1 := by kernel_rfl
theorem cellsStr : Tryd.prog.cellsOf 9 = 1 := by kernel_rfl
theorem starErr : "*" ++ "errors.errorString" = "*errors.errorString" := by decide
theorem rowErr (u : TypeId) (h : Tryd.prog.typeName? 3 u = some "*errors.errorString") : u = 79 :=
  typeName_ptr_named (nm := "errors.errorString") (by rw [starErr]; kernel_rfl) (by kernel_rfl) (by decide) u (by rw [starErr]; exact h)

abbrev TabAt := ErrAt
/-- what the row's list gives: the variable holds an error -/
theorem tabAt_of {W : World} (h : laidMetH Tryd.prog Rows.namesTellsRow.laid W) : TabAt W := by
  have h' : laidMet Tryd.prog Rows.namesTellsRow.laid W := h
  obtain ⟨ps, ⟨g0, t0, cs0, f0, p0, q0, hg0, ht0, hv0, hd0, ⟨g1, t1, cs1, f1, p1, q1, hg1, ht1, hv1, hd1, ⟨g2, t2, cs2, f2, p2, q2, hg2, ht2, hv2, hd2, ⟨g3, t3, cs3, f3, p3, q3, hg3, ht3, hv3, hd3, ⟨g4, t4, cs4, f4, p4, q4, hg4, ht4, hv4, hd4, hq4, e4⟩, e3⟩, e2⟩, e1⟩, e0⟩, hnd, hrows⟩ := h'
  obtain rfl := Option.some.inj (gErr.symm.trans hg4)
  obtain rfl := Option.some.inj (gErrType.symm.trans ht4)
  obtain ⟨l4⟩ := cs4
  have ok4 : ∀ u v, l4 = [.iface u v] → Value.okWide Tryd.prog W .any 0 u v := fun u v e => by
    subst e
    subst e4; subst e3; subst e2; subst e1; subst e0
    exact (hrows 1 0 (by simp [MemPlace.row])).2 u v (by simpa using World.var?_cell hg4 hv4 0)
  obtain ⟨a4, s4, rfl, -⟩ := errorString_of_trod Tryd.underlying55 rowErr Tryd.underlying79 Tryd.underlying81 rfl rfl Tryd.underlying9 cellsErrS cellsStr hd4 ok4
  have hc : W.cell? ⟨1, 0, none⟩ = some (.iface 79 (.pointer (some a4))) := by simpa using World.var?_cell gErr hv4 0
  refine ⟨?_, _, _, hc⟩
  rcases Nat.lt_or_ge 1 W.heap.size with h' | h'
  · exact h'
  · simp [World.cell?, Array.getElem?_eq_none h'] at hc

/-- a world for the witness: the settled one, its heap the one that the initialisers leave -/
noncomputable def laidWorld (os : Os) : World := World.doorLaid Tryd.prog 62 os
theorem laid_try (os : Os) : laidMet Tryd.prog Rows.namesTellsRow.laid ((laidWorld os).forCall (fun _ _ => 0) ⟨#[], #[.int .u32 0, .int .u32 0], []⟩).memory :=
  laidMet_of_run' 8 (by kernel_rfl) (by kernel_rfl)
theorem vars_try (os : Os) : ((laidWorld os).forCall (fun _ _ => 0) ⟨#[], #[.int .u32 0, .int .u32 0], []⟩).variablesB Tryd.prog = true := by kernel_rfl
theorem heap_try (os : Os) : (((laidWorld os).forCall (fun _ _ => 0) ⟨#[], #[.int .u32 0, .int .u32 0], []⟩).heap.toList.drop Tryd.prog.globals.size).take ((begin Tryd.prog (fun _ _ => 0) default).world.heap.size - Tryd.prog.globals.size) =
      (begin Tryd.prog (fun _ _ => 0) default).world.heap.toList.drop Tryd.prog.globals.size := by kernel_rfl
end Go.Proofs.YtnbafhaajckdcaaDoor
