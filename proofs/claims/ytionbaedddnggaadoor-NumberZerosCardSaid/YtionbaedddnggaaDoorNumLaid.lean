/-
  The program's table: what the row's list gives, and a world that holds it.
-/
import Derived.Test.YtionbaedddnggaaDoorTie
import Derived.Test.YtionbaedddnggaaDoorNumRead
import Derived.ProofKit
import Derived.OpenShut
import Derived.Deep.DeepHandedRow
import Derived.Lib.LaidTab
namespace Go.Proofs.YtionbaedddnggaaDoor
open Go.ChangeShapes Go.WideShapes Go.ChangeAt Go.RowKit

theorem gTab : Tryd.prog.globalNamed "flail/number.others" = some 0 := by kernel_rfl
theorem gTabType : (Tryd.prog.globals[0]?).map (·.type) = some 36 := by kernel_rfl
theorem cellsTab : Tryd.prog.cellsOf 36 = 32 := by kernel_rfl
theorem cellsInt : Tryd.prog.cellsOf 3 = 1 := by kernel_rfl

/-- what the row's list gives: the table's cells hold its numbers -/
theorem tabAt_of {W : World} (h : laidMetH Tryd.prog [("flail/number.others", Rows.laid_flail_number_others)] W) : TabAt W := by
  have hT : Lib.TabIs Tryd.prog W "flail/number.others" .i64 tabL := Lib.tabIs_of_head (rest := []) gTab gTabType Tryd.underlying36 Tryd.underlying3 cellsInt cellsTab h
  have hc : ∀ i, i < 32 → W.cell? ⟨0, i, none⟩ = some (.int .i64 (tabL.getD i 0)) := fun i hi => hT.cell gTab i hi
  refine ⟨?_, hc⟩
  rcases Nat.lt_or_ge 0 W.heap.size with h' | h'
  · omega
  · have := hc 0 (by decide)
    simp [World.cell?, Array.getElem?_eq_none h'] at this

/-- a world for the witness: the settled one, the table holding what its initialiser lays -/
noncomputable def laidWorld (os : Os) : World :=
  { World.holding Tryd.prog os ⟨#[], #[], []⟩ with heap := (World.holding Tryd.prog os ⟨#[], #[], []⟩).heap.modify 0 fun
      | .cells _ t frozen => .cells (tabL.map (Value.int .i64)).toArray t frozen
      | o => o }
end Go.Proofs.YtionbaedddnggaaDoor
