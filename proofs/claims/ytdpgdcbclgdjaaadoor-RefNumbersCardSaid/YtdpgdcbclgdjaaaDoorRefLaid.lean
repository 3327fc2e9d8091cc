/-
  The program's table and the library's variable for an error: what the row's list gives, and a world that holds all that is listed.
-/
import Derived.Test.YtdpgdcbclgdjaaaDoorTie
import Derived.Test.YtdpgdcbclgdjaaaDoorNamInt
import Derived.Test.YtdpgdcbclgdjaaaDoorNumRead
import Derived.ProofKit
import Derived.OpenShut
import Derived.Deep.DeepHandedRow
import Derived.LaidMore
import Derived.LaidLaws
import Derived.RowKitTokens
import Derived.Lib.LaidTab
namespace Go.Proofs.YtdpgdcbclgdjaaaDoor
open Go.ChangeShapes Go.WideShapes Go.ChangeAt Go.RowKit

theorem gErr : Tryd.prog.globalNamed "strconv.ErrSyntax" = some 2 := by kernel_rfl
theorem gErrType : (Tryd.prog.globals[2]?).map (·.type) = some 54 := by kernel_rfl
theorem cellsErrS : Tryd.prog.cellsOf 102 = 1 := by kernel_rfl
theorem cellsStr : Tryd.prog.cellsOf 9 = 1 := by kernel_rfl
theorem starErr : "*" ++ "errors.errorString" = "*errors.errorString" := by decide
theorem rowErr (u : TypeId) (h : Tryd.prog.typeName? 3 u = some "*errors.errorString") : u = 100 :=
  typeName_ptr_named (nm := "errors.errorString") (by rw [starErr]; kernel_rfl) (by kernel_rfl) (by decide) u (by rw [starErr]; exact h)
theorem gTab : Tryd.prog.globalNamed "flail/number.others" = some 0 := by kernel_rfl
theorem gTabType : (Tryd.prog.globals[0]?).map (·.type) = some 60 := by kernel_rfl
theorem cellsTab : Tryd.prog.cellsOf 60 = 32 := by kernel_rfl
theorem cellsInt : Tryd.prog.cellsOf 3 = 1 := by kernel_rfl

/-- both variables hold what the text lays -/
structure LaidAt (w : World) : Prop where
  tab : TabAt w
  err : ErrAt w
theorem LaidAt.below {w w' : World} (h : LaidAt w) (hb : Below w.heap.size w w') : LaidAt w' := ⟨h.tab.below hb, h.err.below hb⟩
set_option maxRecDepth 100000 in
/-- what the row's list gives -/
theorem tabAt_of {W : World} (h : laidMetH Tryd.prog Rows.refTellsRow.laid W) : LaidAt W := by
  have h' : laidMet Tryd.prog Rows.refTellsRow.laid W := h
  obtain ⟨ps, ⟨g0, t0, cs0, f0, p0, q0, hg0, ht0, hv0, hd0, ⟨g1, t1, cs1, f1, p1, q1, hg1, ht1, hv1, hd1, ⟨g2, t2, cs2, f2, p2, q2, hg2, ht2, hv2, hd2, ⟨g3, t3, cs3, f3, p3, q3, hg3, ht3, hv3, hd3, ⟨g4, t4, cs4, f4, p4, q4, hg4, ht4, hv4, hd4, ⟨g5, t5, cs5, f5, p5, q5, hg5, ht5, hv5, hd5, hq5, e5⟩, e4⟩, e3⟩, e2⟩, e1⟩, e0⟩, hnd, hrows⟩ := h'
  obtain rfl := Option.some.inj (gErr.symm.trans hg4)
  obtain rfl := Option.some.inj (gErrType.symm.trans ht4)
  obtain rfl := Option.some.inj (gTab.symm.trans hg5)
  obtain rfl := Option.some.inj (gTabType.symm.trans ht5)
  have hT : Lib.TabIs Tryd.prog W "flail/number.others" .i64 tabL := by
    have := Lib.cells_of_tab (zs := tabL) (k := .i64) Tryd.underlying60 Tryd.underlying3 cellsInt cellsTab hd5
    unfold Lib.TabIs
    rw [hv5, ← this]
  obtain ⟨l4⟩ := cs4
  have ok4 : ∀ u v, l4 = [.iface u v] → Value.okWide Tryd.prog W .any 0 u v := fun u v e => by
    subst e
    subst e5; subst e4; subst e3; subst e2; subst e1; subst e0
    exact (hrows 2 0 (by simp [MemPlace.row])).2 u v (by simpa using World.var?_cell hg4 hv4 0)
  obtain ⟨a4, s4, rfl, -⟩ := errorString_of_trod Tryd.underlying54 rowErr Tryd.underlying100 Tryd.underlying102 rfl rfl Tryd.underlying9 cellsErrS cellsStr hd4 ok4
  have hc : W.cell? ⟨2, 0, none⟩ = some (.iface 100 (.pointer (some a4))) := by simpa using World.var?_cell gErr hv4 0
  have hc5 : ∀ i, i < 32 → W.cell? ⟨0, i, none⟩ = some (.int .i64 (tabL.getD i 0)) := fun i hi => hT.cell gTab i hi
  refine ⟨⟨?_, hc5⟩, ?_, _, _, hc⟩
  · rcases Nat.lt_or_ge 0 W.heap.size with h' | h'
    · omega
    · have := hc5 0 (by decide)
      simp [World.cell?, Array.getElem?_eq_none h'] at this
  · rcases Nat.lt_or_ge 2 W.heap.size with h' | h'
    · exact h'
    · simp [World.cell?, Array.getElem?_eq_none h'] at hc

/-- a world for the witness: the settled one, its heap the one that the initialisers leave -/
noncomputable def laidWorld (os : Os) : World := World.doorLaid Tryd.prog 67 os
end Go.Proofs.YtdpgdcbclgdjaaaDoor
