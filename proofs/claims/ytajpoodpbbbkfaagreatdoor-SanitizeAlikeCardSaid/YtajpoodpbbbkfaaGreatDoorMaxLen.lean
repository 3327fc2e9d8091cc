/-
  The library's variable internal/bytealg.MaxLen holds some number, whichever.
-/
import Derived.Test.YtajpoodpbbbkfaaGreatDoorShelf
import Derived.Test.YtajpoodpbbbkfaaGreatDoorP1
import Derived.Below
namespace Go.Proofs.YtajpoodpbbbkfaaGreatDoor
open Go.RowKit Go.Lib
structure qA (w:World):Prop where
 lt:0<w.heap.size
 cell:∃m,w.cell? ⟨0,0,none⟩=some (.int .i64 m)
theorem qA.below {w w':World} (h:qA w) (hb:Below w.heap.size w w'):qA w':=by
 obtain ⟨m,hm⟩:=h.cell
 exact ⟨Nat.lt_of_lt_of_le h.lt hb.size,m,(hb.cell (p:=⟨0,0,none⟩) h.lt).trans hm⟩
theorem Ig {w:World} (h:w.ShapedOpen Tryz.prog):qA w:=by
 obtain ⟨m,hm⟩:∃m,w.cell? ⟨0,0,none⟩=some (.int .i64 m):=
  Go.Proofs.cell_of_shapedOpen_int (zero:=#[.int .i64 0]) (t:=3) h (of_decide_eq_true (by kernel_rfl)) (by kernel_rfl) rfl (by kernel_rfl) (by kernel_rfl) Tryz.underlying3
 refine ⟨?_,m,hm⟩
 rcases Nat.lt_or_ge 0 w.heap.size with h'|h'
 ·exact h'
 ·simp [World.cell?,Array.getElem?_eq_none h'] at hm
end Go.Proofs.YtajpoodpbbbkfaaGreatDoor
