/-
  What writing to a Builder does, at this program: copyCheck, WriteString, WriteRune. (The library's own contracts speak of another text of copyCheck: in this program its last arm is cut off.)
-/
import Derived.Test.YtnbafhaajckdcaaDoorShelf
import Derived.WalkKit
import Derived.BigCall
import Derived.Lib.RuneBytes
namespace Go.Proofs.YtnbafhaajckdcaaDoor
open Go.RowKit Go.Shelf

theorem infoByte : (Tryd.prog.info? 5).map (fun i => (i.zero, i.size, i.bytes)) = some (some (.int .u8 0), 1, 1) := by kernel_rfl

/-- a block that stands -/
theorem lt_of_block {w : World} {b : Nat} {o : Obj} (h : w.heap[b]? = some o) : b < w.heap.size := (Array.getElem?_eq_some_iff.1 h).1

end Go.Proofs.YtnbafhaajckdcaaDoor
