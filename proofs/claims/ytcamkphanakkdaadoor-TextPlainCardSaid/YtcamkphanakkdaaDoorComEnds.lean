/-
  What package comment's functions answer that hold ends against what stands there.
-/
import Derived.Test.YtcamkphanakkdaaDoorComRef
import Derived.Test.YtcamkphanakkdaaDoorShelf
namespace Go.Proofs.YtcamkphanakkdaaDoor
open Go.RowKit Go.Lib

/-- how long the end is that a text begins with, of two -/
def stN (A B l : Txt) : Nat := if A.isPrefixOf l = true then A.length else if B.isPrefixOf l = true then B.length else 0

/-- strings.CutSuffix -/
def cutSV (s p : ByteArray) : Value := .tuple #[.string (if p.data.toList.isSuffixOf s.data.toList = true then s.extract 0 (s.size - p.size) else s), .bool (p.data.toList.isSuffixOf s.data.toList)]
theorem take_str (s : ByteArray) (n : Nat) : s.extract 0 n = ⟨(s.data.toList.take n).toArray⟩ := str_ext (by rw [take_text, List.toList_toArray])
end Go.Proofs.YtcamkphanakkdaaDoor
