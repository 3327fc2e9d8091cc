/-
  What tag's Read answers, as a statement asks for it.
-/
import Derived.Test.YtcamkphanakkdaaDoorTagMath
import Derived.Test.YtcamkphanakkdaaDoorPT
namespace Go.Proofs.YtcamkphanakkdaaDoor
open Go.RowKit Go.Lib

/-- what tag's Read answers -/
def TellT (s : ByteArray) (a : Int) (w : World) (e : Ending) (w' : World) : Prop :=
  ∃ t ad len cap n ok, e = .returned (.tuple #[tokA t ad len cap, .int .i64 n, .bool ok]) ∧ IsRows w' ad len cap t.attrs ∧ tagV s.data.toList a = (t, n, ok) ∧ Below w.heap.size w w'
end Go.Proofs.YtcamkphanakkdaaDoor
