/-
  What package utf's beginning and broken answer, for every text.
-/
import Derived.Test.YtnbafhaajckdcaaDoorUtfCode
import Derived.Deep.QuietTactic
import Derived.BigQuiet
import Derived.LoopN
namespace Go.Proofs.YtnbafhaajckdcaaDoor
open Go.RowKit Go.Lib

theorem beg_cast {n m : Nat} (h : n = m) : Ending.returned (.int .i64 (m : Int)) = .returned (.int .i64 (n : Int)) := by rw [h]

theorem badL_lit : (ByteArray.mk #[239, 191, 189]).data.toList = badL := rfl
end Go.Proofs.YtnbafhaajckdcaaDoor
