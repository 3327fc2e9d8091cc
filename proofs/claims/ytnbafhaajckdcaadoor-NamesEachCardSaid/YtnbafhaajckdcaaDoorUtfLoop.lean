/-
  What package utf's Right and Decode answer, for every argument.
-/
import Derived.Test.YtnbafhaajckdcaaDoorUtfBeg
import Derived.Lib.OthersKept
namespace Go.Proofs.YtnbafhaajckdcaaDoor
open Go.RowKit Go.Lib

theorem drop_ne (s : ByteArray) (pos : Nat) (h : pos < s.size) : s.data.toList.drop pos ≠ [] := by
  intro h0
  have := congrArg List.length h0
  rw [List.length_drop, ← size_eq] at this
  simp at this
  omega
theorem drop_end (s : ByteArray) (pos : Nat) (h : ¬ pos < s.size) : s.data.toList.drop pos = [] :=
  List.drop_eq_nil_of_le (by rw [← size_eq]; omega)

end Go.Proofs.YtnbafhaajckdcaaDoor
