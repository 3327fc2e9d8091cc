/-
  What the document's Begins of layer 3 answers, for every input.
-/
import Derived.Test.YtdpgdcbclgdjaaaDoorSignRef
import Derived.Deep.RegionHeld3
namespace Go.Proofs.YtdpgdcbclgdjaaaDoor
open Go.RowKit Go.Lib

theorem i64_wrap (x : Int) (h0 : -9223372036854775808 ≤ x) (h1 : x ≤ 9223372036854775807) : IntKind.i64.wrap x = x := by rw [IntKind.wrap_i64]; omega
theorem cmp_one (s low : ByteArray) (a k : Nat) (h1 : k < low.size) (h2 : a + k < s.size) :
    ((lowS (s.extract (a + k) (a + k + 1))).toList == (low.extract k (k + 1)).toList) = decide (lowI (s[a + k].toNat : Int) = (low[k].toNat : Int)) := by
  rw [str_beq, lowS_list, extract_one s (a + k) h2, extract_one low k h1]
  congr 1
  have := lowB_int s[a + k]
  rw [← this, show lowL [s[a + k]] = [lowB s[a + k]] from rfl]
  simp only [List.cons.injEq, and_true]
  rw [← UInt8.toNat_inj, Int.ofNat_inj]
end Go.Proofs.YtdpgdcbclgdjaaaDoor
