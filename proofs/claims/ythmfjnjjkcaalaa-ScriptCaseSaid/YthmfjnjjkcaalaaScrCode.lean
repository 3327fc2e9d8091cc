/-
  What package script answers, and raw's Ends and Find, where the library's variable internal/bytealg.MaxLen holds some number.
-/
import Derived.Test.YthmfjnjjkcaalaaScrGo
import Derived.Test.YthmfjnjjkcaalaaScrRef
import Derived.Test.YthmfjnjjkcaalaaScrWith
import Derived.Test.YthmfjnjjkcaalaaRawFind
import Derived.Test.YthmfjnjjkcaalaaP4
namespace Go.Proofs.Ythmfjnjjkcaalaa
open Go.RowKit Go.Lib

def ScrLaid (w : World) : Prop := MaxAt w
theorem ScrLaid.below {w w' : World} (h : ScrLaid w) (hb : Below w.heap.size w w') : ScrLaid w' := MaxAt.below h hb
theorem scrFind_any (s : ByteArray) (a : Int) (w : World) (hs : s.size ≤ 1048576) (ha : -9223372036854775808 ≤ a ∧ a ≤ 9223372036854775807) (_h : ScrLaid w) :
    Calls Try.prog 10 #[.string s, .int .i64 a] w fun e w' => e = .returned (.tuple #[.int .i64 ((scrP s.data.toList a).1 : Int), .int .i64 ((scrP s.data.toList a).2 : Int)]) ∧ Below w.heap.size w w' := find13_any s a w hs ha
theorem scrEnds_any (s : ByteArray) (a : Int) (nm : ByteArray) (w : World) (hs : s.size ≤ 1048576) (hn : nm.size ≤ 1048576) (ha : -9223372036854775808 ≤ a ∧ a ≤ 9223372036854775807) (_h : ScrLaid w) :
    Calls Try.prog 15 #[.string s, .int .i64 a, .string nm] w fun e w' => e = .returned (.bool (endV nm.data.toList s.data.toList a)) ∧ Below w.heap.size w w' := ends_any s a nm w hs hn ha
theorem scrRaw_any (s : ByteArray) (a : Int) (nm : ByteArray) (w : World) (hs : s.size ≤ 1048576) (hn : nm.size ≤ 1048576) (ha : -9223372036854775808 ≤ a ∧ a ≤ 9223372036854775807) (h : ScrLaid w) :
    Calls Try.prog 14 #[.string s, .int .i64 a, .string nm] w fun e w' => e = .returned (.int .i64 (findV nm.data.toList s.data.toList a : Int)) ∧ Below w.heap.size w w' := find_any s a nm w hs hn ha h
set_option maxRecDepth 100000 in
set_option maxHeartbeats 1000000 in
theorem scrText_any (s : ByteArray) (w : World) (hs : s.size ≤ 1048576) (_h : ScrLaid w) :
    Calls Try.prog 12 #[.string s] w fun e w' => e = .returned (.string ⟨(cleanL s.data.toList).toArray⟩) ∧ Below w.heap.size w w' := by
  have HC := fun w => Lib.hid (clean_any s w (by omega))
  go_enter Try.func12, Try.ntmps12
  go_wp2_with (fail)
  refine (HC _).out.mono ?_
  rintro e w1 ⟨rfl, b1⟩
  go_wp2
  go_ret
  exact ⟨rfl, b1⟩
end Go.Proofs.Ythmfjnjjkcaalaa
