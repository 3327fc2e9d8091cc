/-
  What package doctype's Begins answers.
-/
import Derived.Test.YtcamkphanakkdaaGreatDoorDtMath
import Derived.Test.YtcamkphanakkdaaGreatDoorP1
import Derived.Test.YtcamkphanakkdaaGreatDoorP3
namespace Go.Proofs.YtcamkphanakkdaaGreatDoor
open Go.RowKit Go.Lib

/-- the package reads no variable -/
def DtLaid (_ : World) : Prop := True
theorem DtLaid.below {w w' : World} (_ : DtLaid w) (_ : Below w.heap.size w w') : DtLaid w' := trivial
theorem dtLaid_here (w : World) : DtLaid w := trivial

theorem beg_dctP (s : ByteArray) (a : Int) : begS s a ⟨#[60, 33, 100, 111, 99, 116, 121, 112, 101]⟩ = dbegV s.data.toList a := by
  by_cases h : 0 ≤ a ∧ a ≤ (s.size : Int)
  · unfold begS dbegV begD
    rw [decide_eq_true h, decide_eq_true h.1]; rfl
  · rw [dbeg_out s.data.toList a (by rw [← Lib.size_eq]; omega)]
    unfold begS; rw [decide_eq_false h, Bool.false_and]

set_option maxRecDepth 100000 in
set_option maxHeartbeats 1000000 in
/-- P11.1 -/
theorem dctBegins_any (s : ByteArray) (a : Int) (w : World) (hs : s.size ≤ 1048576) (ha : -9223372036854775808 ≤ a ∧ a ≤ 9223372036854775807) (_h : DtLaid w) :
    Calls Tryz.prog 27 #[.string s, .int .i64 a] w fun e w' => e = .returned (.bool (dbegV s.data.toList a)) ∧ Below w.heap.size w w' := by
  have HB := fun w => Lib.hid (begins s a ⟨#[60, 33, 100, 111, 99, 116, 121, 112, 101]⟩ w (by omega) (by decide) ha.1 ha.2)
  rw [beg_dctP] at HB
  clear ha
  go_enter Tryz.func27, Tryz.ntmps27
  go_wp2_with (fail)
  refine (HB _).out.mono ?_
  rintro e w1 ⟨rfl, n1, rfl⟩
  go_wp2
  go_ret
  exact ⟨rfl, dr_below _ _ _⟩
end Go.Proofs.YtcamkphanakkdaaGreatDoor
