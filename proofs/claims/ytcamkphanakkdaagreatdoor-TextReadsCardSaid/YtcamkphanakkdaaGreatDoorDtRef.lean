/-
  What the document's answers of layer 11 are, but for Parse.
-/
import Derived.Test.YtcamkphanakkdaaGreatDoorDtLaws
import Derived.Test.YtcamkphanakkdaaGreatDoorRec
import Derived.Test.YtcamkphanakkdaaGreatDoorP1
import Derived.Test.YtcamkphanakkdaaGreatDoorP4
namespace Go.Proofs.YtcamkphanakkdaaGreatDoor
open Go.RowKit Go.Lib

theorem ne_byte (c d : UInt8) : (((c.toNat : Nat) : Int) == ((d.toNat : Nat) : Int)) = !(c != d) := by
  rw [Bool.eq_iff_iff, beq_iff_eq]
  simp only [Bool.not_eq_true', bne_eq_false_iff_eq]
  rw [← UInt8.toNat_inj]; omega

theorem beg_dct (s : ByteArray) (a : Int) : begS s a ⟨#[60, 33, 100, 111, 99, 116, 121, 112, 101]⟩ = dbegV s.data.toList a := by
  by_cases h : 0 ≤ a ∧ a ≤ (s.size : Int)
  · unfold begS dbegV
    rw [decide_eq_true h, decide_eq_true h.1]
    rfl
  · rw [dbeg_out _ _ (fun e => h ⟨e.1, by rw [Lib.size_eq]; omega⟩)]
    unfold begS
    rw [decide_eq_false h, Bool.false_and]

set_option maxRecDepth 100000 in
set_option maxHeartbeats 1000000 in
theorem refBegins11_any (s : ByteArray) (a : Int) (w : World) (hs : s.size ≤ 1048576) (ha : -9223372036854775808 ≤ a ∧ a ≤ 9223372036854775807) :
    Calls Tryz.prog 17 #[.string s, .int .i64 a] w fun e w' => e = .returned (.bool (dbegV s.data.toList a)) ∧ Below w.heap.size w w' := by
  have HB := fun w => Lib.hid (refBegins s a ⟨#[60, 33, 100, 111, 99, 116, 121, 112, 101]⟩ w (by omega) (by decide) ha.1 ha.2)
  rw [beg_dct] at HB
  obtain ⟨B, hB⟩ : ∃ B, dbegV s.data.toList a = B := ⟨_, rfl⟩
  rw [hB] at HB ⊢
  clear hB
  go_enter Tryz.func17, Tryz.ntmps17
  go_wp2_with (fail)
  refine (HB _).out.mono ?_
  rintro e w1 ⟨rfl, b1⟩
  go_wp2
  go_ret
  exact ⟨rfl, b1⟩

end Go.Proofs.YtcamkphanakkdaaGreatDoor
