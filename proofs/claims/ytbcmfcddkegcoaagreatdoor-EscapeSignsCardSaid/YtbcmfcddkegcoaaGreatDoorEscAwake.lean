/-
  The chapter's examples, as the statements of layer 21 ask for them.
-/
import Derived.Test.YtbcmfcddkegcoaaGreatDoorEscCode
import Derived.Test.YtbcmfcddkegcoaaGreatDoorEscSign
import Derived.KernelRfl
import Derived.WalkKit
namespace Go.Proofs.YtbcmfcddkegcoaaGreatDoor
open Go.RowKit Go.Lib

theorem ex21 : (⟨(encD 0 [97, 60, 98]).toArray⟩ : ByteArray) = ⟨#[97, 38, 108, 116, 59, 98]⟩ ∧ (⟨(encD 2 [10, 97]).toArray⟩ : ByteArray) = ⟨#[10, 10, 97]⟩ ∧ (⟨(encD 1 [10, 97]).toArray⟩ : ByteArray) = ⟨#[10, 97]⟩ := by refine ⟨?_, ?_, ?_⟩ <;> kernel_rfl
theorem named21 (l : List UInt8) : ∃ A : ByteArray, (⟨l.toArray⟩ : ByteArray) = A ∧ A.data.toList = l ∧ A.size = l.length := ⟨_, rfl, by rw [List.toList_toArray], by rw [Lib.size_eq, List.toList_toArray]⟩

set_option maxRecDepth 100000 in
set_option maxHeartbeats 1000000 in
theorem escAwake_any (w : World) :
    Calls Tryz.prog 4 #[] w fun e w' => e = .returned (.bool true) ∧ Below w.heap.size w w' := by
  obtain ⟨t1, t2, t3⟩ := ex21
  have H1 := fun w => Lib.hid (escEnc_any 0 ⟨#[97, 60, 98]⟩ w (by decide) (by decide))
  have H2 := fun w => Lib.hid (escEnc_any 2 ⟨#[10, 97]⟩ w (by decide) (by decide))
  have H3 := fun w => Lib.hid (escEnc_any 1 ⟨#[10, 97]⟩ w (by decide) (by decide))
  rw [show (⟨#[97, 60, 98]⟩ : ByteArray).data.toList = [97, 60, 98] from rfl, t1] at H1
  rw [show (⟨#[10, 97]⟩ : ByteArray).data.toList = [10, 97] from rfl, t2] at H2
  rw [show (⟨#[10, 97]⟩ : ByteArray).data.toList = [10, 97] from rfl, t3] at H3
  clear t1 t2 t3
  go_enter Tryz.func4, Tryz.ntmps4
  go_wp2_with (fail)
  refine (H1 _).out.mono ?_
  rintro e w1 ⟨rfl, c1⟩
  have B1 := Lib.hid c1
  clear c1
  go_wp2_with (fail)
  refine (H2 _).out.mono ?_
  rintro e w2 ⟨rfl, c2⟩
  have B2 := Lib.hid (B1.out.trans (c2.mono B1.out.size))
  clear c2
  go_wp2_with (fail)
  refine (H3 _).out.mono ?_
  rintro e w3 ⟨rfl, c3⟩
  have B3 := Lib.hid (B2.out.trans (c3.mono B2.out.size))
  clear c3
  go_wp2
  go_ret
  exact ⟨rfl, B3.out⟩
end Go.Proofs.YtbcmfcddkegcoaaGreatDoor
