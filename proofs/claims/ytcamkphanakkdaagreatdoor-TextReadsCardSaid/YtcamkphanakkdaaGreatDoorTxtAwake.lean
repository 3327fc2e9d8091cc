/-
  The chapter's example, and more, as the statements of layer 14 ask for them.
-/
import Derived.Test.YtcamkphanakkdaaGreatDoorTxtCode
import Derived.KernelRfl
namespace Go.Proofs.YtcamkphanakkdaaGreatDoor
open Go.RowKit Go.Lib

set_option maxRecDepth 100000 in
theorem tx1 : txtV [97, 32, 60, 32, 98, 60, 47, 62, 99] 0 = [97, 32, 60, 32, 98] := by kernel_rfl
set_option maxRecDepth 100000 in
theorem tx2 : nextV [97, 32, 60, 32, 98, 60, 47, 62, 99] 0 = 5 := by kernel_rfl
theorem tx3 : mkV [60, 47, 62] 0 = true := by kernel_rfl
theorem tx4 : nextV [97, 60, 98, 62] 0 = 1 := by kernel_rfl

set_option maxRecDepth 100000 in
set_option maxHeartbeats 4000000 in
theorem txtAwake_any (w : World) (h : LaidAt w) :
    Calls Tryz.prog 4 #[] w fun e w' => e = .returned (.bool true) ∧ Below w.heap.size w w' := by
  have HW := Lib.hid h
  have H1 := fun w h => Lib.hid (txtRead_any ⟨#[97, 32, 60, 32, 98, 60, 47, 62, 99]⟩ 0 w (by decide) (by decide) h)
  have H2 := fun w h => Lib.hid (txtBegins_any ⟨#[60, 47, 62]⟩ 0 w (by decide) (by decide) h)
  have H3 := fun w h => Lib.hid (txtNext_any ⟨#[97, 60, 98, 62]⟩ 0 w (by decide) (by decide) h)
  rw [show txtV (⟨#[97, 32, 60, 32, 98, 60, 47, 62, 99]⟩ : ByteArray).data.toList 0 = [97, 32, 60, 32, 98] from tx1, show nextV (⟨#[97, 32, 60, 32, 98, 60, 47, 62, 99]⟩ : ByteArray).data.toList 0 = 5 from tx2] at H1
  rw [show mkV (⟨#[60, 47, 62]⟩ : ByteArray).data.toList 0 = true from tx3] at H2
  rw [show nextV (⟨#[97, 60, 98, 62]⟩ : ByteArray).data.toList 0 = 1 from tx4] at H3
  clear h
  go_enter Tryz.func4, Tryz.ntmps4
  go_wp2_with (fail)
  refine (H1 _ HW.out).out.mono ?_
  rintro e w1 ⟨rfl, b1⟩
  have B1 := Lib.hid b1
  go_wp2_with (fail)
  refine (H2 _ (HW.out.below B1.out)).out.mono ?_
  rintro e w2 ⟨rfl, b2⟩
  have B2 := Lib.hid (B1.out.trans (b2.mono B1.out.size))
  go_wp2_with (fail)
  refine (H3 _ (HW.out.below B2.out)).out.mono ?_
  rintro e w3 ⟨rfl, b3⟩
  have B3 := Lib.hid (B2.out.trans (b3.mono B2.out.size))
  go_wp2
  go_ret
  exact ⟨ret_bool (by simp), B3.out⟩
end Go.Proofs.YtcamkphanakkdaaGreatDoor
