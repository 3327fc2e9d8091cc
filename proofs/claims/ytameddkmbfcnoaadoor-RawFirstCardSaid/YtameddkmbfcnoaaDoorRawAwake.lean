/-
  The chapter's example, and more, as the statements of layer 12 ask for them.
-/
import Derived.Test.YtameddkmbfcnoaaDoorRawCode
import Derived.KernelRfl
namespace Go.Proofs.YtameddkmbfcnoaaDoor
open Go.RowKit Go.Lib

set_option maxRecDepth 100000 in
theorem wx1 : findV [115, 116, 121, 108, 101] [97, 60, 47, 98, 62, 60, 47, 83, 116, 121, 108, 101, 32, 62] 0 = 5 := by kernel_rfl
theorem wx2 : endV [98] [60, 47, 98, 62] 0 = true := by kernel_rfl
theorem wx3 : endV [98] [60, 47, 98] 0 = false := by kernel_rfl
set_option maxRecDepth 100000 in
theorem wx4 : rawT true [97, 38, 108, 116, 59] = [97, 60] := by kernel_rfl
theorem wx5 : rawT false [97, 38, 108, 116, 59] = [97, 38, 108, 116, 59] := by kernel_rfl

set_option maxRecDepth 100000 in
set_option maxHeartbeats 4000000 in
theorem rawAwake_any (w : World) (h : LaidAt w) :
    Calls Tryd.prog 7 #[] w fun e w' => e = .returned (.bool true) ∧ Below w.heap.size w w' := by
  have HW := Lib.hid h
  have H1 := fun w h => Lib.hid (rawFind_any ⟨#[97, 60, 47, 98, 62, 60, 47, 83, 116, 121, 108, 101, 32, 62]⟩ 0 ⟨#[115, 116, 121, 108, 101]⟩ w (by decide) (by decide) (by decide) h)
  have H2 := fun w h => Lib.hid (rawEnds_any ⟨#[60, 47, 98, 62]⟩ 0 ⟨#[98]⟩ w (by decide) (by decide) (by decide) h)
  have H3 := fun w h => Lib.hid (rawEnds_any ⟨#[60, 47, 98]⟩ 0 ⟨#[98]⟩ w (by decide) (by decide) (by decide) h)
  have H4 := fun w h => Lib.hid (rawText_any ⟨#[97, 38, 108, 116, 59]⟩ true w (by decide) h)
  have H5 := fun w h => Lib.hid (rawText_any ⟨#[97, 38, 108, 116, 59]⟩ false w (by decide) h)
  rw [show findV (⟨#[115, 116, 121, 108, 101]⟩ : ByteArray).data.toList (⟨#[97, 60, 47, 98, 62, 60, 47, 83, 116, 121, 108, 101, 32, 62]⟩ : ByteArray).data.toList 0 = 5 from wx1] at H1
  rw [show endV (⟨#[98]⟩ : ByteArray).data.toList (⟨#[60, 47, 98, 62]⟩ : ByteArray).data.toList 0 = true from wx2] at H2
  rw [show endV (⟨#[98]⟩ : ByteArray).data.toList (⟨#[60, 47, 98]⟩ : ByteArray).data.toList 0 = false from wx3] at H3
  rw [show rawT true (⟨#[97, 38, 108, 116, 59]⟩ : ByteArray).data.toList = [97, 60] from wx4] at H4
  rw [show rawT false (⟨#[97, 38, 108, 116, 59]⟩ : ByteArray).data.toList = [97, 38, 108, 116, 59] from wx5] at H5
  clear h
  go_enter Tryd.func7, Tryd.ntmps7
  go_wp2_with (fail)
  refine (H1 _ HW.out).out.mono ?_
  rintro e w1 ⟨rfl, b1⟩
  have B1 := Lib.hid b1
  go_wp2_with (fail)
  refine (H2 _ (HW.out.below B1.out)).out.mono ?_
  rintro e w2 ⟨rfl, b2⟩
  have B2 := Lib.hid (B1.out.trans (b2.mono B1.out.size))
  go_wp2_with (fail)
  refine (H3 _ (HW.out.below B2.out)).out.mono ?_
  rintro e w3 ⟨rfl, b3⟩
  have B3 := Lib.hid (B2.out.trans (b3.mono B2.out.size))
  go_wp2_with (fail)
  refine (H4 _ (HW.out.below B3.out)).out.mono ?_
  rintro e w4 ⟨rfl, b4⟩
  have B4 := Lib.hid (B3.out.trans (b4.mono B3.out.size))
  go_wp2_with (fail)
  refine (H5 _ (HW.out.below B4.out)).out.mono ?_
  rintro e w5 ⟨rfl, b5⟩
  have B5 := Lib.hid (B4.out.trans (b5.mono B4.out.size))
  go_wp2
  go_ret
  exact ⟨ret_bool (by simp), B5.out⟩
end Go.Proofs.YtameddkmbfcnoaaDoor
