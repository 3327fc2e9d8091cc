/-
  The chapter's examples, as the statements of layer 13 ask for them.
-/
import Derived.Test.YthmfjnjjkcaalaaScrCode
import Derived.KernelRfl
namespace Go.Proofs.Ythmfjnjjkcaalaa
open Go.RowKit Go.Lib

set_option maxRecDepth 100000 in
theorem cx1 : scrP [97, 60, 47, 115, 99, 114, 105, 112, 116, 62] 0 = (1, 0) := by kernel_rfl
set_option maxRecDepth 100000 in
theorem cx2 : scrP [60, 33, 45, 45, 60, 115, 99, 114, 105, 112, 116, 62, 60, 47, 115, 99, 114, 105, 112, 116, 62, 45, 45, 62, 60, 47, 115, 99, 114, 105, 112, 116, 62] 0 = (24, 0) := by kernel_rfl
theorem cx3 : cleanL [97, 0] = [97, 239, 191, 189] := by kernel_rfl

set_option maxRecDepth 100000 in
set_option maxHeartbeats 4000000 in
theorem scrAwake_any (w : World) (h : ScrLaid w) :
    Calls Try.prog 9 #[] w fun e w' => e = .returned (.bool true) ∧ Below w.heap.size w w' := by
  have HW := Lib.hid h
  have H1 := fun w h => Lib.hid (scrFind_any ⟨#[97, 60, 47, 115, 99, 114, 105, 112, 116, 62]⟩ 0 w (by decide) (by decide) h)
  have H2 := fun w h => Lib.hid (scrFind_any ⟨#[60, 33, 45, 45, 60, 115, 99, 114, 105, 112, 116, 62, 60, 47, 115, 99, 114, 105, 112, 116, 62, 45, 45, 62, 60, 47, 115, 99, 114, 105, 112, 116, 62]⟩ 0 w (by decide) (by decide) h)
  have H3 := fun w h => Lib.hid (scrText_any ⟨#[97, 0]⟩ w (by decide) h)
  rw [show scrP (⟨#[97, 60, 47, 115, 99, 114, 105, 112, 116, 62]⟩ : ByteArray).data.toList 0 = _ from cx1] at H1
  rw [show scrP (⟨#[60, 33, 45, 45, 60, 115, 99, 114, 105, 112, 116, 62, 60, 47, 115, 99, 114, 105, 112, 116, 62, 45, 45, 62, 60, 47, 115, 99, 114, 105, 112, 116, 62]⟩ : ByteArray).data.toList 0 = _ from cx2] at H2
  rw [show cleanL (⟨#[97, 0]⟩ : ByteArray).data.toList = _ from cx3] at H3
  clear h
  go_enter Try.func9, Try.ntmps9
  go_wp2_with (fail)
  refine (H1 _ HW.out).out.mono ?_
  rintro e w1 ⟨rfl, b1⟩
  have B1 := Lib.hid b1
  clear b1
  go_wp2_with (fail)
  refine (H2 _ (HW.out.below B1.out)).out.mono ?_
  rintro e w2 ⟨rfl, b2⟩
  have B2 := Lib.hid (B1.out.trans (b2.mono B1.out.size))
  clear b2
  go_wp2_with (fail)
  refine (H3 _ (HW.out.below B2.out)).out.mono ?_
  rintro e w3 ⟨rfl, b3⟩
  have B3 := Lib.hid (B2.out.trans (b3.mono B2.out.size))
  clear b3
  go_wp2
  go_ret
  exact ⟨ret_bool (by simp), B3.out⟩
end Go.Proofs.Ythmfjnjjkcaalaa
