/-
  The chapter's examples, as the statements of layer 17 ask for them. (Written by wip/tools/gen_knd2.py.)
-/
import Derived.Test.YtoainaihklncoaaKndCode
import Derived.Deep.RegionHeld3
import Derived.BigCall
import Derived.Laws.IdiomStrings
namespace Go.Proofs.Ytoainaihklncoaa
open Go.RowKit Go.Lib

set_option maxRecDepth 100000 in
set_option maxHeartbeats 4000000 in
theorem kndAwake_any (w : World) (h : KndLaid w) :
    Calls Try.prog 8 #[] w fun e w' => e = .returned (.bool true) ∧ Below w.heap.size w w' := by
  have HW := Lib.hid h
  have H0 := fun w h => Lib.hid (kLines_any ⟨#[112]⟩ w h)
  rw [show linN (⟨#[112]⟩ : ByteArray).data.toList = 2 from by decide] at H0
  have H1 := fun w h => Lib.hid (kLines_any ⟨#[108, 105]⟩ w h)
  rw [show linN (⟨#[108, 105]⟩ : ByteArray).data.toList = 1 from by decide] at H1
  have H2 := fun w h => Lib.hid (kLines_any ⟨#[98]⟩ w h)
  rw [show linN (⟨#[98]⟩ : ByteArray).data.toList = 0 from by decide] at H2
  have H3 := fun w h => Lib.hid (kHides_any ⟨#[115, 99, 114, 105, 112, 116]⟩ w h)
  rw [show hidN (⟨#[115, 99, 114, 105, 112, 116]⟩ : ByteArray).data.toList = true from by decide] at H3
  have H4 := fun w h => Lib.hid (kKeeps_any ⟨#[112, 114, 101]⟩ w h)
  rw [show keeN (⟨#[112, 114, 101]⟩ : ByteArray).data.toList = true from by decide] at H4
  have H5 := fun w h => Lib.hid (kVoid_any ⟨#[98, 114]⟩ w h)
  rw [show voiN (⟨#[98, 114]⟩ : ByteArray).data.toList = true from by decide] at H5
  clear h
  go_enter Try.func8, Try.ntmps8
  have B0 := Lib.hid (Below.refl w.heap.size w)
  go_wp2_with (fail)
  refine (H0 _ (HW.out.below B0.out)).out.mono ?_
  rintro e w1 ⟨rfl, c⟩
  have B1 := Lib.hid (B0.out.trans (c.mono B0.out.size))
  clear c
  go_wp2_with (fail)
  refine (H1 _ (HW.out.below B1.out)).out.mono ?_
  rintro e w2 ⟨rfl, c⟩
  have B2 := Lib.hid (B1.out.trans (c.mono B1.out.size))
  clear c
  go_wp2_with (fail)
  refine (H2 _ (HW.out.below B2.out)).out.mono ?_
  rintro e w3 ⟨rfl, c⟩
  have B3 := Lib.hid (B2.out.trans (c.mono B2.out.size))
  clear c
  go_wp2_with (fail)
  refine (H3 _ (HW.out.below B3.out)).out.mono ?_
  rintro e w4 ⟨rfl, c⟩
  have B4 := Lib.hid (B3.out.trans (c.mono B3.out.size))
  clear c
  go_wp2_with (fail)
  refine (H4 _ (HW.out.below B4.out)).out.mono ?_
  rintro e w5 ⟨rfl, c⟩
  have B5 := Lib.hid (B4.out.trans (c.mono B4.out.size))
  clear c
  go_wp2_with (fail)
  refine (H5 _ (HW.out.below B5.out)).out.mono ?_
  rintro e w6 ⟨rfl, c⟩
  have B6 := Lib.hid (B5.out.trans (c.mono B5.out.size))
  clear c
  go_wp2
  go_ret
  exact ⟨ret_bool (by simp), B6.out⟩
end Go.Proofs.Ytoainaihklncoaa
