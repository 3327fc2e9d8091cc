/-
  The chapter's example, as the statements of layer 16 ask for it.
-/
import Derived.Test.YtdcbjgmjmdgmmaaGreatDoorDrvCode
import Derived.Test.YtdcbjgmjmdgmmaaGreatDoorQB
import Derived.Test.YtdcbjgmjmdgmmaaGreatDoorQI
import Derived.KernelRfl
namespace Go.Proofs.YtdcbjgmjmdgmmaaGreatDoor
open Go.RowKit Go.Lib

def kD : List TokP := [⟨1, [116, 105, 116, 108, 101], [], [], false⟩, txtT [97, 60, 98, 62], ⟨2, [116, 105, 116, 108, 101], [], [], false⟩, ⟨1, [98], [], [], false⟩]
set_option maxRecDepth 100000 in
theorem dx1 : drvL [60, 116, 105, 116, 108, 101, 62, 97, 60, 98, 62, 60, 47, 116, 105, 116, 108, 101, 62, 60, 98, 62] = kD := by kernel_rfl

set_option maxRecDepth 100000 in
set_option maxHeartbeats 4000000 in
theorem drvAwake_any (w : World) (h : LaidAt w) :
    Calls Tryz.prog 9 #[] w fun e w' => e = .returned (.bool true) ∧ Below w.heap.size w w' := by
  have HW := Lib.hid h
  have H1 := fun w h => Lib.hid (drvDrive_any ⟨#[60, 116, 105, 116, 108, 101, 62, 97, 60, 98, 62, 60, 47, 116, 105, 116, 108, 101, 62, 60, 98, 62]⟩ w (by decide) h)
  rw [show drvL (⟨#[60, 116, 105, 116, 108, 101, 62, 97, 60, 98, 62, 60, 47, 116, 105, 116, 108, 101, 62, 60, 98, 62]⟩ : ByteArray).data.toList = kD from dx1] at H1
  have H2 := fun w h => Lib.hid (drvState_any ⟨#[115, 99, 114, 105, 112, 116]⟩ w (by decide) h)
  have H3 := fun w h => Lib.hid (drvState_any ⟨#[112]⟩ w (by decide) h)
  rw [show drvN (⟨#[115, 99, 114, 105, 112, 116]⟩ : ByteArray).data.toList = 3 from rfl] at H2
  rw [show drvN (⟨#[112]⟩ : ByteArray).data.toList = 0 from rfl] at H3
  clear h
  go_enter Tryz.func9, Tryz.ntmps9
  go_wp2_with (fail)
  refine (H1 _ HW.out).out.mono ?_
  rintro e w1 ⟨a1, l1, c1, rfl, t1, b1⟩
  have B1 := Lib.hid b1
  have T1 := Lib.hid t1.toks
  clear b1 t1
  go_wp2_with (fail)
  refine (H2 _ (HW.out.below B1.out)).out.mono ?_
  rintro e w2 ⟨rfl, b2⟩
  have B2 := Lib.hid (B1.out.trans (b2.mono B1.out.size))
  have T2 := Lib.hid (T1.out.below b2 (Nat.le_refl _))
  clear b2
  go_wp2_with (fail)
  refine (H3 _ (HW.out.below B2.out)).out.mono ?_
  rintro e w3 ⟨rfl, b3⟩
  have B3 := Lib.hid (B2.out.trans (b3.mono B2.out.size))
  have T3 := Lib.hid (T2.out.below b3 (Nat.le_refl _))
  clear b3 H1 H2 H3
  have B4 := Lib.hid (B3.out.alloc B3.out.size (.cells (cellsT (bareQ kD)).toArray 30))
  have L4 := Lib.hid (isToks_put w3 kD (by decide) 30 _ rfl (by decide))
  have T4 := Lib.hid (T3.out.below ((Below.refl _ w3).alloc (Nat.le_refl _) (.cells (cellsT (bareQ kD)).toArray 30)) (Nat.le_refl _))
  have HA := Lib.hid (refAll_any _ _ _ _ _ _ _ _ _ T4.out L4.out)
  rw [decide_eq_true (rfl : kD = kD)] at HA
  go_wp2_with (fail)
  refine HA.out.mono ?_
  rintro e w5 ⟨rfl, b5⟩
  go_wp2
  go_ret
  exact ⟨ret_bool (by simp), B4.out.trans (b5.mono B4.out.size)⟩
end Go.Proofs.YtdcbjgmjmdgmmaaGreatDoor
