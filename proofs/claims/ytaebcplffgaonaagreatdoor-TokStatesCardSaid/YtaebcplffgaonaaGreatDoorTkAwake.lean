/-
  The chapter's examples, as the statements of layer 15 ask for them.
-/
import Derived.Test.YtaebcplffgaonaaGreatDoorTkCode
import Derived.Test.YtaebcplffgaonaaGreatDoorQB
import Derived.KernelRfl
namespace Go.Proofs.YtaebcplffgaonaaGreatDoor
open Go.RowKit Go.Lib

def kA : List TokP := [txtT [97], ⟨1, [98], [], [], false⟩, txtT [99, 100]]
def kB : List TokP := [txtT [97, 60, 98, 62], ⟨2, [116, 105, 116, 108, 101], [], [], false⟩, txtT [99]]
set_option maxRecDepth 100000 in
theorem kx1 : tokL 0 [] [97, 60, 98, 62, 99, 60, 47, 62, 100] = kA := by kernel_rfl
set_option maxRecDepth 100000 in
theorem kx2 : tokL 1 [116, 105, 116, 108, 101] [97, 60, 98, 62, 60, 47, 116, 105, 116, 108, 101, 62, 99] = kB := by kernel_rfl

set_option maxRecDepth 100000 in
set_option maxHeartbeats 4000000 in
theorem tkAwake_any (w : World) (h : LaidAt w) :
    Calls Tryz.prog 10 #[] w fun e w' => e = .returned (.bool true) ∧ Below w.heap.size w w' := by
  have HW := Lib.hid h
  have H1 := fun w h => Lib.hid (tokTok_any ⟨#[97, 60, 98, 62, 99, 60, 47, 62, 100]⟩ 0 ⟨#[]⟩ w (by decide) (by decide) (by decide) h)
  have H2 := fun w h => Lib.hid (tokTok_any ⟨#[97, 60, 98, 62, 60, 47, 116, 105, 116, 108, 101, 62, 99]⟩ 1 ⟨#[116, 105, 116, 108, 101]⟩ w (by decide) (by decide) (by decide) h)
  rw [show tokL 0 (⟨#[]⟩ : ByteArray).data.toList (⟨#[97, 60, 98, 62, 99, 60, 47, 62, 100]⟩ : ByteArray).data.toList = kA from kx1] at H1
  rw [show tokL 1 (⟨#[116, 105, 116, 108, 101]⟩ : ByteArray).data.toList (⟨#[97, 60, 98, 62, 60, 47, 116, 105, 116, 108, 101, 62, 99]⟩ : ByteArray).data.toList = kB from kx2] at H2
  clear h
  go_enter Tryz.func10, Tryz.ntmps10
  go_wp2_with (fail)
  refine (H1 _ HW.out).out.mono ?_
  rintro e w1 ⟨a1, l1, c1, rfl, t1, b1⟩
  have B1 := Lib.hid b1
  have T1 := Lib.hid t1
  clear b1 t1
  go_wp2_with (fail)
  refine (H2 _ (HW.out.below B1.out)).out.mono ?_
  rintro e w2 ⟨a2, l2, c2, rfl, t2, b2⟩
  have B2 := Lib.hid (B1.out.trans (b2.mono B1.out.size))
  have T1 := Lib.hid (T1.out.below b2 (Nat.le_refl _))
  have T2 := Lib.hid t2
  clear b2 t2 B1 H1 H2
  have B3 := Lib.hid (B2.out.alloc B2.out.size (.cells (cellsT (bareQ kA)).toArray 29))
  have L3 := Lib.hid (isToks_put w2 kA (by decide) 29 _ rfl (by decide))
  have T13 := Lib.hid (T1.out.toks.below ((Below.refl _ w2).alloc (Nat.le_refl _) (.cells (cellsT (bareQ kA)).toArray 29)) (Nat.le_refl _))
  have T23 := Lib.hid (T2.out.toks.below ((Below.refl _ w2).alloc (Nat.le_refl _) (.cells (cellsT (bareQ kA)).toArray 29)) (Nat.le_refl _))
  have HA := Lib.hid (refAll_any _ _ _ _ _ _ _ _ _ T13.out L3.out)
  rw [decide_eq_true (rfl : kA = kA)] at HA
  go_wp2_with (fail)
  refine HA.out.mono ?_
  rintro e w4 ⟨rfl, b4⟩
  have B4 := Lib.hid (B3.out.trans (b4.mono B3.out.size))
  have T24 := Lib.hid (T23.out.below b4 (Nat.le_refl _))
  clear b4
  have B5 := Lib.hid (B4.out.alloc B4.out.size (.cells (cellsT (bareQ kB)).toArray 29))
  have L5 := Lib.hid (isToks_put w4 kB (by decide) 29 _ rfl (by decide))
  have T25 := Lib.hid (T24.out.below ((Below.refl _ w4).alloc (Nat.le_refl _) (.cells (cellsT (bareQ kB)).toArray 29)) (Nat.le_refl _))
  have HB := Lib.hid (refAll_any _ _ _ _ _ _ _ _ _ T25.out L5.out)
  rw [decide_eq_true (rfl : kB = kB)] at HB
  go_wp2_with (fail)
  refine HB.out.mono ?_
  rintro e w6 ⟨rfl, b6⟩
  go_wp2
  go_ret
  exact ⟨ret_bool (by simp), B5.out.trans (b6.mono B5.out.size)⟩
end Go.Proofs.YtaebcplffgaonaaGreatDoor
