/-
  The chapter's examples, as the statements of layer 19 ask for them.
-/
import Derived.Test.YtappdjhhaohejaaRenCode
import Derived.Test.YtappdjhhaohejaaTkLits
import Derived.KernelRfl
namespace Go.Proofs.Ytappdjhhaohejaa
open Go.RowKit Go.Lib

def rxA : List TokP := [⟨1, [112], [], [], false⟩, ⟨0, [], [97], [], false⟩, ⟨2, [112], [], [], false⟩, ⟨0, [], [98], [], false⟩]
def rxB : List TokP := [⟨1, [115, 99, 114, 105, 112, 116], [], [], false⟩, ⟨0, [], [120], [], false⟩, ⟨2, [115, 99, 114, 105, 112, 116], [], [], false⟩, ⟨0, [], [121], [], false⟩]
theorem rx_told : renL rxA = [97, 10, 10, 98] ∧ renL rxB = [121] ∧ renL [] = [] := by refine ⟨?_, ?_, ?_⟩ <;> kernel_rfl

set_option maxRecDepth 100000 in
set_option maxHeartbeats 4000000 in
theorem renAwake_any (w : World) (h : RenLaid w) :
    Calls Try.prog 9 #[] w fun e w' => e = .returned (.bool true) ∧ Below w.heap.size w w' := by
  have HW := Lib.hid h
  clear h
  obtain ⟨t1, t2, t3⟩ := rx_told
  have B1 := Lib.hid ((Below.refl w.heap.size w).alloc (Nat.le_refl _) (.cells (cellsT (bareQ rxA)).toArray 29))
  obtain ⟨w1, hw1⟩ : ∃ w1, w.alloc (.cells (cellsT (bareQ rxA)).toArray 29) = w1 := ⟨_, rfl⟩
  have L1 := Lib.hid (isToks_put w rxA (by decide) 29 _ rfl (by decide))
  rw [hw1] at B1 L1
  obtain ⟨w2, hw2⟩ : ∃ w2, w1.alloc (.cells (cellsT (bareQ rxB)).toArray 29) = w2 := ⟨_, rfl⟩
  have B2 := Lib.hid (B1.out.alloc B1.out.size (.cells (cellsT (bareQ rxB)).toArray 29))
  have L2 := Lib.hid (isToks_put w1 rxB (by decide) 29 _ rfl (by decide))
  have L1' := Lib.hid (L1.out.below ((Below.refl w1.heap.size w1).alloc (Nat.le_refl _) (.cells (cellsT (bareQ rxB)).toArray 29)) (Nat.le_refl _))
  rw [hw2] at B2 L2 L1'
  have C1 := fun w' (hb : Below w2.heap.size w2 w') h => Lib.hid (ren_any _ _ _ _ w' (L1'.out.below hb (Nat.le_refl _)).bare (by decide) (by decide) h)
  have C2 := fun w' (hb : Below w2.heap.size w2 w') h => Lib.hid (ren_any _ _ _ _ w' (L2.out.below hb (Nat.le_refl _)).bare (by decide) (by decide) h)
  have C3 := fun w' h => Lib.hid (ren_any none 0 0 [] w' (isBare_none _) (by decide) (by decide) h)
  rw [t1] at C1
  rw [t2] at C2
  rw [t3] at C3
  have hw1' : w.alloc (.cells #[.int .i64 1, .string ⟨#[112]⟩, .string ⟨#[]⟩, .slice none 0 0, .bool false, .int .i64 0, .string ⟨#[]⟩, .string ⟨#[97]⟩, .slice none 0 0, .bool false, .int .i64 2, .string ⟨#[112]⟩, .string ⟨#[]⟩, .slice none 0 0, .bool false, .int .i64 0, .string ⟨#[]⟩, .string ⟨#[98]⟩, .slice none 0 0, .bool false] 29) = w1 := hw1
  have hw2' : w1.alloc (.cells #[.int .i64 1, .string ⟨#[115, 99, 114, 105, 112, 116]⟩, .string ⟨#[]⟩, .slice none 0 0, .bool false, .int .i64 0, .string ⟨#[]⟩, .string ⟨#[120]⟩, .slice none 0 0, .bool false, .int .i64 2, .string ⟨#[115, 99, 114, 105, 112, 116]⟩, .string ⟨#[]⟩, .slice none 0 0, .bool false, .int .i64 0, .string ⟨#[]⟩, .string ⟨#[121]⟩, .slice none 0 0, .bool false] 29) = w2 := hw2
  have hz1 : w.heap.size + 1 = w1.heap.size := by rw [← hw1]; simp
  have HW1 := Lib.hid hw1'
  have HW2 := Lib.hid hw2'
  clear hw1 hw2 hw1' hw2' t1 t2 t3
  go_enter Try.func9, Try.ntmps9
  go_wp2_with (fail)
  rw [HW1.out]
  rw [HW2.out]
  refine (C1 _ (Below.refl _ _) (HW.out.below B2.out)).out.mono ?_
  rintro e w3 ⟨rfl, c3⟩
  have B3 := Lib.hid c3
  clear c3
  go_wp2_with (fail)
  refine (C2 _ B3.out (HW.out.below (B2.out.trans (B3.out.mono B2.out.size)))).out.mono ?_
  rintro e w4 ⟨rfl, c4⟩
  have B4 := Lib.hid (B3.out.trans (c4.mono B3.out.size))
  clear c4
  go_wp2_with (fail)
  refine (C3 _ (HW.out.below (B2.out.trans (B4.out.mono B2.out.size)))).out.mono ?_
  rintro e w5 ⟨rfl, c5⟩
  have B5 := Lib.hid (B4.out.trans (c5.mono B4.out.size))
  clear c5
  go_wp2
  go_ret
  exact ⟨ret_bool (by simp), B2.out.trans (B5.out.mono B2.out.size)⟩
end Go.Proofs.Ytappdjhhaohejaa
