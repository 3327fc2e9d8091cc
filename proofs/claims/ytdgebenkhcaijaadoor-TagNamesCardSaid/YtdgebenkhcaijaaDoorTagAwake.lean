/-
  The chapter's examples, as the statements of layer 9 ask for them.
-/
import Derived.Test.YtdgebenkhcaijaaDoorTagRead
import Derived.KernelRfl
namespace Go.Proofs.YtdgebenkhcaijaaDoor
open Go.RowKit Go.Lib

/-- the examples -/
def exT1 : TokP := ⟨1, [97], [], [([120], [])], false⟩
def exT2 : TokP := ⟨2, [112], [], [], false⟩
set_option maxRecDepth 100000 in
theorem tx1 : tagV [60, 65, 32, 120, 62] 0 = (exT1, 5, true) := by kernel_rfl
set_option maxRecDepth 100000 in
theorem tx2 : tagV [60, 47, 112, 32, 62] 0 = (exT2, 5, true) := by kernel_rfl
theorem tx3 : begV [60, 97] 0 = true := by kernel_rfl

set_option maxRecDepth 100000 in
set_option maxHeartbeats 1000000 in
theorem tagAwake_any (w : World) (h : LaidAt w) :
    Calls Tryd.prog 7 #[] w fun e w' => e = .returned (.bool true) ∧ Below w.heap.size w w' := by
  have HW := Lib.hid h
  have H1 := fun w h => Lib.hid (tag_any ⟨#[60, 65, 32, 120, 62]⟩ 0 w (by decide) (by decide) h)
  have H2 := fun w h => Lib.hid (tag_any ⟨#[60, 47, 112, 32, 62]⟩ 0 w (by decide) (by decide) h)
  have H3 := fun w h => Lib.hid (tagBegins_any ⟨#[60, 97]⟩ 0 w (by decide) (by decide) h)
  have HX1 := Lib.hid tx1
  have HX2 := Lib.hid tx2
  rw [show begV (⟨#[60, 97]⟩ : ByteArray).data.toList 0 = true from tx3] at H3
  clear h
  go_enter Tryd.func7, Tryd.ntmps7
  go_wp2_with (fail)
  refine (H1 _ HW.out).out.mono ?_
  rintro e w1 ⟨t, ad, len, cap, n, ok, rfl, hr, hv, b1⟩
  have hv : tagV [60, 65, 32, 120, 62] 0 = (t, n, ok) := hv
  rw [HX1.out] at hv
  simp only [Prod.mk.injEq] at hv
  obtain ⟨rfl, rfl, rfl⟩ := hv
  have HR := Lib.hid hr
  clear hr
  unfold tokA
  go_wp2_with (fail)
  have B1 := Lib.hid (below_new b1 (.cells #[.int .i64 exT1.kind, .string ⟨exT1.name.toArray⟩, .string ⟨exT1.text.toArray⟩, .slice ad len cap, .bool exT1.self] 26))
  refine (H2 _ (HW.out.below B1.out)).out.mono ?_
  rintro e w2 ⟨t, ad2, len2, cap2, n, ok, rfl, hr, hv, b2⟩
  have hv : tagV [60, 47, 112, 32, 62] 0 = (t, n, ok) := hv
  rw [HX2.out] at hv
  simp only [Prod.mk.injEq] at hv
  obtain ⟨rfl, rfl, rfl⟩ := hv
  have HR2 := Lib.hid hr
  clear hr
  have T1 := Lib.hid ((tokAt_new w1 exT1 ad len cap 26).below b2 (by simp))
  have D1 := Lib.hid (((Below.refl w1.heap.size w1).alloc (Nat.le_refl _) _).trans (b2.mono (by simp)))
  have B2 := Lib.hid (B1.out.trans (b2.mono B1.out.size))
  have hs1 := b1.size
  have hs2 := D1.out.size
  have hlt1 : w1.heap.size < w2.heap.size := by have := b2.size; simp at this; omega
  unfold tokA
  go_wp2_with (fail)
  have B3 := Lib.hid (below_new B2.out (.cells #[.int .i64 exT2.kind, .string ⟨exT2.name.toArray⟩, .string ⟨exT2.text.toArray⟩, .slice ad2 len2 cap2, .bool exT2.self] 26))
  refine (H3 _ (HW.out.below B3.out)).out.mono ?_
  rintro e w3 ⟨rfl, b3⟩
  have T2 := Lib.hid ((tokAt_new w2 exT2 ad2 len2 cap2 26).below b3 (by simp))
  have D3 := Lib.hid (((Below.refl w2.heap.size w2).alloc (Nat.le_refl _) _).trans (b3.mono (by simp)))
  have T3 := Lib.hid (T1.out.below D3.out hlt1)
  have B4 := Lib.hid (B3.out.trans (b3.mono B3.out.size))
  obtain ⟨x0, x1, x2, x3, x4⟩ := T3.out
  go_wp2_with (fail)
  refine (refSame9_any exT1 exT1 _ _ _ _ _ _ _ ((HR.out.below D1.out (Nat.le_refl _)).below (below_new D3.out _) (Nat.le_refl _)) (isRows_put w3 _ [([120], [])] 37 rfl (by decide) _ rfl)).mono ?_
  rintro e w4 ⟨rfl, b4⟩
  clear x0 x1 x2 x3 x4
  have hlt2 : w2.heap.size < w3.heap.size := by have := b3.size; simp at this; omega
  have D4 := Lib.hid (((Below.refl w3.heap.size w3).alloc (Nat.le_refl _) _).trans (b4.mono (by simp)))
  have B5 := Lib.hid (B4.out.trans (D4.out.mono B4.out.size))
  obtain ⟨x0, x1, x2, x3, x4⟩ := T2.out.below D4.out hlt2
  go_wp2_with (fail)
  refine (refSame9_any exT2 exT2 _ _ _ _ _ _ _ ((HR2.out.below D3.out (Nat.le_refl _)).below D4.out (Nat.le_refl _)) (isRows_none _)).mono ?_
  rintro e w5 ⟨rfl, b5⟩
  go_wp2
  go_ret
  exact ⟨ret_bool (by simp), B5.out.trans (b5.mono B5.out.size)⟩
end Go.Proofs.YtdgebenkhcaijaaDoor
