/-
  The chapter's examples, as the statements of layer 10 ask for them.
-/
import Derived.Test.YtjcmpmijbngjnaaComCode
import Derived.KernelRfl
namespace Go.Proofs.Ytjcmpmijbngjnaa
open Go.RowKit Go.Lib

set_option maxRecDepth 100000 in
theorem cx1 : comV [60, 33, 45, 45, 97, 45, 45, 62] 0 = ((⟨3, [], [97], [], false⟩ : TokP), 8, true) := by kernel_rfl
set_option maxRecDepth 100000 in
theorem cx2 : comV [60, 33, 45, 45, 62] 0 = (⟨3, [], [], [], false⟩, 5, true) := by kernel_rfl
set_option maxRecDepth 100000 in
theorem cx3 : comV [60, 63, 120, 62] 0 = (⟨3, [], [63, 120], [], false⟩, 4, true) := by kernel_rfl
set_option maxRecDepth 100000 in
theorem cx4 : comV [60, 47, 32, 97, 62] 0 = (⟨3, [], [32, 97], [], false⟩, 5, true) := by kernel_rfl
theorem cx5 : cbegV [60, 33] 0 = true := by kernel_rfl

set_option maxRecDepth 100000 in
set_option maxHeartbeats 4000000 in
theorem comAwake_any (w : World) (h : ComLaid w) :
    Calls Try.prog 8 #[] w fun e w' => e = .returned (.bool true) ∧ Below w.heap.size w w' := by
  have HW := Lib.hid h
  have H1 := fun w h => Lib.hid (com_any ⟨#[60, 33, 45, 45, 97, 45, 45, 62]⟩ 0 w (by decide) (by decide) h)
  have H2 := fun w h => Lib.hid (com_any ⟨#[60, 33, 45, 45, 62]⟩ 0 w (by decide) (by decide) h)
  have H3 := fun w h => Lib.hid (com_any ⟨#[60, 63, 120, 62]⟩ 0 w (by decide) (by decide) h)
  have H4 := fun w h => Lib.hid (com_any ⟨#[60, 47, 32, 97, 62]⟩ 0 w (by decide) (by decide) h)
  have H5 := fun w h => Lib.hid (comBegins_any ⟨#[60, 33]⟩ 0 w (by decide) (by decide) h)
  rw [show comV (⟨#[60, 33, 45, 45, 97, 45, 45, 62]⟩ : ByteArray).data.toList 0 = _ from cx1] at H1
  rw [show comV (⟨#[60, 33, 45, 45, 62]⟩ : ByteArray).data.toList 0 = _ from cx2] at H2
  rw [show comV (⟨#[60, 63, 120, 62]⟩ : ByteArray).data.toList 0 = _ from cx3] at H3
  rw [show comV (⟨#[60, 47, 32, 97, 62]⟩ : ByteArray).data.toList 0 = _ from cx4] at H4
  rw [show cbegV (⟨#[60, 33]⟩ : ByteArray).data.toList 0 = true from cx5] at H5
  clear h
  go_enter Try.func8, Try.ntmps8
  go_wp2_with (fail)
  refine (H1 _ HW.out).out.mono ?_
  rintro e w1 ⟨t, ad1, len1, cap1, n, ok, rfl, -, hv, b1⟩
  simp only [Prod.mk.injEq] at hv
  obtain ⟨rfl, rfl, rfl⟩ := hv
  unfold tokA
  go_wp2_with (fail)
  have B1 := Lib.hid (below_new b1 (.cells #[.int .i64 3, .string ⟨#[]⟩, .string ⟨#[97]⟩, .slice ad1 len1 cap1, .bool false] 25))
  refine (H2 _ (HW.out.below B1.out)).out.mono ?_
  rintro e w2 ⟨t, ad2, len2, cap2, n, ok, rfl, -, hv, b2⟩
  simp only [Prod.mk.injEq] at hv
  obtain ⟨rfl, rfl, rfl⟩ := hv
  have T1 := Lib.hid ((tokAt_new w1 ⟨3, [], [97], [], false⟩ ad1 len1 cap1 25).below b2 (by simp))
  have B2 := Lib.hid (B1.out.trans (b2.mono B1.out.size))
  have hlt1 : w1.heap.size < w2.heap.size := by have := b2.size; simp at this; omega
  clear b2
  unfold tokA
  go_wp2_with (fail)
  have B3 := Lib.hid (below_new B2.out (.cells #[.int .i64 3, .string ⟨#[]⟩, .string ⟨#[]⟩, .slice ad2 len2 cap2, .bool false] 25))
  refine (H3 _ (HW.out.below B3.out)).out.mono ?_
  rintro e w3 ⟨t, ad3, len3, cap3, n, ok, rfl, -, hv, b3⟩
  simp only [Prod.mk.injEq] at hv
  obtain ⟨rfl, rfl, rfl⟩ := hv
  have D3 := Lib.hid (((Below.refl w2.heap.size w2).alloc (Nat.le_refl _) _).trans (b3.mono (by simp)))
  have T2 := Lib.hid ((tokAt_new w2 ⟨3, [], [], [], false⟩ ad2 len2 cap2 25).below b3 (by simp))
  have T1 := Lib.hid (T1.out.below D3.out hlt1)
  have B3 := Lib.hid (B3.out.trans (b3.mono B3.out.size))
  have hlt2 : w2.heap.size < w3.heap.size := by have := b3.size; simp at this; omega
  clear b3 D3
  unfold tokA
  go_wp2_with (fail)
  have B4 := Lib.hid (below_new B3.out (.cells #[.int .i64 3, .string ⟨#[]⟩, .string ⟨#[63, 120]⟩, .slice ad3 len3 cap3, .bool false] 25))
  refine (H4 _ (HW.out.below B4.out)).out.mono ?_
  rintro e w4 ⟨t, ad4, len4, cap4, n, ok, rfl, -, hv, b4⟩
  simp only [Prod.mk.injEq] at hv
  obtain ⟨rfl, rfl, rfl⟩ := hv
  have D4 := Lib.hid (((Below.refl w3.heap.size w3).alloc (Nat.le_refl _) _).trans (b4.mono (by simp)))
  have T3 := Lib.hid ((tokAt_new w3 ⟨3, [], [63, 120], [], false⟩ ad3 len3 cap3 25).below b4 (by simp))
  have T1 := Lib.hid (T1.out.below D4.out (by omega))
  have T2 := Lib.hid (T2.out.below D4.out hlt2)
  have B4 := Lib.hid (B4.out.trans (b4.mono B4.out.size))
  have hlt3 : w3.heap.size < w4.heap.size := by have := b4.size; simp at this; omega
  have B5 := Lib.hid (below_new B4.out (.cells #[.int .i64 3, .string ⟨#[]⟩, .string ⟨#[32, 97]⟩, .slice ad4 len4 cap4, .bool false] 25))
  have C5 := Lib.hid ((Below.refl w4.heap.size w4).alloc (Nat.le_refl _) (.cells #[.int .i64 3, .string ⟨#[]⟩, .string ⟨#[32, 97]⟩, .slice ad4 len4 cap4, .bool false] 25))
  obtain ⟨x0, -, x2, -, -⟩ := T1.out.below C5.out (by omega)
  obtain ⟨-, -, y2, -, -⟩ := T2.out.below C5.out (by omega)
  obtain ⟨-, -, z2, -, -⟩ := T3.out.below C5.out hlt3
  clear b4 D4 b1
  unfold tokA
  go_wp2_with (fail)
  refine (H5 _ (HW.out.below B5.out)).out.mono ?_
  rintro e w5 ⟨rfl, b5⟩
  go_wp2
  go_ret
  exact ⟨ret_bool (by simp), B5.out.trans (b5.mono B5.out.size)⟩
end Go.Proofs.Ytjcmpmijbngjnaa
