/-
  The chapter's examples, as the statements of layer 11 ask for them.
-/
import Derived.Test.YtbceopiipigljaaDtCode
import Derived.KernelRfl
namespace Go.Proofs.Ytbceopiipigljaa
open Go.RowKit Go.Lib

set_option maxRecDepth 100000 in
theorem dx1 : dctV [60, 33, 68, 79, 67, 84, 89, 80, 69, 32, 104, 116, 109, 108, 62, 120] 0 = ((⟨4, [], [32, 104, 116, 109, 108], [], false⟩ : TokP), 15, true) := by kernel_rfl
set_option maxRecDepth 100000 in
theorem dx2 : parseD [32, 104, 116, 109, 108] true = ⟨[104, 116, 109, 108], [], [], true, false, false, false⟩ := by kernel_rfl
theorem dx3 : parseD [] true = ⟨[], [], [], false, false, false, true⟩ := by kernel_rfl
set_option maxRecDepth 100000 in
theorem dx4 : parseD [32, 104, 116, 109, 108, 32, 80, 85, 66, 76, 73, 67, 32, 34, 97, 34, 32, 39, 98, 39] true = ⟨[104, 116, 109, 108], [97], [98], true, true, true, false⟩ := by kernel_rfl

set_option maxRecDepth 100000 in
set_option maxHeartbeats 4000000 in
theorem dtAwake_any (w : World) (h : DtLaid w) :
    Calls Try.prog 9 #[] w fun e w' => e = .returned (.bool true) ∧ Below w.heap.size w w' := by
  have HW := Lib.hid h
  have H1 := fun w h => Lib.hid (dct_any ⟨#[60, 33, 68, 79, 67, 84, 89, 80, 69, 32, 104, 116, 109, 108, 62, 120]⟩ 0 w (by decide) (by decide) h)
  have H2 := fun w h => Lib.hid (dctParse_any ⟨#[32, 104, 116, 109, 108]⟩ true w (by decide) h)
  have H3 := fun w h => Lib.hid (dctParse_any ⟨#[]⟩ true w (by decide) h)
  have H4 := fun w h => Lib.hid (dctParse_any ⟨#[32, 104, 116, 109, 108, 32, 80, 85, 66, 76, 73, 67, 32, 34, 97, 34, 32, 39, 98, 39]⟩ true w (by decide) h)
  rw [show dctV (⟨#[60, 33, 68, 79, 67, 84, 89, 80, 69, 32, 104, 116, 109, 108, 62, 120]⟩ : ByteArray).data.toList 0 = _ from dx1] at H1
  rw [show parseD (⟨#[32, 104, 116, 109, 108]⟩ : ByteArray).data.toList true = _ from dx2] at H2
  rw [show parseD (⟨#[]⟩ : ByteArray).data.toList true = _ from dx3] at H3
  rw [show parseD (⟨#[32, 104, 116, 109, 108, 32, 80, 85, 66, 76, 73, 67, 32, 34, 97, 34, 32, 39, 98, 39]⟩ : ByteArray).data.toList true = _ from dx4] at H4
  unfold docV at H2 H3 H4
  clear h
  go_enter Try.func9, Try.ntmps9
  go_wp2_with (fail)
  refine (H1 _ HW.out).out.mono ?_
  rintro e w1 ⟨t, ad1, len1, cap1, n, ok, rfl, -, hv, b1⟩
  simp only [Prod.mk.injEq] at hv
  obtain ⟨rfl, rfl, rfl⟩ := hv
  unfold tokA
  go_wp2_with (fail)
  have B1 := Lib.hid (below_new b1 (.cells #[.int .i64 4, .string ⟨#[]⟩, .string ⟨#[32, 104, 116, 109, 108]⟩, .slice ad1 len1 cap1, .bool false] 25))
  clear b1
  refine (H2 _ (HW.out.below B1.out)).out.mono ?_
  rintro e w2 ⟨rfl, b2⟩
  have B2 := Lib.hid (B1.out.trans (b2.mono B1.out.size))
  clear b2
  go_wp2_with (fail)
  refine (H3 _ (HW.out.below B2.out)).out.mono ?_
  rintro e w3 ⟨rfl, b3⟩
  have B3 := Lib.hid (B2.out.trans (b3.mono B2.out.size))
  clear b3
  go_wp2_with (fail)
  refine (H4 _ (HW.out.below B3.out)).out.mono ?_
  rintro e w4 ⟨rfl, b4⟩
  have B4 := Lib.hid (B3.out.trans (b4.mono B3.out.size))
  clear b4
  go_wp2
  go_ret
  exact ⟨ret_bool (by simp), B4.out⟩
end Go.Proofs.Ytbceopiipigljaa
