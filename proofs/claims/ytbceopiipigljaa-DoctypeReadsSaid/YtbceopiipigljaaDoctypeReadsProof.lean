/-
  The law DoctypeReads of flail/flaillaw11 answers true for every input, and changes nothing that was there. No condition.
-/
import Derived.Test.YtbceopiipigljaaRows
import Derived.Test.YtbceopiipigljaaDtAwake
import Derived.Test.YtbceopiipigljaaDtRef
import Derived.WalkKit
import Derived.ProofKit
import Derived.ChangeOld
import Derived.Below
import Derived.OpenShut
import Derived.ShutString
namespace Go.Proofs.Ytbceopiipigljaa.doctypeReads
open Go.ChangeShapes Go.WideShapes Go.ChangeAt Go.RowKit
open Go.ChangeMaps (open_string shut_string)
set_option linter.unusedVariables false      -- a walk need not use every 'w<i>' (that an integer argument fits its kind)

theorem own : ownKnob Try.prog.godebug = none := by kernel_rfl

set_option maxRecDepth 100000 in
set_option maxHeartbeats 8000000 in
theorem walk (a0 : ByteArray) (a1 : Int) (w0 : a0.size ≤ maxLen) (w1 : (Lit.int .i64 a1).wf = true) (w : World) :
    Calls Try.prog 3 #[.string a0, .int .i64 a1] w fun e w' => e = .returned (.bool true) ∧ Below w.heap.size w w' := by
  have hb : -9223372036854775808 ≤ a1 ∧ a1 ≤ 9223372036854775807 := by simpa [Lit.wf, IntKind.min, IntKind.max, IntKind.signed, IntKind.bits] using w1
  clear w0 w1
  have HW := Lib.hid (dtLaid_here w)
  skip
  by_cases hlen : 300 < a0.size
  · go_enter Try.func3, Try.ntmps3
    go_wp2_with (fail)
    refine (dtAwake_any w HW.out).mono ?_
    rintro e w1 ⟨rfl, c1⟩
    go_wp2
    go_ret
    exact ⟨rfl, c1⟩
  have hs : a0.size ≤ 300 := by omega
  clear hlen
  have HR1 := fun w h => Lib.hid (dct_any a0 a1 w (by omega) hb h)
  have HR2 := fun w => Lib.hid (refRead11_any a0 a1 w (by omega) hb)
  have HB1 := fun w h => Lib.hid (dctBegins_any a0 a1 w (by omega) hb h)
  have HB2 := fun w => Lib.hid (refBegins11_any a0 a1 w (by omega) hb)
  obtain ⟨V, hV⟩ : ∃ V, dbegV a0.data.toList a1 = V := ⟨_, rfl⟩
  rw [hV] at HB1 HB2
  clear hV hb
  go_enter Try.func3, Try.ntmps3
  go_wp2_with (fail)
  refine (dtAwake_any w HW.out).mono ?_
  rintro e w1 ⟨rfl, c1⟩
  go_wp2_with (fail)
  refine (HR1 _ (HW.out.below c1)).out.mono ?_
  rintro e w2 ⟨t, ad, len, cap, n, ok, rfl, hr, hv, b2⟩
  have HV := Lib.hid hv
  have C2 := Lib.hid (c1.trans (b2.mono c1.size))
  have K2 := Lib.hid hr
  clear hr hv b2
  unfold tokA
  go_wp2_with (fail)
  have B3 := Lib.hid (below_new C2.out (.cells #[.int .i64 t.kind, .string ⟨t.name.toArray⟩, .string ⟨t.text.toArray⟩, .slice ad len cap, .bool t.self] 25))
  refine (HR2 _).out.mono ?_
  rintro e w3 ⟨t', ad2, len2, cap2, n', ok', rfl, hr, hv, b3⟩
  rw [HV.out] at hv
  simp only [Prod.mk.injEq] at hv
  obtain ⟨rfl, rfl, rfl⟩ := hv
  have K3 := Lib.hid hr
  clear hr
  have T2 := Lib.hid ((tokAt_new w2 t ad len cap 25).below b3 (by simp))
  have D3 := Lib.hid (((Below.refl w2.heap.size w2).alloc (Nat.le_refl _) _).trans (b3.mono (by simp)))
  have B4 := Lib.hid (B3.out.trans (b3.mono B3.out.size))
  have hlt : w2.heap.size < w3.heap.size := by have := b3.size; simp at this; omega
  obtain ⟨x0, x1, x2, x3, x4⟩ := T2.out.below ((Below.refl w3.heap.size w3).alloc (Nat.le_refl _) (.cells #[.int .i64 t.kind, .string ⟨t.name.toArray⟩, .string ⟨t.text.toArray⟩, .slice ad2 len2 cap2, .bool t.self] 25)) hlt
  unfold tokA
  go_wp2_with (fail)
  refine (refSame9_any t t _ _ _ _ _ _ _ ((K2.out.below D3.out (Nat.le_refl _)).below ((Below.refl _ w3).alloc (Nat.le_refl _) _) (Nat.le_refl _)) (K3.out.below ((Below.refl _ w3).alloc (Nat.le_refl _) _) (Nat.le_refl _))).mono ?_
  rintro e w4 ⟨rfl, b4⟩
  have D4 := Lib.hid (((Below.refl w3.heap.size w3).alloc (Nat.le_refl _) _).trans (b4.mono (by simp)))
  have B5 := Lib.hid (B4.out.trans (D4.out.mono B4.out.size))
  clear x0 x1 x2 x3 x4
  go_wp2_with (fail)
  refine (HB1 _ (HW.out.below B5.out)).out.mono ?_
  rintro e w5 ⟨rfl, b5⟩
  go_wp2_with (fail)
  refine (HB2 _).out.mono ?_
  rintro e w6 ⟨rfl, b6⟩
  go_wp2
  go_ret
  have B6 := B5.out.trans (b5.mono B5.out.size)
  exact ⟨ret_bool (by simp), B6.trans (b6.mono B6.size)⟩
  -- go_wp2
  -- go_ret
  -- exact ⟨rfl, by repeat (first | exact Grown.refl _ | apply Grown.drew | apply Grown.alloc)⟩

set_option maxRecDepth 100000 in
theorem lifted (os : Os) (started : os.Started) (H : Type) (enc : TypeId × Value → H) :
    ReturnsInHanded {} Try.checked os 3 .any (Rows.doctypeReadsSpec.pre6 enc Try.prog Try.f3 Rows.doctypeReadsRow.domain false) (Rows.doctypeReadsSpec.post enc Try.prog Try.f3 false true false false) := by
  refine returnsInHanded_of_change (C := Try.checked) own started (by kernel_rfl) Try.func3
    (ChangeSpec.witness6 (enc := enc) (C := Try.checked) false ⟨#[], #[.string ByteArray.empty, .int .i64 0], []⟩ 8 (by kernel_rfl) (by kernel_rfl) (by kernel_rfl) (by kernel_rfl)) ?_
  intro W base args ds gs before hval0 hW hcnd _
  have hval : ∀ (j : Nat) t v, Try.f3.params[j]? = some t → args[j]? = some v → Value.okWide Try.prog W .any base t v := hval0
  have hW' := hW
  obtain ⟨p, q, hA0, hV, rfl, hfz, hnd⟩ := hW
  have hA : DataW.TrodAll enc Try.prog W 0 (fun _ => true) true Try.f3.params.toList args.toList ds p := hA0
  rw [Try.params3] at hA hval
  obtain ⟨v0, vs0, d0, ds0, p0, q0, hargs, rfl, rfl, h0, r0⟩ := trodAll_cons hA
  obtain ⟨v1, vs1, d1, ds1, p1, q1, rfl, rfl, rfl, h1, r1⟩ := trodAll_cons r0
  obtain ⟨rfl, rfl, rfl⟩ := trodAll_nil r1
  obtain rfl : args = #[v0, v1] := by cases args; simp_all
  obtain ⟨rfl, rfl⟩ := trodVars_none hV
  obtain ⟨a0, rfl, rfl, rfl, w0⟩ := open_string Try.underlying9 (hval 0 9 v0 rfl rfl) h0
  obtain ⟨a1, rfl, rfl, rfl, w1⟩ := open_int Try.underlying3 (hval 1 3 v1 rfl rfl) h1
  clear hA0 hval0
  refine (walk a0 a1 w0 w1 W).mono fun e W' ⟨he, bel⟩ => ?_
  subst he
  exact ⟨_, rfl, _, _, _, [], _, [], hW', trodAll_mk1 (shut_bool Try.underlying4 _), (trodAll_cons_mk (shut_string Try.underlying9 w0) (trodAll_cons_mk (shut_int Try.underlying3 w1) trodAll_mk0)), rfl, bel.frame _, fun h => by cases h⟩

theorem over : Rows.doctypeReadsRow.holds Try.pinned (OpenSpec.ofChange Rows.doctypeReadsSpec) :=
  OpenClaim.holds_of_wide 3 Try.f3 rfl rfl rfl rfl rfl rfl rfl ⟨rfl, rfl, rfl, rfl, rfl⟩ rfl rfl rfl rfl rfl (by kernel_rfl) Try.func3 (by kernel_rfl)
    (of_decide_eq_true (by kernel_rfl)) (by unfold Func.isWrapper; first | (rw [if_pos (by decide +kernel)]; kernel_rfl) | (rw [if_neg (by decide +kernel)]; exact ⟨rfl, rfl⟩))
    (fun os started H enc _ => lifted os started H enc)

/-- ████ THE STATEMENT ████ -/
theorem proved : Rows.DoctypeReadsSaid :=
  over
end Go.Proofs.Ytbceopiipigljaa.doctypeReads
