/-
  The law TagReads of flail/flaillaw09 answers true for every input, and changes nothing that was there. Condition, which the card ties to the program's text: when the call begins, the package variables that the row lists hold what that text lays in them (math/bits.deBruijn32tab, math/bits.deBruijn64tab, internal/strconv.uint64pow10, strconv.ErrRange, strconv.ErrSyntax, flail/number.others).
-/
import Derived.Test.YtdgebenkhcaijaaGreatDoorRows
import Derived.Test.YtdgebenkhcaijaaGreatDoorTagAwake
import Derived.Test.YtdgebenkhcaijaaGreatDoorTagRefB
import Derived.Test.YtdgebenkhcaijaaGreatDoorCards
import Derived.Test.YtdgebenkhcaijaaGreatDoorP6
import Derived.WalkKit
import Derived.ProofKit
import Derived.ChangeOld
import Derived.Below
import Derived.OpenShut
import Derived.ShutString
namespace Go.Proofs.YtdgebenkhcaijaaGreatDoor.tagReads
open Go.ChangeShapes Go.WideShapes Go.ChangeAt Go.RowKit
open Go.ChangeMaps (open_string shut_string)
set_option linter.unusedVariables false      -- a walk need not use every 'w<i>' (that an integer argument fits its kind)

theorem own : ownKnob Tryz.prog.godebug = none := by kernel_rfl

set_option maxRecDepth 100000 in
set_option maxHeartbeats 8000000 in
theorem walk (a0 : ByteArray) (a1 : Int) (w0 : a0.size ≤ maxLen) (w1 : (Lit.int .i64 a1).wf = true) (w : World) (hT : LaidAt w) :
    Calls Tryz.prog 3 #[.string a0, .int .i64 a1] w fun e w' => e = .returned (.bool true) ∧ Below w.heap.size w w' := by
  have hb : -9223372036854775808 ≤ a1 ∧ a1 ≤ 9223372036854775807 := by simpa [Lit.wf, IntKind.min, IntKind.max, IntKind.signed, IntKind.bits] using w1
  clear w0 w1
  have HW := Lib.hid hT
  clear hT
  by_cases hlen : 300 < a0.size
  · go_enter Tryz.func3, Tryz.ntmps3
    go_wp2_with (fail)
    refine (tagAwake_any w HW.out).mono ?_
    rintro e w1 ⟨rfl, c1⟩
    go_wp2
    go_ret
    exact ⟨rfl, c1⟩
  have hs : a0.size ≤ 300 := by omega
  clear hlen
  have HR1 := fun w h => Lib.hid (tag_any a0 a1 w (by omega) hb h)
  have HR2 := fun w => Lib.hid (refRead9_any a0 a1 w (by omega) hb)
  have HB1 := fun w h => Lib.hid (tagBegins_any a0 a1 w (by omega) hb h)
  have HB2 := fun w => Lib.hid (refBegins9_any a0 a1 w (by omega) hb)
  obtain ⟨V, hV⟩ : ∃ V, begV a0.data.toList a1 = V := ⟨_, rfl⟩
  rw [hV] at HB1 HB2
  clear hV hb
  go_enter Tryz.func3, Tryz.ntmps3
  go_wp2_with (fail)
  refine (tagAwake_any w HW.out).mono ?_
  rintro e w1 ⟨rfl, c1⟩
  go_wp2_with (fail)
  refine (HR1 _ (HW.out.below c1)).out.mono ?_
  rintro e w2 ⟨t, ad, len, cap, n, ok, rfl, hr, hv, b2⟩
  have HV := Lib.hid hv
  have C2 := Lib.hid (c1.trans (b2.mono c1.size))
  have K2 := Lib.hid hr
  clear hr hv b2
  unfold tokA
  go_wp2_with (fail)
  have B3 := Lib.hid (below_new C2.out (.cells #[.int .i64 t.kind, .string ⟨t.name.toArray⟩, .string ⟨t.text.toArray⟩, .slice ad len cap, .bool t.self] 25))
  refine (HR2 _).out.mono ?_
  rintro e w3 ⟨t', ad2, len2, cap2, n', ok', rfl, hr, hv, b3⟩
  rw [HV.out] at hv
  simp only [Prod.mk.injEq] at hv
  obtain ⟨rfl, rfl, rfl⟩ := hv
  have K3 := Lib.hid hr
  clear hr
  have T2 := Lib.hid ((tokAt_new w2 t ad len cap 25).below b3 (by simp))
  have D3 := Lib.hid (((Below.refl w2.heap.size w2).alloc (Nat.le_refl _) _).trans (b3.mono (by simp)))
  have B4 := Lib.hid (B3.out.trans (b3.mono B3.out.size))
  have hlt : w2.heap.size < w3.heap.size := by have := b3.size; simp at this; omega
  obtain ⟨x0, x1, x2, x3, x4⟩ := T2.out.below ((Below.refl w3.heap.size w3).alloc (Nat.le_refl _) (.cells #[.int .i64 t.kind, .string ⟨t.name.toArray⟩, .string ⟨t.text.toArray⟩, .slice ad2 len2 cap2, .bool t.self] 25)) hlt
  unfold tokA
  go_wp2_with (fail)
  refine (refSame9_any t t _ _ _ _ _ _ _ ((K2.out.below D3.out (Nat.le_refl _)).below ((Below.refl _ w3).alloc (Nat.le_refl _) _) (Nat.le_refl _)) (K3.out.below ((Below.refl _ w3).alloc (Nat.le_refl _) _) (Nat.le_refl _))).mono ?_
  rintro e w4 ⟨rfl, b4⟩
  have D4 := Lib.hid (((Below.refl w3.heap.size w3).alloc (Nat.le_refl _) _).trans (b4.mono (by simp)))
  have B5 := Lib.hid (B4.out.trans (D4.out.mono B4.out.size))
  clear x0 x1 x2 x3 x4
  go_wp2_with (fail)
  refine (HB1 _ (HW.out.below B5.out)).out.mono ?_
  rintro e w5 ⟨rfl, b5⟩
  go_wp2_with (fail)
  refine (HB2 _).out.mono ?_
  rintro e w6 ⟨rfl, rfl⟩
  go_wp2
  go_ret
  exact ⟨ret_bool (by simp), B5.out.trans (b5.mono B5.out.size)⟩
  -- go_wp2
  -- go_ret
  -- exact ⟨rfl, by repeat (first | exact Grown.refl _ | apply Grown.drew | apply Grown.alloc)⟩

theorem laid_met (os : Os) : laidMet Tryz.prog Rows.tagReadsRow.laid ((laidWorld os).forCall (fun _ _ => 0) ⟨#[], #[.string ByteArray.empty, .int .i64 0], []⟩).memory :=
  laidMet_of_run' 8 (by kernel_rfl) (by kernel_rfl)
theorem reads (os : Os) {H : Type} (enc : TypeId × Value → H) : ∃ places, DataW.whole enc Tryz.prog ((laidWorld os).forCall (fun _ _ => 0) ⟨#[], #[.string ByteArray.empty, .int .i64 0], []⟩).memory Tryz.f3.params.toList Rows.tagReadsSpec.vars false (#[.string ByteArray.empty, .int .i64 0] : Array Value).toList 8 = some ([.lit (.string []), .lit (.int .i64 0)], [], places) :=
  ⟨[], by kernel_rfl⟩
set_option maxRecDepth 100000 in
theorem lifted (os : Os) (started : os.Started) (H : Type) (enc : TypeId × Value → H) (F : Stop.Interp) :
    ReturnsInHanded {} Tryz.checked os 3 .any ((OpenSpec.ofChange Rows.tagReadsSpec).preRow enc Tryz.prog Tryz.f3 Rows.tagReadsRow.domain false Rows.tagReadsRow.laid) (((OpenSpec.ofChange Rows.tagReadsSpec).at F).post enc Tryz.prog Tryz.f3 false true false false) := by
  obtain ⟨places, hx⟩ := reads os enc
  refine returnsInHanded_of_row (C := Tryz.checked) (s := OpenSpec.ofChange Rows.tagReadsSpec) own started (by kernel_rfl) Tryz.func3
    (witness_row_at (enc := enc) (C := Tryz.checked) false (laidWorld os) #[.string ByteArray.empty, .int .i64 0] rfl (by kernel_rfl) (by kernel_rfl) (by kernel_rfl)
      (OpenSpec.preRow_of_cond 8 hx (by kernel_rfl) (fun k hk => by cases hk) (by kernel_rfl) (laid_met os))) ?_
  intro W base args ds gs before hval0 hW _ _ _ hL _ _
  have hval : ∀ (j : Nat) t v, Tryz.f3.params[j]? = some t → args[j]? = some v → Value.okWide Tryz.prog W .any base t v := hval0
  have hW' := hW
  obtain ⟨p, q, hA0, hV, rfl, hfz, hnd⟩ := hW
  have hA : DataW.TrodAll enc Tryz.prog W 0 (fun _ => true) true Tryz.f3.params.toList args.toList ds p := hA0
  rw [Tryz.params3] at hA hval
  obtain ⟨v0, vs0, d0, ds0, p0, q0, hargs, rfl, rfl, h0, r0⟩ := trodAll_cons hA
  obtain ⟨v1, vs1, d1, ds1, p1, q1, rfl, rfl, rfl, h1, r1⟩ := trodAll_cons r0
  obtain ⟨rfl, rfl, rfl⟩ := trodAll_nil r1
  obtain rfl : args = #[v0, v1] := by cases args; simp_all
  obtain ⟨rfl, rfl⟩ := trodVars_none hV
  obtain ⟨a0, rfl, rfl, rfl, w0⟩ := open_string Tryz.underlying9 (hval 0 9 v0 rfl rfl) h0
  obtain ⟨a1, rfl, rfl, rfl, w1⟩ := open_int Tryz.underlying3 (hval 1 3 v1 rfl rfl) h1
  clear hA0 hval0
  refine (walk a0 a1 w0 w1 W (tabAt_of hL)).mono fun e W' ⟨he, bel⟩ => ?_
  subst he
  exact ⟨_, rfl, _, _, _, [], _, [], hW', trodAll_mk1 (shut_bool Tryz.underlying4 _), (trodAll_cons_mk (shut_string Tryz.underlying9 w0) (trodAll_cons_mk (shut_int Tryz.underlying3 w1) trodAll_mk0)), rfl, bel.frame _, fun h => by cases h⟩

theorem said : Rows.TagReadsSaid :=
  OpenClaim.holds_of_cond 3 Tryz.f3 rfl rfl rfl rfl rfl rfl rfl ⟨rfl, rfl, rfl, rfl, rfl⟩ rfl rfl rfl rfl rfl (by kernel_rfl) Tryz.func3 (by kernel_rfl)
    (of_decide_eq_true (by kernel_rfl)) (by unfold Func.isWrapper; first | (rw [if_pos (by decide +kernel)]; kernel_rfl) | (rw [if_neg (by decide +kernel)]; exact ⟨rfl, rfl⟩))
    (fun os started H enc _ F => by rw [OpenClaim.pre_eq_preRow]; exact lifted os started H enc F)
theorem plain (f : FuncId) (fn : Func) (hf : Tryz.pinned.checked.prog.funcNamed "flail/flaillaw09.TagReads" = some f) (hfn : Tryz.pinned.checked.prog.funcs[f]? = some fn) :
    true = Tryz.pinned.checked.prog.looks [] ∧ ∀ (j : Nat) t, fn.params[j]? = some t → Tryz.pinned.checked.prog.wantsStandIn t = false := by
  obtain rfl : f = 3 := Option.some.inj ((show Tryz.prog.funcNamed "flail/flaillaw09.TagReads" = some 3 by kernel_rfl).symm.trans hf) |>.symm
  obtain rfl : fn = Tryz.f3 := (Option.some.inj (Tryz.func3.symm.trans hfn)).symm
  refine ⟨by kernel_rfl, fun j t ht => ?_⟩
  rw [Tryz.params3] at ht
  have hm : t ∈ [9, 3] := by simpa using Array.mem_of_getElem? ht
  have hall : ([9, 3].all fun u => !Tryz.prog.wantsStandIn u) = true := by kernel_rfl
  exact (show Tryz.prog.wantsStandIn t = false by simpa using List.all_eq_true.1 hall t hm)
/-- the statement: the row's card -/
theorem proved : Rows.TagReadsCardSaid :=
  Claim7.holds_tied_plain_at .later [] _ _ _ _ said (fun _ h => by cases h) (by kernel_rfl) (fun _ h => by cases h) tagReads_row_tie rfl ⟨rfl, rfl⟩ (by kernel_rfl) rfl plain (by kernel_rfl)
end Go.Proofs.YtdgebenkhcaijaaGreatDoor.tagReads
