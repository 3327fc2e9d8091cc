/-
  The law TokNext of flail/flaillaw15 answers true for every input, and changes nothing that was there. Condition, which the card ties to the program's text: when the call begins, the package variables that the row lists hold what that text lays in them (math/bits.deBruijn32tab, math/bits.deBruijn64tab, internal/strconv.uint64pow10, strconv.ErrRange, strconv.ErrSyntax, flail/number.others).
-/
import Derived.Test.YtaebcplffgaonaaGreatDoorRows
import Derived.Test.YtaebcplffgaonaaGreatDoorTkAwake
import Derived.Test.YtaebcplffgaonaaGreatDoorQH
import Derived.Test.YtaebcplffgaonaaGreatDoorCards
import Derived.Test.YtaebcplffgaonaaGreatDoorP6
import Derived.WalkKit
import Derived.ProofKit
import Derived.ChangeOld
import Derived.Below
import Derived.OpenShut
import Derived.ShutString
namespace Go.Proofs.YtaebcplffgaonaaGreatDoor.tokNext
open Go.ChangeShapes Go.WideShapes Go.ChangeAt Go.RowKit
open Go.ChangeMaps (open_string shut_string)
set_option linter.unusedVariables false      -- a walk need not use every 'w<i>' (that an integer argument fits its kind)

theorem own : ownKnob Tryz.prog.godebug = none := by kernel_rfl

set_option maxRecDepth 100000 in
set_option maxHeartbeats 8000000 in
theorem walk (a0 : ByteArray) (a1 : Int) (a2 : Int) (a3 : ByteArray) (w0 : a0.size ≤ maxLen) (w1 : (Lit.int .i64 a1).wf = true) (w2 : (Lit.int .i64 a2).wf = true) (w3 : a3.size ≤ maxLen) (w : World) (hT : LaidAt w) :
    Calls Tryz.prog 4 #[.string a0, .int .i64 a1, .int .i64 a2, .string a3] w fun e w' => e = .returned (.bool true) ∧ Below w.heap.size w w' := by
  have hb : -9223372036854775808 ≤ a1 ∧ a1 ≤ 9223372036854775807 := by simpa [Lit.wf, IntKind.min, IntKind.max, IntKind.signed, IntKind.bits] using w1
  have hb2 : -9223372036854775808 ≤ a2 ∧ a2 ≤ 9223372036854775807 := by simpa [Lit.wf, IntKind.min, IntKind.max, IntKind.signed, IntKind.bits] using w2
  clear w0 w1 w2 w3
  have HW := Lib.hid hT
  clear hT
  by_cases hlen : 300 < a0.size ∨ 60 < a3.size
  · have hc : decide ((300 : Int) < (a0.size : Int)) = true ∨ decide ((300 : Int) < (a0.size : Int)) = false ∧ decide ((60 : Int) < (a3.size : Int)) = true := by
      simp only [decide_eq_true_eq, decide_eq_false_iff_not]; omega
    clear hlen
    rcases hc with hc | ⟨hc, hd⟩
    all_goals
      go_enter Tryz.func4, Tryz.ntmps4
      go_wp2_with (fail)
      refine (tkAwake_any w HW.out).mono ?_
      rintro e w1 ⟨rfl, c1⟩
      go_wp2
      go_ret
      exact ⟨rfl, c1⟩
  have d0 : decide ((300 : Int) < (a0.size : Int)) = false := decide_eq_false (by omega)
  have d1 : decide ((60 : Int) < (a3.size : Int)) = false := decide_eq_false (by omega)
  have H1 := fun w h => Lib.hid (tokNext_any a0 a1 w (by omega) hb h)
  have H2 := fun w => Lib.hid (refNext15_any a0 a1 w (by omega) hb)
  have H3 := fun w h => Lib.hid (tokRest_any a0 a1 a2 a3 w (by omega) (by omega) hb hb2 h)
  have H4 := fun w => Lib.hid (refRest15_any a0 a1 a2 a3 w (by omega) (by omega) hb)
  obtain ⟨V, hV⟩ : ∃ V, nxV a0.data.toList a1 = V := ⟨_, rfl⟩
  obtain ⟨R, hR⟩ : ∃ R, restV a2 a3.data.toList a0.data.toList a1 = R := ⟨_, rfl⟩
  rw [hV] at H1 H2
  simp only [hR] at H3 H4
  obtain ⟨V1, V2, V3⟩ := V
  obtain ⟨R1, R2⟩ := R
  simp only at H3
  clear hV hR hb hb2 hlen
  go_enter Tryz.func4, Tryz.ntmps4
  go_wp2_with (fail)
  refine (tkAwake_any w HW.out).mono ?_
  rintro e w1 ⟨rfl, c1⟩
  have B1 := Lib.hid c1
  clear c1
  go_wp2_with (fail)
  refine (H1 _ (HW.out.below B1.out)).out.mono ?_
  rintro e w2 ⟨t, ad, len, cap, n, ok, rfl, r2, hv, c2⟩
  simp only [Prod.mk.injEq] at hv
  obtain ⟨rfl, rfl, rfl⟩ := hv
  have B2 := Lib.hid (below_new (B1.out.trans (c2.mono B1.out.size)) (.cells #[.int .i64 V1.kind, .string ⟨V1.name.toArray⟩, .string ⟨V1.text.toArray⟩, .slice ad len cap, .bool V1.self] 29))
  have R2' := Lib.hid r2
  clear c2 r2
  unfold tokA
  go_wp2_with (fail)
  refine (H2 _).out.mono ?_
  rintro e w3 ⟨t, ad', len', cap', n, ok, rfl, r3, hv, c3, -⟩
  simp only [Prod.mk.injEq] at hv
  obtain ⟨rfl, rfl, rfl⟩ := hv
  have hs3 := c3.size
  have T1 := Lib.hid ((tokAt_new w2 V1 ad len cap 29).below c3 (by simp))
  have Q1 := Lib.hid ((R2'.out.below ((Below.refl _ w2).alloc (Nat.le_refl _) (.cells #[.int .i64 V1.kind, .string ⟨V1.name.toArray⟩, .string ⟨V1.text.toArray⟩, .slice ad len cap, .bool V1.self] 29)) (Nat.le_refl _)).below c3 (Nat.le_refl _))
  have Q2 := Lib.hid r3
  have hlt1 : w2.heap.size < w3.heap.size := by simp at hs3; omega
  have C3 := Lib.hid (B2.out.trans (c3.mono B2.out.size))
  have B3 := Lib.hid (below_new C3.out (.cells #[.int .i64 V1.kind, .string ⟨V1.name.toArray⟩, .string ⟨V1.text.toArray⟩, .slice ad' len' cap', .bool V1.self] 29))
  clear c3 r3 hs3
  unfold tokA
  go_wp2_with (fail)
  refine (H3 _ (HW.out.below B3.out)).out.mono ?_
  rintro e w4 ⟨x, l, c, rfl, t4, c4⟩
  have hs4 := c4.size
  have D4 := Lib.hid (((Below.refl w3.heap.size w3).alloc (Nat.le_refl _) (.cells #[.int .i64 V1.kind, .string ⟨V1.name.toArray⟩, .string ⟨V1.text.toArray⟩, .slice ad' len' cap', .bool V1.self] 29)).trans (c4.mono (by simp)))
  have T1 := Lib.hid (T1.out.below D4.out hlt1)
  have T2 := Lib.hid ((tokAt_new w3 V1 ad' len' cap' 29).below c4 (by simp))
  have Q1 := Lib.hid (Q1.out.below D4.out (Nat.le_refl _))
  have Q2 := Lib.hid (Q2.out.below D4.out (Nat.le_refl _))
  have hlt2 : w3.heap.size < w4.heap.size := by simp at hs4; omega
  have L4 := Lib.hid t4
  have B4 := Lib.hid (B3.out.trans (c4.mono B3.out.size))
  clear c4 t4 hs4
  go_wp2_with (fail)
  refine (H4 _).out.mono ?_
  rintro e w5 ⟨v, Q, n, rfl, o5, q5, -, c5⟩
  obtain ⟨y, d, rfl, t5⟩ := o5.told
  simp only [Prod.mk.injEq] at q5
  obtain ⟨q5, rfl⟩ := q5
  rw [q5] at t5
  have hs5 := c5.size
  have T1 := T1.out.below c5 (by omega)
  have T2 := T2.out.below c5 hlt2
  have Q1 := Lib.hid (Q1.out.below c5 (Nat.le_refl _))
  have Q2 := Lib.hid (Q2.out.below c5 (Nat.le_refl _))
  have L4 := Lib.hid (L4.out.below c5 (Nat.le_refl _))
  have L5 := Lib.hid t5
  have B5 := Lib.hid (B4.out.trans (c5.mono B4.out.size))
  have HS := Lib.hid (refSame9_any V1 V1 _ _ _ _ _ _ _ Q1.out Q2.out)
  rw [decide_eq_true (rfl : V1 = V1)] at HS
  obtain ⟨x0, x1, x2, x3, x4⟩ := T1
  obtain ⟨y0, y1, y2, y3, y4⟩ := T2
  clear c5 t5 o5 q5 hs5 hlt1 hlt2
  go_wp2_with (fail)
  refine HS.out.mono ?_
  rintro e w6 ⟨rfl, c6⟩
  have L4 := Lib.hid (L4.out.below c6 (Nat.le_refl _))
  have L5 := Lib.hid (L5.out.below c6 (Nat.le_refl _))
  have B6 := Lib.hid (B5.out.trans (c6.mono B5.out.size))
  have HA := Lib.hid (refAll_any _ _ _ _ _ _ _ _ _ L4.out L5.out)
  rw [decide_eq_true (rfl : R1 = R1)] at HA
  clear c6 x0 x1 x2 x3 x4 y0 y1 y2 y3 y4
  go_wp2_with (fail)
  refine HA.out.mono ?_
  rintro e w7 ⟨rfl, c7⟩
  go_wp2
  go_ret
  exact ⟨ret_bool (by simp), B6.out.trans (c7.mono B6.out.size)⟩
  -- go_wp2
  -- go_ret
  -- exact ⟨rfl, by repeat (first | exact Grown.refl _ | apply Grown.drew | apply Grown.alloc)⟩

theorem laid_met (os : Os) : laidMet Tryz.prog Rows.tokNextRow.laid ((laidWorld os).forCall (fun _ _ => 0) ⟨#[], #[.string ByteArray.empty, .int .i64 0, .int .i64 0, .string ByteArray.empty], []⟩).memory :=
  laidMet_of_run' 8 (by kernel_rfl) (by kernel_rfl)
theorem reads (os : Os) {H : Type} (enc : TypeId × Value → H) : ∃ places, DataW.whole enc Tryz.prog ((laidWorld os).forCall (fun _ _ => 0) ⟨#[], #[.string ByteArray.empty, .int .i64 0, .int .i64 0, .string ByteArray.empty], []⟩).memory Tryz.f4.params.toList Rows.tokNextSpec.vars false (#[.string ByteArray.empty, .int .i64 0, .int .i64 0, .string ByteArray.empty] : Array Value).toList 8 = some ([.lit (.string []), .lit (.int .i64 0), .lit (.int .i64 0), .lit (.string [])], [], places) :=
  ⟨[], by kernel_rfl⟩
set_option maxRecDepth 100000 in
theorem lifted (os : Os) (started : os.Started) (H : Type) (enc : TypeId × Value → H) (F : Stop.Interp) :
    ReturnsInHanded {} Tryz.checked os 4 .any ((OpenSpec.ofChange Rows.tokNextSpec).preRow enc Tryz.prog Tryz.f4 Rows.tokNextRow.domain false Rows.tokNextRow.laid) (((OpenSpec.ofChange Rows.tokNextSpec).at F).post enc Tryz.prog Tryz.f4 false true false false) := by
  obtain ⟨places, hx⟩ := reads os enc
  refine returnsInHanded_of_row (C := Tryz.checked) (s := OpenSpec.ofChange Rows.tokNextSpec) own started (by kernel_rfl) Tryz.func4
    (witness_row_at (enc := enc) (C := Tryz.checked) false (laidWorld os) #[.string ByteArray.empty, .int .i64 0, .int .i64 0, .string ByteArray.empty] rfl (by kernel_rfl) (by kernel_rfl) (by kernel_rfl)
      (OpenSpec.preRow_of_cond 8 hx (by kernel_rfl) (fun k hk => by cases hk) (by kernel_rfl) (laid_met os))) ?_
  intro W base args ds gs before hval0 hW _ _ _ hL hsh _
  have hval : ∀ (j : Nat) t v, Tryz.f4.params[j]? = some t → args[j]? = some v → Value.okWide Tryz.prog W .any base t v := hval0
  have hW' := hW
  obtain ⟨p, q, hA0, hV, rfl, hfz, hnd⟩ := hW
  have hA : DataW.TrodAll enc Tryz.prog W 0 (fun _ => true) true Tryz.f4.params.toList args.toList ds p := hA0
  rw [Tryz.params4] at hA hval
  obtain ⟨v0, vs0, d0, ds0, p0, q0, hargs, rfl, rfl, h0, r0⟩ := trodAll_cons hA
  obtain ⟨v1, vs1, d1, ds1, p1, q1, rfl, rfl, rfl, h1, r1⟩ := trodAll_cons r0
  obtain ⟨v2, vs2, d2, ds2, p2, q2, rfl, rfl, rfl, h2, r2⟩ := trodAll_cons r1
  obtain ⟨v3, vs3, d3, ds3, p3, q3, rfl, rfl, rfl, h3, r3⟩ := trodAll_cons r2
  obtain ⟨rfl, rfl, rfl⟩ := trodAll_nil r3
  obtain rfl : args = #[v0, v1, v2, v3] := by cases args; simp_all
  obtain ⟨rfl, rfl⟩ := trodVars_none hV
  obtain ⟨a0, rfl, rfl, rfl, w0⟩ := open_string Tryz.underlying9 (hval 0 9 v0 rfl rfl) h0
  obtain ⟨a1, rfl, rfl, rfl, w1⟩ := open_int Tryz.underlying3 (hval 1 3 v1 rfl rfl) h1
  obtain ⟨a2, rfl, rfl, rfl, w2⟩ := open_int Tryz.underlying3 (hval 2 3 v2 rfl rfl) h2
  obtain ⟨a3, rfl, rfl, rfl, w3⟩ := open_string Tryz.underlying9 (hval 3 9 v3 rfl rfl) h3
  clear hA0 hval0
  refine (walk a0 a1 a2 a3 w0 w1 w2 w3 W (tabAt_of hL hsh)).mono fun e W' ⟨he, bel⟩ => ?_
  subst he
  exact ⟨_, rfl, _, _, _, [], _, [], hW', trodAll_mk1 (shut_bool Tryz.underlying4 _), (trodAll_cons_mk (shut_string Tryz.underlying9 w0) (trodAll_cons_mk (shut_int Tryz.underlying3 w1) (trodAll_cons_mk (shut_int Tryz.underlying3 w2) (trodAll_cons_mk (shut_string Tryz.underlying9 w3) trodAll_mk0)))), rfl, bel.frame _, fun h => by cases h⟩

theorem said : Rows.TokNextSaid :=
  OpenClaim.holds_of_cond 4 Tryz.f4 rfl rfl rfl rfl rfl rfl rfl ⟨rfl, rfl, rfl, rfl, rfl⟩ rfl rfl rfl rfl rfl (by kernel_rfl) Tryz.func4 (by kernel_rfl)
    (of_decide_eq_true (by kernel_rfl)) (by unfold Func.isWrapper; first | (rw [if_pos (by decide +kernel)]; kernel_rfl) | (rw [if_neg (by decide +kernel)]; exact ⟨rfl, rfl⟩))
    (fun os started H enc _ F => by rw [OpenClaim.pre_eq_preRow]; exact lifted os started H enc F)
theorem plain (f : FuncId) (fn : Func) (hf : Tryz.pinned.checked.prog.funcNamed "flail/flaillaw15.TokNext" = some f) (hfn : Tryz.pinned.checked.prog.funcs[f]? = some fn) :
    true = Tryz.pinned.checked.prog.looks [] ∧ ∀ (j : Nat) t, fn.params[j]? = some t → Tryz.pinned.checked.prog.wantsStandIn t = false := by
  obtain rfl : f = 4 := Option.some.inj ((show Tryz.prog.funcNamed "flail/flaillaw15.TokNext" = some 4 by kernel_rfl).symm.trans hf) |>.symm
  obtain rfl : fn = Tryz.f4 := (Option.some.inj (Tryz.func4.symm.trans hfn)).symm
  refine ⟨by kernel_rfl, fun j t ht => ?_⟩
  rw [Tryz.params4] at ht
  have hm : t ∈ [9, 3] := by first | simpa using Array.mem_of_getElem? ht | (have h := Array.mem_of_getElem? ht; simp at h ⊢; grind)
  have hall : ([9, 3].all fun u => !Tryz.prog.wantsStandIn u) = true := by kernel_rfl
  exact (show Tryz.prog.wantsStandIn t = false by simpa using List.all_eq_true.1 hall t hm)
/-- the statement: the row's card -/
theorem proved : Rows.TokNextCardSaid :=
  Claim7.holds_tied_plain_at .later [] _ _ _ _ said (fun _ h => by cases h) (by kernel_rfl) (fun _ h => by cases h) tokNext_row_tie rfl ⟨rfl, rfl⟩ (by kernel_rfl) rfl plain (by kernel_rfl)
end Go.Proofs.YtaebcplffgaonaaGreatDoor.tokNext
