/-
  The law RawCase of flail/flaillaw12 answers true for every input, and changes nothing that was there. Condition, which the card ties to the program's text: when the call begins, the package variables that the row lists hold what that text lays in them (math/bits.deBruijn32tab, math/bits.deBruijn64tab, internal/strconv.uint64pow10, strconv.ErrRange, strconv.ErrSyntax, flail/number.others).
-/
import Derived.Test.YtameddkmbfcnoaaDoorRows
import Derived.Test.YtameddkmbfcnoaaDoorRawAwake
import Derived.Test.YtameddkmbfcnoaaDoorP4
import Derived.Test.YtameddkmbfcnoaaDoorCards
import Derived.Test.YtameddkmbfcnoaaDoorP6
import Derived.WalkKit
import Derived.ProofKit
import Derived.ChangeOld
import Derived.Below
import Derived.OpenShut
import Derived.ShutString
namespace Go.Proofs.YtameddkmbfcnoaaDoor.rawCase
open Go.ChangeShapes Go.WideShapes Go.ChangeAt Go.RowKit
open Go.ChangeMaps (open_string shut_string)
set_option linter.unusedVariables false      -- a walk need not use every 'w<i>' (that an integer argument fits its kind)

theorem own : ownKnob Tryd.prog.godebug = none := by kernel_rfl

set_option maxRecDepth 100000 in
set_option maxHeartbeats 4000000 in
theorem walk (a0 : ByteArray) (a1 : ByteArray) (a2 : Int) (w0 : a0.size ≤ maxLen) (w1 : a1.size ≤ maxLen) (w2 : (Lit.int .u16 a2).wf = true) (w : World) (hT : LaidAt w) :
    Calls Tryd.prog 6 #[.string a0, .string a1, .int .u16 a2] w fun e w' => e = .returned (.bool true) ∧ Below w.heap.size w w' := by
  have hb2 : 0 ≤ a2 ∧ a2 ≤ 65535 := by simpa [Lit.wf, IntKind.min, IntKind.max, IntKind.signed, IntKind.bits] using w2
  obtain ⟨h20, h21⟩ := hb2
  clear w0 w1 w2
  have HW := Lib.hid hT
  clear hT
  by_cases hlen : 300 < a0.size ∨ 60 < a1.size
  · have hc : decide ((300 : Int) < (a0.size : Int)) = true ∨ decide ((300 : Int) < (a0.size : Int)) = false ∧ decide ((60 : Int) < (a1.size : Int)) = true := by
      simp only [decide_eq_true_eq, decide_eq_false_iff_not]; omega
    clear hlen
    rcases hc with hc | ⟨hc, hd⟩
    all_goals
      go_enter Tryd.func6, Tryd.ntmps6
      go_wp2_with (fail)
      refine (rawAwake_any w HW.out).mono ?_
      rintro e w1 ⟨rfl, c1⟩
      go_wp2
      go_ret
      exact ⟨rfl, c1⟩
  have hs0 : a0.size ≤ 300 := by omega
  have hs1 : a1.size ≤ 60 := by omega
  have d0 : decide ((300 : Int) < (a0.size : Int)) = false := decide_eq_false (by omega)
  have d1 : decide ((60 : Int) < (a1.size : Int)) = false := decide_eq_false (by omega)
  have hk0 : 0 ≤ a2 % ((a0.size : Int) + 1) := Int.emod_nonneg _ (by omega)
  have hk1 : a2 % ((a0.size : Int) + 1) < (a0.size : Int) + 1 := Int.emod_lt_of_pos _ (by omega)
  obtain ⟨k, hk⟩ : ∃ k : Nat, a2 % ((a0.size : Int) + 1) = k := ⟨(a2 % ((a0.size : Int) + 1)).toNat, by omega⟩
  have HK := Lib.hid hk
  have hkk : k ≤ 300 := by omega
  have HL := fun w => Lib.hid (lower a0 w (by omega))
  have HL2 := fun w => Lib.hid (lower a1 w (by omega))
  have H1 := fun w h => Lib.hid (rawFind_any (lowS a0) (k : Int) a1 w (by rw [lowS_size]; omega) (by omega) (by omega) h)
  have H2 := fun w h => Lib.hid (rawFind_any a0 (k : Int) a1 w (by omega) (by omega) (by omega) h)
  have H3 := fun w h => Lib.hid (rawEnds_any (lowS a0) (k : Int) a1 w (by rw [lowS_size]; omega) (by omega) (by omega) h)
  have H4 := fun w h => Lib.hid (rawEnds_any a0 (k : Int) a1 w (by omega) (by omega) (by omega) h)
  have H5 := fun w h => Lib.hid (rawFind_any a0 0 a1 w (by omega) (by omega) (by decide) h)
  rw [lowS_list, findV_lower] at H1
  rw [lowS_list, endV_low] at H3
  have hcase : ((lowS a1).toList == a1.toList) = true ∨ ((lowS a1).toList == a1.toList) = false ∧ findV a1.data.toList a0.data.toList 0 = a0.size := by
    rw [str_beq, lowS_list]
    by_cases h : lowL a1.data.toList = a1.data.toList
    · exact .inl (decide_eq_true h)
    · exact .inr ⟨decide_eq_false h, by rw [findV_large _ _ h, ← Lib.size_eq]⟩
  obtain ⟨N, hN⟩ : ∃ N, findV a1.data.toList a0.data.toList (k : Int) = N := ⟨_, rfl⟩
  obtain ⟨E, hE⟩ : ∃ E, endV a1.data.toList a0.data.toList (k : Int) = E := ⟨_, rfl⟩
  obtain ⟨M, hM⟩ : ∃ E, findV a1.data.toList a0.data.toList 0 = E := ⟨_, rfl⟩
  rw [hN] at H1 H2
  rw [hE] at H3 H4
  rw [hM] at H5 hcase
  obtain ⟨LA, hLA⟩ : ∃ X, lowS a0 = X := ⟨_, rfl⟩
  obtain ⟨LN, hLN⟩ : ∃ X, lowS a1 = X := ⟨_, rfl⟩
  simp only [hLA] at HL H1 H3
  rw [hLN] at HL2 hcase
  clear hN hE hM hLA hLN hk hlen
  have hcc : (LN.toList == a1.toList) = true ∨ (LN.toList == a1.toList) = false ∧ ((M : Int) == (a0.size : Int)) = true := by
    rcases hcase with h | ⟨h1, h2⟩
    · exact .inl h
    · exact .inr ⟨h1, by rw [h2]; exact beq_self_eq_true _⟩
  clear hcase
  rcases hcc with hb | ⟨hb, hb'⟩
  all_goals
    go_enter Tryd.func6, Tryd.ntmps6
    go_wp2_with (fail)
    refine (rawAwake_any w HW.out).mono ?_
    rintro e w1 ⟨rfl, c1⟩
    have B1 := Lib.hid c1
    clear c1
    go_wp2_with (fail)
    refine (HL _).out.mono ?_
    rintro e w2 ⟨rfl, c2⟩
    have B2 := Lib.hid (B1.out.trans (c2.mono B1.out.size))
    clear c2
    go_wp2_with (fail)
    rw [HK.out]
    refine (H1 _ (HW.out.below B2.out)).out.mono ?_
    rintro e w3 ⟨rfl, c3⟩
    have B3 := Lib.hid (B2.out.trans (c3.mono B2.out.size))
    clear c3
    go_wp2_with (fail)
    refine (H2 _ (HW.out.below B3.out)).out.mono ?_
    rintro e w4 ⟨rfl, c4⟩
    have B4 := Lib.hid (B3.out.trans (c4.mono B3.out.size))
    clear c4
    go_wp2_with (fail)
    refine (H3 _ (HW.out.below B4.out)).out.mono ?_
    rintro e w5 ⟨rfl, c5⟩
    have B5 := Lib.hid (B4.out.trans (c5.mono B4.out.size))
    clear c5
    go_wp2_with (fail)
    refine (H4 _ (HW.out.below B5.out)).out.mono ?_
    rintro e w6 ⟨rfl, c6⟩
    have B6 := Lib.hid (B5.out.trans (c6.mono B5.out.size))
    clear c6
    go_wp2_with (fail)
    refine (HL2 _).out.mono ?_
    rintro e w7 ⟨rfl, c7⟩
    have B7 := Lib.hid (B6.out.trans (c7.mono B6.out.size))
    clear c7
    first
      | (go_wp2_with (fail)
         refine (H5 _ (HW.out.below B7.out)).out.mono ?_
         rintro e w8 ⟨rfl, c8⟩
         go_wp2
         go_ret
         exact ⟨ret_bool (by simp), B7.out.trans (c8.mono B7.out.size)⟩)
      | (go_wp2
         go_ret
         exact ⟨ret_bool (by simp), B7.out⟩)
  -- go_wp2
  -- go_ret
  -- exact ⟨rfl, by repeat (first | exact Grown.refl _ | apply Grown.drew | apply Grown.alloc)⟩

theorem laid_met (os : Os) : laidMet Tryd.prog Rows.rawCaseRow.laid ((laidWorld os).forCall (fun _ _ => 0) ⟨#[], #[.string ByteArray.empty, .string ByteArray.empty, .int .u16 0], []⟩).memory :=
  laidMet_of_run' 8 (by kernel_rfl) (by kernel_rfl)
theorem reads (os : Os) {H : Type} (enc : TypeId × Value → H) : ∃ places, DataW.whole enc Tryd.prog ((laidWorld os).forCall (fun _ _ => 0) ⟨#[], #[.string ByteArray.empty, .string ByteArray.empty, .int .u16 0], []⟩).memory Tryd.f6.params.toList Rows.rawCaseSpec.vars false (#[.string ByteArray.empty, .string ByteArray.empty, .int .u16 0] : Array Value).toList 8 = some ([.lit (.string []), .lit (.string []), .lit (.int .u16 0)], [], places) :=
  ⟨[], by kernel_rfl⟩
set_option maxRecDepth 100000 in
theorem lifted (os : Os) (started : os.Started) (H : Type) (enc : TypeId × Value → H) (F : Stop.Interp) :
    ReturnsInHanded {} Tryd.checked os 6 .any ((OpenSpec.ofChange Rows.rawCaseSpec).preRow enc Tryd.prog Tryd.f6 Rows.rawCaseRow.domain false Rows.rawCaseRow.laid) (((OpenSpec.ofChange Rows.rawCaseSpec).at F).post enc Tryd.prog Tryd.f6 false true false false) := by
  obtain ⟨places, hx⟩ := reads os enc
  refine returnsInHanded_of_row (C := Tryd.checked) (s := OpenSpec.ofChange Rows.rawCaseSpec) own started (by kernel_rfl) Tryd.func6
    (witness_row_at (enc := enc) (C := Tryd.checked) false (laidWorld os) #[.string ByteArray.empty, .string ByteArray.empty, .int .u16 0] rfl (by kernel_rfl) (by kernel_rfl) (by kernel_rfl)
      (OpenSpec.preRow_of_cond 8 hx (by kernel_rfl) (fun k hk => by cases hk) (by kernel_rfl) (laid_met os))) ?_
  intro W base args ds gs before hval0 hW _ _ _ hL hsh _
  have hval : ∀ (j : Nat) t v, Tryd.f6.params[j]? = some t → args[j]? = some v → Value.okWide Tryd.prog W .any base t v := hval0
  have hW' := hW
  obtain ⟨p, q, hA0, hV, rfl, hfz, hnd⟩ := hW
  have hA : DataW.TrodAll enc Tryd.prog W 0 (fun _ => true) true Tryd.f6.params.toList args.toList ds p := hA0
  rw [Tryd.params6] at hA hval
  obtain ⟨v0, vs0, d0, ds0, p0, q0, hargs, rfl, rfl, h0, r0⟩ := trodAll_cons hA
  obtain ⟨v1, vs1, d1, ds1, p1, q1, rfl, rfl, rfl, h1, r1⟩ := trodAll_cons r0
  obtain ⟨v2, vs2, d2, ds2, p2, q2, rfl, rfl, rfl, h2, r2⟩ := trodAll_cons r1
  obtain ⟨rfl, rfl, rfl⟩ := trodAll_nil r2
  obtain rfl : args = #[v0, v1, v2] := by cases args; simp_all
  obtain ⟨rfl, rfl⟩ := trodVars_none hV
  obtain ⟨a0, rfl, rfl, rfl, w0⟩ := open_string Tryd.underlying9 (hval 0 9 v0 rfl rfl) h0
  obtain ⟨a1, rfl, rfl, rfl, w1⟩ := open_string Tryd.underlying9 (hval 1 9 v1 rfl rfl) h1
  obtain ⟨a2, rfl, rfl, rfl, w2⟩ := open_int Tryd.underlying22 (hval 2 22 v2 rfl rfl) h2
  clear hA0 hval0
  refine (walk a0 a1 a2 w0 w1 w2 W (tabAt_of hL hsh)).mono fun e W' ⟨he, bel⟩ => ?_
  subst he
  exact ⟨_, rfl, _, _, _, [], _, [], hW', trodAll_mk1 (shut_bool Tryd.underlying4 _), (trodAll_cons_mk (shut_string Tryd.underlying9 w0) (trodAll_cons_mk (shut_string Tryd.underlying9 w1) (trodAll_cons_mk (shut_int Tryd.underlying22 w2) trodAll_mk0))), rfl, bel.frame _, fun h => by cases h⟩

theorem said : Rows.RawCaseSaid :=
  OpenClaim.holds_of_cond 6 Tryd.f6 rfl rfl rfl rfl rfl rfl rfl ⟨rfl, rfl, rfl, rfl, rfl⟩ rfl rfl rfl rfl rfl (by kernel_rfl) Tryd.func6 (by kernel_rfl)
    (of_decide_eq_true (by kernel_rfl)) (by unfold Func.isWrapper; first | (rw [if_pos (by decide +kernel)]; kernel_rfl) | (rw [if_neg (by decide +kernel)]; exact ⟨rfl, rfl⟩))
    (fun os started H enc _ F => by rw [OpenClaim.pre_eq_preRow]; exact lifted os started H enc F)
theorem plain (f : FuncId) (fn : Func) (hf : Tryd.pinned.checked.prog.funcNamed "flail/flaillaw12.RawCase" = some f) (hfn : Tryd.pinned.checked.prog.funcs[f]? = some fn) :
    true = Tryd.pinned.checked.prog.looks [] ∧ ∀ (j : Nat) t, fn.params[j]? = some t → Tryd.pinned.checked.prog.wantsStandIn t = false := by
  obtain rfl : f = 6 := Option.some.inj ((show Tryd.prog.funcNamed "flail/flaillaw12.RawCase" = some 6 by kernel_rfl).symm.trans hf) |>.symm
  obtain rfl : fn = Tryd.f6 := (Option.some.inj (Tryd.func6.symm.trans hfn)).symm
  refine ⟨by kernel_rfl, fun j t ht => ?_⟩
  rw [Tryd.params6] at ht
  have hm : t ∈ [9, 22] := by simpa using Array.mem_of_getElem? ht
  have hall : ([9, 22].all fun u => !Tryd.prog.wantsStandIn u) = true := by kernel_rfl
  exact (show Tryd.prog.wantsStandIn t = false by simpa using List.all_eq_true.1 hall t hm)
/-- the statement: the row's card -/
theorem proved : Rows.RawCaseCardSaid :=
  Claim7.holds_tied_plain_at .later [] _ _ _ _ said (fun _ h => by cases h) (by kernel_rfl) (fun _ h => by cases h) rawCase_row_tie rfl ⟨rfl, rfl⟩ (by kernel_rfl) rfl plain (by kernel_rfl)
end Go.Proofs.YtameddkmbfcnoaaDoor.rawCase
