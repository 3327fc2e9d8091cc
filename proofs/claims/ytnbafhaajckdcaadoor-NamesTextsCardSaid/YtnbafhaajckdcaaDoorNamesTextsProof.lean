/-
  The law NamesTexts of flail/flaillaw06 answers true for every input, and changes nothing that was there. Condition, which the card ties to the program's text: when the call begins, the package variables that the row lists hold what that text lays in them (math/bits.deBruijn32tab, math/bits.deBruijn64tab, internal/strconv.uint64pow10, strconv.ErrRange, strconv.ErrSyntax).
-/
import Derived.Test.YtnbafhaajckdcaaDoorRows
import Derived.Test.YtnbafhaajckdcaaDoorNamAwake
import Derived.Test.YtnbafhaajckdcaaDoorCards
import Derived.Test.YtnbafhaajckdcaaDoorNamLaid
import Derived.WalkKit
import Derived.ProofKit
import Derived.ChangeOld
import Derived.Below
import Derived.OpenShut
import Derived.ShutString
namespace Go.Proofs.YtnbafhaajckdcaaDoor.namesTexts
open Go.ChangeShapes Go.WideShapes Go.ChangeAt Go.RowKit
open Go.ChangeMaps (open_string shut_string)
set_option linter.unusedVariables false      -- a walk need not use every 'w<i>' (that an integer argument fits its kind)

theorem own : ownKnob Tryd.prog.godebug = none := by kernel_rfl

set_option maxRecDepth 100000 in
set_option maxHeartbeats 1000000 in
theorem walk (a0 : Int) (a1 : Int) (w0 : (Lit.int .u32 a0).wf = true) (w1 : (Lit.int .u32 a1).wf = true) (w : World) (hT : TabAt w) :
    Calls Tryd.prog 6 #[.int .u32 a0, .int .u32 a1] w fun e w' => e = .returned (.bool true) ∧ Below w.heap.size w w' := by
  have hb0 : 0 ≤ a0 ∧ a0 ≤ 4294967295 := by simpa [Lit.wf, IntKind.min, IntKind.max, IntKind.signed, IntKind.bits] using w0
  have hb1 : 0 ≤ a1 ∧ a1 ≤ 4294967295 := by simpa [Lit.wf, IntKind.min, IntKind.max, IntKind.signed, IntKind.bits] using w1
  clear w0 w1
  obtain ⟨x, hx⟩ : ∃ x : Nat, a0 % 1114112 = (x : Int) := ⟨(a0 % 1114112).toNat, by omega⟩
  obtain ⟨y, hy⟩ : ∃ y : Nat, a1 % 1114112 = (y : Int) := ⟨(a1 % 1114112).toNat, by omega⟩
  have hx2 : x < 1114112 := by omega
  have hy2 : y < 1114112 := by omega
  have HT := fun w => Lib.hid (text_any x y w (by omega) (by omega))
  have HX := fun w => Lib.hid (refSgn_any (x : Int) w)
  have HY := fun w => Lib.hid (refSgn_any (y : Int) w)
  obtain ⟨A, hA⟩ : ∃ A : ByteArray, ⟨(Lib.encodeRune (x : Int)).toArray⟩ = A := ⟨_, rfl⟩
  obtain ⟨B, hB⟩ : ∃ B : ByteArray, ⟨(Lib.encodeRune (y : Int)).toArray⟩ = B := ⟨_, rfl⟩
  rw [hA] at HX
  rw [hB] at HY
  have hAs : A.size < 8 := by rw [← hA, Lib.size_eq, List.toList_toArray]; have := enc_len (x : Int); omega
  have hBs : B.size < 8 := by rw [← hB, Lib.size_eq, List.toList_toArray]; have := enc_len (y : Int); omega
  have hAB : ¬ 9223372036854775807 < A.size + B.size := by omega
  have hR : (⟨(textL x y).toArray⟩ : ByteArray) = if y = 0 then A else A ++ B := by
    rw [← hA, ← hB]
    by_cases h : y = 0
    · rw [if_pos h]; congr 1; unfold textL; rw [if_pos h, List.append_nil]
    · rw [if_neg h]; refine str_ext ?_; unfold textL; rw [if_neg h, ByteArray.data_append, Array.toList_append]
  rw [hR] at HT
  have fx := fl_of x
  have fy := fl_of y
  obtain ⟨F, hF⟩ : ∃ F, fl x = F := ⟨_, rfl⟩
  obtain ⟨G, hG⟩ : ∃ G, fl y = G := ⟨_, rfl⟩
  rw [hF] at HT fx
  rw [hG] at HT fy
  obtain ⟨X, hX⟩ : ∃ X : Int, (x : Int) = X := ⟨_, rfl⟩
  obtain ⟨Y, hY⟩ : ∃ Y : Int, (y : Int) = Y := ⟨_, rfl⟩
  rw [hX] at hx HX fx
  rw [hY] at hy HY fy
  have X0 : 0 ≤ X ∧ X < 1114112 := by omega
  have Y0 : 0 ≤ Y ∧ Y < 1114112 := by omega
  have HW := Lib.hid hT
  by_cases h : y = 0
  · rw [if_pos h] at HT
    have b2 : (Y != 0) = false := by simp; omega
    clear hA hB hR hF hG hX hY h hx2 hy2 hT HY hBs hAB
    go_enter Tryd.func6, Tryd.ntmps6
    go_wp2_with (fail)
    refine (nmAwake_any w HW.out).mono ?_
    rintro e w1 ⟨rfl, c1⟩
    go_wp2_with (fail)
    refine (HX _).out.mono ?_
    rintro e w2 ⟨rfl, c2⟩
    have c3 := c1.trans (c2.mono c1.size)
    go_wp2_with (fail)
    refine (HT _).out.mono ?_
    rintro e w3 ⟨rfl, rfl⟩
    go_wp2
    go_ret
    exact ⟨ret_bool (by simp), c3⟩
  · rw [if_neg h] at HT
    have b2 : (Y != 0) = true := by simp; omega
    clear hA hB hR hF hG hX hY h hx2 hy2 hT
    go_enter Tryd.func6, Tryd.ntmps6
    go_wp2_with (fail)
    refine (nmAwake_any w HW.out).mono ?_
    rintro e w1 ⟨rfl, c1⟩
    go_wp2_with (fail)
    refine (HX _).out.mono ?_
    rintro e w2 ⟨rfl, c2⟩
    have c3 := c1.trans (c2.mono c1.size)
    go_wp2_with (fail)
    refine (HY _).out.mono ?_
    rintro e w3 ⟨rfl, c4⟩
    have c5 := c3.trans (c4.mono c3.size)
    go_wp2_with (fail)
    refine (HT _).out.mono ?_
    rintro e w3 ⟨rfl, rfl⟩
    go_wp2
    go_ret
    exact ⟨ret_bool (by simp), c5⟩
  -- go_wp2
  -- go_ret
  -- exact ⟨rfl, by repeat (first | exact Grown.refl _ | apply Grown.drew | apply Grown.alloc)⟩

theorem laid_met (os : Os) : laidMet Tryd.prog Rows.namesTextsRow.laid ((laidWorld os).forCall (fun _ _ => 0) ⟨#[], #[.int .u32 0, .int .u32 0], []⟩).memory :=
  laidMet_of_run' 8 (by kernel_rfl) (by kernel_rfl)
theorem reads (os : Os) {H : Type} (enc : TypeId × Value → H) : ∃ places, DataW.whole enc Tryd.prog ((laidWorld os).forCall (fun _ _ => 0) ⟨#[], #[.int .u32 0, .int .u32 0], []⟩).memory Tryd.f6.params.toList Rows.namesTextsSpec.vars false (#[.int .u32 0, .int .u32 0] : Array Value).toList 8 = some ([.lit (.int .u32 0), .lit (.int .u32 0)], [], places) :=
  ⟨[], by kernel_rfl⟩
set_option maxRecDepth 100000 in
theorem lifted (os : Os) (started : os.Started) (H : Type) (enc : TypeId × Value → H) (F : Stop.Interp) :
    ReturnsInHanded {} Tryd.checked os 6 .any ((OpenSpec.ofChange Rows.namesTextsSpec).preRow enc Tryd.prog Tryd.f6 Rows.namesTextsRow.domain false Rows.namesTextsRow.laid) (((OpenSpec.ofChange Rows.namesTextsSpec).at F).post enc Tryd.prog Tryd.f6 false true false false) := by
  obtain ⟨places, hx⟩ := reads os enc
  refine returnsInHanded_of_row (C := Tryd.checked) (s := OpenSpec.ofChange Rows.namesTextsSpec) own started (by kernel_rfl) Tryd.func6
    (witness_row_at (enc := enc) (C := Tryd.checked) false (laidWorld os) #[.int .u32 0, .int .u32 0] rfl (by kernel_rfl) (by kernel_rfl) (by kernel_rfl)
      (OpenSpec.preRow_of_cond 8 hx (by kernel_rfl) (fun k hk => by cases hk) (by kernel_rfl) (laid_met os))) ?_
  intro W base args ds gs before hval0 hW _ _ _ hL _ _
  have hval : ∀ (j : Nat) t v, Tryd.f6.params[j]? = some t → args[j]? = some v → Value.okWide Tryd.prog W .any base t v := hval0
  have hW' := hW
  obtain ⟨p, q, hA0, hV, rfl, hfz, hnd⟩ := hW
  have hA : DataW.TrodAll enc Tryd.prog W 0 (fun _ => true) true Tryd.f6.params.toList args.toList ds p := hA0
  rw [Tryd.params6] at hA hval
  obtain ⟨v0, vs0, d0, ds0, p0, q0, hargs, rfl, rfl, h0, r0⟩ := trodAll_cons hA
  obtain ⟨v1, vs1, d1, ds1, p1, q1, rfl, rfl, rfl, h1, r1⟩ := trodAll_cons r0
  obtain ⟨rfl, rfl, rfl⟩ := trodAll_nil r1
  obtain rfl : args = #[v0, v1] := by cases args; simp_all
  obtain ⟨rfl, rfl⟩ := trodVars_none hV
  obtain ⟨a0, rfl, rfl, rfl, w0⟩ := open_int Tryd.underlying37 (hval 0 37 v0 rfl rfl) h0
  obtain ⟨a1, rfl, rfl, rfl, w1⟩ := open_int Tryd.underlying37 (hval 1 37 v1 rfl rfl) h1
  clear hA0 hval0
  refine (walk a0 a1 w0 w1 W (tabAt_of hL)).mono fun e W' ⟨he, bel⟩ => ?_
  subst he
  exact ⟨_, rfl, _, _, _, [], _, [], hW', trodAll_mk1 (shut_bool Tryd.underlying4 _), (trodAll_cons_mk (shut_int Tryd.underlying37 w0) (trodAll_cons_mk (shut_int Tryd.underlying37 w1) trodAll_mk0)), rfl, bel.frame _, fun h => by cases h⟩

theorem said : Rows.NamesTextsSaid :=
  OpenClaim.holds_of_cond 6 Tryd.f6 rfl rfl rfl rfl rfl rfl rfl ⟨rfl, rfl, rfl, rfl, rfl⟩ rfl rfl rfl rfl rfl (by kernel_rfl) Tryd.func6 (by kernel_rfl)
    (of_decide_eq_true (by kernel_rfl)) (by unfold Func.isWrapper; first | (rw [if_pos (by decide +kernel)]; kernel_rfl) | (rw [if_neg (by decide +kernel)]; exact ⟨rfl, rfl⟩))
    (fun os started H enc _ F => by rw [OpenClaim.pre_eq_preRow]; exact lifted os started H enc F)
theorem plain (f : FuncId) (fn : Func) (hf : Tryd.pinned.checked.prog.funcNamed "flail/flaillaw06.NamesTexts" = some f) (hfn : Tryd.pinned.checked.prog.funcs[f]? = some fn) :
    true = Tryd.pinned.checked.prog.looks [] ∧ ∀ (j : Nat) t, fn.params[j]? = some t → Tryd.pinned.checked.prog.wantsStandIn t = false := by
  obtain rfl : f = 6 := Option.some.inj ((show Tryd.prog.funcNamed "flail/flaillaw06.NamesTexts" = some 6 by kernel_rfl).symm.trans hf) |>.symm
  obtain rfl : fn = Tryd.f6 := (Option.some.inj (Tryd.func6.symm.trans hfn)).symm
  refine ⟨by kernel_rfl, fun j t ht => ?_⟩
  rw [Tryd.params6] at ht
  have hm : t ∈ [37] := by simpa using Array.mem_of_getElem? ht
  have hall : ([37].all fun u => !Tryd.prog.wantsStandIn u) = true := by kernel_rfl
  exact (show Tryd.prog.wantsStandIn t = false by simpa using List.all_eq_true.1 hall t hm)
/-- the statement: the row's card -/
theorem proved : Rows.NamesTextsCardSaid :=
  Claim7.holds_tied_plain_at .later [] _ _ _ _ said (fun _ h => by cases h) (by kernel_rfl) (fun _ h => by cases h) namesTexts_row_tie rfl ⟨rfl, rfl⟩ (by kernel_rfl) rfl plain (by kernel_rfl)
end Go.Proofs.YtnbafhaajckdcaaDoor.namesTexts
