/-
  The law NumberTold of flail/flaillaw04 answers true for every input, and changes nothing that was there. Condition, which the card ties to the program's text: when the call begins, the package variable that the row lists holds what that text lays in it (flail/number.others).
-/
import Derived.Test.YtionbaedddnggaaDoorRows
import Derived.Test.YtionbaedddnggaaDoorNumDec
import Derived.Test.YtionbaedddnggaaDoorCards
import Derived.Test.YtionbaedddnggaaDoorNumLaid
import Derived.WalkKit
import Derived.ProofKit
import Derived.ChangeOld
import Derived.Below
import Derived.OpenShut
import Derived.ShutString
namespace Go.Proofs.YtionbaedddnggaaDoor.numberTold
open Go.ChangeShapes Go.WideShapes Go.ChangeAt Go.RowKit
open Go.ChangeMaps (open_string shut_string)
set_option linter.unusedVariables false      -- a walk need not use every 'w<i>' (that an integer argument fits its kind)

theorem own : ownKnob Tryd.prog.godebug = none := by kernel_rfl

set_option maxRecDepth 100000 in
set_option maxHeartbeats 1000000 in
theorem walk (a0 : Int) (a1 : Bool) (w0 : (Lit.int .u32 a0).wf = true) (w : World) (hT : TabAt w) :
    Calls Tryd.prog 6 #[.int .u32 a0, .bool a1] w fun e w' => e = .returned (.bool true) ∧ Below w.heap.size w w' := by
  have hb0 : 0 ≤ a0 ∧ a0 ≤ 4294967295 := by simpa [Lit.wf, IntKind.min, IntKind.max, IntKind.signed, IntKind.bits] using w0
  obtain ⟨h0, h1⟩ := hb0
  clear w0
  have hx0 : 0 ≤ a0 % 1114112 := Int.emod_nonneg _ (by decide)
  have hx1 : a0 % 1114112 < 1114112 := Int.emod_lt_of_pos _ (by decide)
  obtain ⟨x, hx⟩ : ∃ x : Nat, a0 % 1114112 = (x : Int) := ⟨(a0 % 1114112).toNat, by omega⟩
  have hxl : x < 1114112 := by omega
  have HX := Lib.hid hx
  clear hx
  obtain ⟨d1, d2, d3, d4⟩ := decL_dig x x (Nat.le_refl _)
  have hv : valD 10 (decL x) = x := by rw [d4]; unfold capN; rw [if_neg (by omega)]
  have hz := decS_size x
  obtain ⟨D, hD⟩ : ∃ D, decS x = D := ⟨_, rfl⟩
  rw [hD] at hz
  have HD := Lib.hid hD
  have hDl : D.data.toList = decL x := by rw [← hD]; rfl
  have hz2 : D.size ≤ 1114112 := by omega
  have z35 : (ByteArray.mk #[35]).size = 1 := rfl
  have z59 : (ByteArray.mk #[59]).size = 1 := rfl
  have z60 : (ByteArray.mk #[60]).size = 1 := rfl
  cases a1
  · obtain ⟨r1, r2, r3⟩ := ref_ten (decL x) [60] d1 d2 (.inr ⟨_, _, rfl, dig_59.2.2⟩)
    have hl : (⟨#[35]⟩ ++ D ++ ⟨#[60]⟩ : ByteArray).data.toList = 35 :: (decL x ++ [60]) := by
      simp only [ByteArray.data_append, Array.toList_append, hDl]; simp
    rw [← hl, hv] at r1
    rw [← hl, show ([60] : List UInt8).getD 0 0 = 60 from rfl, if_neg (by decide), ← hz] at r2
    rw [← hl] at r3
    have R1 := Lib.hid r1
    have R2 := Lib.hid r2
    have R3 := Lib.hid r3
    have hS : (⟨#[35]⟩ ++ D ++ ⟨#[60]⟩ : ByteArray).size ≤ 1099511627776 := by simp only [ByteArray.size_append, z35, z60]; omega
    have HS := Lib.hid hS
    clear hl hS r1 r2 r3 d1 d2 d3 d4 hv hz hD hDl
    have F1 : Hid (x ≠ 0 → ¬ (128 ≤ x ∧ x ≤ 159) → fixS (x : Int) = ⟨(Lib.encodeRune (x : Int)).toArray⟩) := Lib.hid (fun h1 h2 => by unfold fixS fixN; rw [if_neg (by omega), if_neg (by omega)])
    go_enter Tryd.func6, Tryd.ntmps6
    go_wp2_with (fail)
    refine (awake_any w hT).mono ?_
    rintro e w1 ⟨rfl, n1, rfl⟩
    go_wp2_with (fail)
    rw [HX.out]
    clear hx0 hx1
    refine (decimal x x _ (Nat.le_refl _) (by omega)).mono ?_
    rintro e w1 ⟨rfl, hb1⟩
    rw [HD.out]
    go_wp2_with (fail)
    refine (read _ 0 _ HS.out (by decide) (by decide) ((hT.drawn _).below hb1)).mono ?_
    rintro e w2 ⟨rfl, n2, rfl⟩
    rw [R1.out, R2.out, R3.out]
    by_cases x0 : x = 0
    · have x0i : (x : Int) = 0 := by omega
      clear x0
      go_wp2
      go_ret
      exact ⟨ret_bool (by simp; try omega), ((below_drewN4 _ w n1).trans hb1).trans (below_drewN4 _ _ _)⟩
    · have x0i : ((x : Int) == 0) = false := beq_eq_false_iff_ne.2 (by omega)
      by_cases x1 : 128 ≤ x
      · have x1i : (128 : Int) ≤ (x : Int) := by omega
        by_cases x2 : x ≤ 159
        · have x2i : (x : Int) ≤ 159 := by omega
          clear x0
          go_wp2
          go_ret
          exact ⟨ret_bool (by simp; try omega), ((below_drewN4 _ w n1).trans hb1).trans (below_drewN4 _ _ _)⟩
        · have x2i : (159 : Int) < (x : Int) := by omega
          have FF := Lib.hid (F1.out x0 (by omega))
          clear x0
          go_wp2_with (fail)
          refine (refSgn_any _ _).mono ?_
          rintro e w3 ⟨rfl, hb3⟩
          rw [← FF.out]
          go_wp2
          go_ret
          exact ⟨ret_bool (by simp; try omega), (((below_drewN4 _ w n1).trans hb1).trans (below_drewN4 _ _ _)).trans (hb3.mono hb1.size)⟩
      · have x1i : (x : Int) < 128 := by omega
        have FF := Lib.hid (F1.out x0 (by omega))
        clear x0
        go_wp2_with (fail)
        refine (refSgn_any _ _).mono ?_
        rintro e w3 ⟨rfl, hb3⟩
        rw [← FF.out]
        go_wp2
        go_ret
        exact ⟨ret_bool (by simp; try omega), (((below_drewN4 _ w n1).trans hb1).trans (below_drewN4 _ _ _)).trans (hb3.mono hb1.size)⟩
  · obtain ⟨r1, r2, r3⟩ := ref_ten (decL x) [59, 60] d1 d2 (.inr ⟨_, _, rfl, dig_59.1⟩)
    have hl : (⟨#[35]⟩ ++ D ++ ⟨#[59]⟩ ++ ⟨#[60]⟩ : ByteArray).data.toList = 35 :: (decL x ++ [59, 60]) := by
      simp only [ByteArray.data_append, Array.toList_append, hDl]; simp
    rw [← hl, hv] at r1
    rw [← hl, show ([59, 60] : List UInt8).getD 0 0 = 59 from rfl, if_pos rfl, ← hz] at r2
    rw [← hl] at r3
    have R1 := Lib.hid r1
    have R2 := Lib.hid r2
    have R3 := Lib.hid r3
    have hS : (⟨#[35]⟩ ++ D ++ ⟨#[59]⟩ ++ ⟨#[60]⟩ : ByteArray).size ≤ 1099511627776 := by simp only [ByteArray.size_append, z35, z59, z60]; omega
    have HS := Lib.hid hS
    clear hl hS r1 r2 r3 d1 d2 d3 d4 hv hz hD hDl
    have F1 : Hid (x ≠ 0 → ¬ (128 ≤ x ∧ x ≤ 159) → fixS (x : Int) = ⟨(Lib.encodeRune (x : Int)).toArray⟩) := Lib.hid (fun h1 h2 => by unfold fixS fixN; rw [if_neg (by omega), if_neg (by omega)])
    go_enter Tryd.func6, Tryd.ntmps6
    go_wp2_with (fail)
    refine (awake_any w hT).mono ?_
    rintro e w1 ⟨rfl, n1, rfl⟩
    go_wp2_with (fail)
    rw [HX.out]
    clear hx0 hx1
    refine (decimal x x _ (Nat.le_refl _) (by omega)).mono ?_
    rintro e w1 ⟨rfl, hb1⟩
    rw [HD.out]
    go_wp2_with (fail)
    refine (read _ 0 _ HS.out (by decide) (by decide) ((hT.drawn _).below hb1)).mono ?_
    rintro e w2 ⟨rfl, n2, rfl⟩
    rw [R1.out, R2.out, R3.out]
    by_cases x0 : x = 0
    · have x0i : (x : Int) = 0 := by omega
      clear x0
      go_wp2
      go_ret
      exact ⟨ret_bool (by simp; try omega), ((below_drewN4 _ w n1).trans hb1).trans (below_drewN4 _ _ _)⟩
    · have x0i : ((x : Int) == 0) = false := beq_eq_false_iff_ne.2 (by omega)
      by_cases x1 : 128 ≤ x
      · have x1i : (128 : Int) ≤ (x : Int) := by omega
        by_cases x2 : x ≤ 159
        · have x2i : (x : Int) ≤ 159 := by omega
          clear x0
          go_wp2
          go_ret
          exact ⟨ret_bool (by simp; try omega), ((below_drewN4 _ w n1).trans hb1).trans (below_drewN4 _ _ _)⟩
        · have x2i : (159 : Int) < (x : Int) := by omega
          have FF := Lib.hid (F1.out x0 (by omega))
          clear x0
          go_wp2_with (fail)
          refine (refSgn_any _ _).mono ?_
          rintro e w3 ⟨rfl, hb3⟩
          rw [← FF.out]
          go_wp2
          go_ret
          exact ⟨ret_bool (by simp; try omega), (((below_drewN4 _ w n1).trans hb1).trans (below_drewN4 _ _ _)).trans (hb3.mono hb1.size)⟩
      · have x1i : (x : Int) < 128 := by omega
        have FF := Lib.hid (F1.out x0 (by omega))
        clear x0
        go_wp2_with (fail)
        refine (refSgn_any _ _).mono ?_
        rintro e w3 ⟨rfl, hb3⟩
        rw [← FF.out]
        go_wp2
        go_ret
        exact ⟨ret_bool (by simp; try omega), (((below_drewN4 _ w n1).trans hb1).trans (below_drewN4 _ _ _)).trans (hb3.mono hb1.size)⟩
  -- go_wp2
  -- go_ret
  -- exact ⟨rfl, by repeat (first | exact Grown.refl _ | apply Grown.drew | apply Grown.alloc)⟩

theorem laid_met (os : Os) : laidMet Tryd.prog Rows.numberToldRow.laid ((laidWorld os).forCall (fun _ _ => 0) ⟨#[], #[.int .u32 0, .bool false], []⟩).memory :=
  laidMet_of_run' 8 (by kernel_rfl) (by kernel_rfl)
theorem reads (os : Os) {H : Type} (enc : TypeId × Value → H) : ∃ places, DataW.whole enc Tryd.prog ((laidWorld os).forCall (fun _ _ => 0) ⟨#[], #[.int .u32 0, .bool false], []⟩).memory Tryd.f6.params.toList Rows.numberToldSpec.vars false (#[.int .u32 0, .bool false] : Array Value).toList 8 = some ([.lit (.int .u32 0), .lit (.bool false)], [], places) :=
  ⟨[], by kernel_rfl⟩
set_option maxRecDepth 100000 in
theorem lifted (os : Os) (started : os.Started) (H : Type) (enc : TypeId × Value → H) (F : Stop.Interp) :
    ReturnsInHanded {} Tryd.checked os 6 .any ((OpenSpec.ofChange Rows.numberToldSpec).preRow enc Tryd.prog Tryd.f6 Rows.numberToldRow.domain false Rows.numberToldRow.laid) (((OpenSpec.ofChange Rows.numberToldSpec).at F).post enc Tryd.prog Tryd.f6 false true false false) := by
  obtain ⟨places, hx⟩ := reads os enc
  refine returnsInHanded_of_row (C := Tryd.checked) (s := OpenSpec.ofChange Rows.numberToldSpec) own started (by kernel_rfl) Tryd.func6
    (witness_row_at (enc := enc) (C := Tryd.checked) false (laidWorld os) #[.int .u32 0, .bool false] rfl (by kernel_rfl) (by kernel_rfl) (by kernel_rfl)
      (OpenSpec.preRow_of_cond 8 hx (by kernel_rfl) (fun k hk => by cases hk) (by kernel_rfl) (laid_met os))) ?_
  intro W base args ds gs before hval0 hW _ _ _ hL _ _
  have hval : ∀ (j : Nat) t v, Tryd.f6.params[j]? = some t → args[j]? = some v → Value.okWide Tryd.prog W .any base t v := hval0
  have hW' := hW
  obtain ⟨p, q, hA0, hV, rfl, hfz, hnd⟩ := hW
  have hA : DataW.TrodAll enc Tryd.prog W 0 (fun _ => true) true Tryd.f6.params.toList args.toList ds p := hA0
  rw [Tryd.params6] at hA hval
  obtain ⟨v0, vs0, d0, ds0, p0, q0, hargs, rfl, rfl, h0, r0⟩ := trodAll_cons hA
  obtain ⟨v1, vs1, d1, ds1, p1, q1, rfl, rfl, rfl, h1, r1⟩ := trodAll_cons r0
  obtain ⟨rfl, rfl, rfl⟩ := trodAll_nil r1
  obtain rfl : args = #[v0, v1] := by cases args; simp_all
  obtain ⟨rfl, rfl⟩ := trodVars_none hV
  obtain ⟨a0, rfl, rfl, rfl, w0⟩ := open_int Tryd.underlying31 (hval 0 31 v0 rfl rfl) h0
  obtain ⟨a1, rfl, rfl, rfl⟩ := open_bool Tryd.underlying4 (hval 1 4 v1 rfl rfl) h1
  clear hA0 hval0
  refine (walk a0 a1 w0 W (tabAt_of hL)).mono fun e W' ⟨he, bel⟩ => ?_
  subst he
  exact ⟨_, rfl, _, _, _, [], _, [], hW', trodAll_mk1 (shut_bool Tryd.underlying4 _), (trodAll_cons_mk (shut_int Tryd.underlying31 w0) (trodAll_cons_mk (shut_bool Tryd.underlying4 _) trodAll_mk0)), rfl, bel.frame _, fun h => by cases h⟩

theorem said : Rows.NumberToldSaid :=
  OpenClaim.holds_of_cond 6 Tryd.f6 rfl rfl rfl rfl rfl rfl rfl ⟨rfl, rfl, rfl, rfl, rfl⟩ rfl rfl rfl rfl rfl (by kernel_rfl) Tryd.func6 (by kernel_rfl)
    (of_decide_eq_true (by kernel_rfl)) (by unfold Func.isWrapper; first | (rw [if_pos (by decide +kernel)]; kernel_rfl) | (rw [if_neg (by decide +kernel)]; exact ⟨rfl, rfl⟩))
    (fun os started H enc _ F => by rw [OpenClaim.pre_eq_preRow]; exact lifted os started H enc F)
theorem plain (f : FuncId) (fn : Func) (hf : Tryd.pinned.checked.prog.funcNamed "flail/flaillaw04.NumberTold" = some f) (hfn : Tryd.pinned.checked.prog.funcs[f]? = some fn) :
    false = Tryd.pinned.checked.prog.looks [] ∧ ∀ (j : Nat) t, fn.params[j]? = some t → Tryd.pinned.checked.prog.wantsStandIn t = false := by
  obtain rfl : f = 6 := Option.some.inj ((show Tryd.prog.funcNamed "flail/flaillaw04.NumberTold" = some 6 by kernel_rfl).symm.trans hf) |>.symm
  obtain rfl : fn = Tryd.f6 := (Option.some.inj (Tryd.func6.symm.trans hfn)).symm
  refine ⟨by kernel_rfl, fun j t ht => ?_⟩
  rw [Tryd.params6] at ht
  have hm : t ∈ [31, 4] := by simpa using Array.mem_of_getElem? ht
  have hall : ([31, 4].all fun u => !Tryd.prog.wantsStandIn u) = true := by kernel_rfl
  exact (show Tryd.prog.wantsStandIn t = false by simpa using List.all_eq_true.1 hall t hm)
/-- the statement: the row's card -/
theorem proved : Rows.NumberToldCardSaid :=
  Claim7.holds_tied_plain_at .later [] _ _ _ _ said (fun _ h => by cases h) (by kernel_rfl) (fun _ h => by cases h) numberTold_row_tie rfl ⟨rfl, rfl⟩ (by kernel_rfl) rfl plain (by kernel_rfl)
end Go.Proofs.YtionbaedddnggaaDoor.numberTold
