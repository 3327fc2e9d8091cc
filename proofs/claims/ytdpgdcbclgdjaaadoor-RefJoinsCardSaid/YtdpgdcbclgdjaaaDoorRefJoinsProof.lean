/-
  The law RefJoins of flail/flaillaw07 answers true for every input, and changes nothing that was there. Condition, which the card ties to the program's text: when the call begins, the package variables that the row lists hold what that text lays in them (math/bits.deBruijn32tab, math/bits.deBruijn64tab, internal/strconv.uint64pow10, strconv.ErrRange, strconv.ErrSyntax, flail/number.others).
-/
import Derived.Test.YtdpgdcbclgdjaaaDoorRows
import Derived.Test.YtdpgdcbclgdjaaaDoorRefLaws
import Derived.Test.YtdpgdcbclgdjaaaDoorCards
import Derived.Test.YtdpgdcbclgdjaaaDoorRefLaid
import Derived.WalkKit
import Derived.ProofKit
import Derived.ChangeOld
import Derived.Below
import Derived.OpenShut
import Derived.ShutString
namespace Go.Proofs.YtdpgdcbclgdjaaaDoor.refJoins
open Go.ChangeShapes Go.WideShapes Go.ChangeAt Go.RowKit
open Go.ChangeMaps (open_string shut_string)
set_option linter.unusedVariables false      -- a walk need not use every 'w<i>' (that an integer argument fits its kind)

theorem own : ownKnob Tryd.prog.godebug = none := by kernel_rfl

set_option maxRecDepth 100000 in
set_option maxHeartbeats 1000000 in
theorem walk (a0 : ByteArray) (a1 : ByteArray) (a2 : Bool) (w0 : a0.size ≤ maxLen) (w1 : a1.size ≤ maxLen) (w : World) (hT : LaidAt w) :
    Calls Tryd.prog 6 #[.string a0, .string a1, .bool a2] w fun e w' => e = .returned (.bool true) ∧ Below w.heap.size w w' := by
  clear w0 w1
  have HW := Lib.hid hT
  clear hT
  by_cases h0 : 300 < a0.size
  · have d0 : decide ((300 : Int) < (a0.size : Int)) = true := decide_eq_true (by omega)
    go_enter Tryd.func6, Tryd.ntmps6
    go_wp2_with (fail)
    refine (awakeL w HW.out).mono ?_
    rintro e w1 ⟨rfl, c1⟩
    go_wp2
    go_ret
    exact ⟨rfl, c1⟩
  have d0 : decide ((300 : Int) < (a0.size : Int)) = false := decide_eq_false (by omega)
  by_cases h1 : 300 < a1.size
  · have d1 : decide ((300 : Int) < (a1.size : Int)) = true := decide_eq_true (by omega)
    go_enter Tryd.func6, Tryd.ntmps6
    go_wp2_with (fail)
    refine (awakeL w HW.out).mono ?_
    rintro e w1 ⟨rfl, c1⟩
    go_wp2
    go_ret
    exact ⟨rfl, c1⟩
  have d1 : decide ((300 : Int) < (a1.size : Int)) = false := decide_eq_false (by omega)
  have one : (ByteArray.mk #[32]).size = 1 := rfl
  have HA := fun w h => Lib.hid (decL_s (a0 ++ ⟨#[32]⟩ ++ a1) a2 w (by rw [ByteArray.size_append, ByteArray.size_append, one]; omega) h)
  have HB := fun w h => Lib.hid (decL_s a0 a2 w (by omega) h)
  have HC := fun w h => Lib.hid (decL_s a1 a2 w (by omega) h)
  rw [ddS_join] at HA
  have s0 := ddS_size a2 a0
  have s1 := ddS_size a2 a1
  obtain ⟨X, hX⟩ : ∃ X, ddS a2 a0 = X := ⟨_, rfl⟩
  obtain ⟨Y, hY⟩ : ∃ Y, ddS a2 a1 = Y := ⟨_, rfl⟩
  rw [hX] at HA HB s0
  rw [hY] at HA HC s1
  have g1 : a0.size + 1 + a1.size ≤ 601 := by omega
  have g2 : X.size + 1 + Y.size ≤ 1801 := by omega
  clear hX hY one
  go_enter Tryd.func6, Tryd.ntmps6
  go_wp2_with (fail)
  refine (awakeL w HW.out).mono ?_
  rintro e w1 ⟨rfl, c1⟩
  go_wp2_with (fail)
  refine (HA _ (HW.out.below c1)).out.mono ?_
  rintro e w2 ⟨rfl, b2⟩
  have c2 := c1.trans (b2.mono c1.size)
  go_wp2_with (fail)
  refine (HB _ (HW.out.below c2)).out.mono ?_
  rintro e w3 ⟨rfl, b3⟩
  have c3 := c2.trans (b3.mono c2.size)
  go_wp2_with (fail)
  refine (HC _ (HW.out.below c3)).out.mono ?_
  rintro e w4 ⟨rfl, b4⟩
  have c4 := c3.trans (b4.mono c3.size)
  go_wp2
  go_ret
  exact ⟨ret_bool (by simp), c4⟩
  -- go_wp2
  -- go_ret
  -- exact ⟨rfl, by repeat (first | exact Grown.refl _ | apply Grown.drew | apply Grown.alloc)⟩

theorem laid_met (os : Os) : laidMet Tryd.prog Rows.refJoinsRow.laid ((laidWorld os).forCall (fun _ _ => 0) ⟨#[], #[.string ByteArray.empty, .string ByteArray.empty, .bool false], []⟩).memory :=
  laidMet_of_run' 8 (by kernel_rfl) (by kernel_rfl)
theorem reads (os : Os) {H : Type} (enc : TypeId × Value → H) : ∃ places, DataW.whole enc Tryd.prog ((laidWorld os).forCall (fun _ _ => 0) ⟨#[], #[.string ByteArray.empty, .string ByteArray.empty, .bool false], []⟩).memory Tryd.f6.params.toList Rows.refJoinsSpec.vars false (#[.string ByteArray.empty, .string ByteArray.empty, .bool false] : Array Value).toList 8 = some ([.lit (.string []), .lit (.string []), .lit (.bool false)], [], places) :=
  ⟨[], by kernel_rfl⟩
set_option maxRecDepth 100000 in
theorem lifted (os : Os) (started : os.Started) (H : Type) (enc : TypeId × Value → H) (F : Stop.Interp) :
    ReturnsInHanded {} Tryd.checked os 6 .any ((OpenSpec.ofChange Rows.refJoinsSpec).preRow enc Tryd.prog Tryd.f6 Rows.refJoinsRow.domain false Rows.refJoinsRow.laid) (((OpenSpec.ofChange Rows.refJoinsSpec).at F).post enc Tryd.prog Tryd.f6 false true false false) := by
  obtain ⟨places, hx⟩ := reads os enc
  refine returnsInHanded_of_row (C := Tryd.checked) (s := OpenSpec.ofChange Rows.refJoinsSpec) own started (by kernel_rfl) Tryd.func6
    (witness_row_at (enc := enc) (C := Tryd.checked) false (laidWorld os) #[.string ByteArray.empty, .string ByteArray.empty, .bool false] rfl (by kernel_rfl) (by kernel_rfl) (by kernel_rfl)
      (OpenSpec.preRow_of_cond 8 hx (by kernel_rfl) (fun k hk => by cases hk) (by kernel_rfl) (laid_met os))) ?_
  intro W base args ds gs before hval0 hW _ _ _ hL _ _
  have hval : ∀ (j : Nat) t v, Tryd.f6.params[j]? = some t → args[j]? = some v → Value.okWide Tryd.prog W .any base t v := hval0
  have hW' := hW
  obtain ⟨p, q, hA0, hV, rfl, hfz, hnd⟩ := hW
  have hA : DataW.TrodAll enc Tryd.prog W 0 (fun _ => true) true Tryd.f6.params.toList args.toList ds p := hA0
  rw [Tryd.params6] at hA hval
  obtain ⟨v0, vs0, d0, ds0, p0, q0, hargs, rfl, rfl, h0, r0⟩ := trodAll_cons hA
  obtain ⟨v1, vs1, d1, ds1, p1, q1, rfl, rfl, rfl, h1, r1⟩ := trodAll_cons r0
  obtain ⟨v2, vs2, d2, ds2, p2, q2, rfl, rfl, rfl, h2, r2⟩ := trodAll_cons r1
  obtain ⟨rfl, rfl, rfl⟩ := trodAll_nil r2
  obtain rfl : args = #[v0, v1, v2] := by cases args; simp_all
  obtain ⟨rfl, rfl⟩ := trodVars_none hV
  obtain ⟨a0, rfl, rfl, rfl, w0⟩ := open_string Tryd.underlying9 (hval 0 9 v0 rfl rfl) h0
  obtain ⟨a1, rfl, rfl, rfl, w1⟩ := open_string Tryd.underlying9 (hval 1 9 v1 rfl rfl) h1
  obtain ⟨a2, rfl, rfl, rfl⟩ := open_bool Tryd.underlying4 (hval 2 4 v2 rfl rfl) h2
  clear hA0 hval0
  refine (walk a0 a1 a2 w0 w1 W (tabAt_of hL)).mono fun e W' ⟨he, bel⟩ => ?_
  subst he
  exact ⟨_, rfl, _, _, _, [], _, [], hW', trodAll_mk1 (shut_bool Tryd.underlying4 _), (trodAll_cons_mk (shut_string Tryd.underlying9 w0) (trodAll_cons_mk (shut_string Tryd.underlying9 w1) (trodAll_cons_mk (shut_bool Tryd.underlying4 _) trodAll_mk0))), rfl, bel.frame _, fun h => by cases h⟩

theorem said : Rows.RefJoinsSaid :=
  OpenClaim.holds_of_cond 6 Tryd.f6 rfl rfl rfl rfl rfl rfl rfl ⟨rfl, rfl, rfl, rfl, rfl⟩ rfl rfl rfl rfl rfl (by kernel_rfl) Tryd.func6 (by kernel_rfl)
    (of_decide_eq_true (by kernel_rfl)) (by unfold Func.isWrapper; first | (rw [if_pos (by decide +kernel)]; kernel_rfl) | (rw [if_neg (by decide +kernel)]; exact ⟨rfl, rfl⟩))
    (fun os started H enc _ F => by rw [OpenClaim.pre_eq_preRow]; exact lifted os started H enc F)
theorem plain (f : FuncId) (fn : Func) (hf : Tryd.pinned.checked.prog.funcNamed "flail/flaillaw07.RefJoins" = some f) (hfn : Tryd.pinned.checked.prog.funcs[f]? = some fn) :
    true = Tryd.pinned.checked.prog.looks [] ∧ ∀ (j : Nat) t, fn.params[j]? = some t → Tryd.pinned.checked.prog.wantsStandIn t = false := by
  obtain rfl : f = 6 := Option.some.inj ((show Tryd.prog.funcNamed "flail/flaillaw07.RefJoins" = some 6 by kernel_rfl).symm.trans hf) |>.symm
  obtain rfl : fn = Tryd.f6 := (Option.some.inj (Tryd.func6.symm.trans hfn)).symm
  refine ⟨by kernel_rfl, fun j t ht => ?_⟩
  rw [Tryd.params6] at ht
  have hm : t ∈ [9, 4] := by simpa using Array.mem_of_getElem? ht
  have hall : ([9, 4].all fun u => !Tryd.prog.wantsStandIn u) = true := by kernel_rfl
  exact (show Tryd.prog.wantsStandIn t = false by simpa using List.all_eq_true.1 hall t hm)
/-- the statement: the row's card -/
theorem proved : Rows.RefJoinsCardSaid :=
  Claim7.holds_tied_plain_at .later [] _ _ _ _ said (fun _ h => by cases h) (by kernel_rfl) (fun _ h => by cases h) refJoins_row_tie rfl ⟨rfl, rfl⟩ (by kernel_rfl) rfl plain (by kernel_rfl)
end Go.Proofs.YtdpgdcbclgdjaaaDoor.refJoins
