/-
  The law DriveTells of flail/flaillaw16 answers true for every input, and changes nothing that was there. Condition, which the card ties to the program's text: when the call begins, the package variables that the row lists hold what that text lays in them (math/bits.deBruijn32tab, math/bits.deBruijn64tab, internal/strconv.uint64pow10, strconv.ErrRange, strconv.ErrSyntax, flail/number.others).
-/
import Derived.Test.YtdcbjgmjmdgmmaaGreatDoorRows
import Derived.Test.YtdcbjgmjmdgmmaaGreatDoorDrvAwake
import Derived.Test.YtdcbjgmjmdgmmaaGreatDoorDrvDo
import Derived.Test.YtdcbjgmjmdgmmaaGreatDoorCards
import Derived.Test.YtdcbjgmjmdgmmaaGreatDoorP6
import Derived.WalkKit
import Derived.ProofKit
import Derived.ChangeOld
import Derived.Below
import Derived.OpenShut
import Derived.ShutString
namespace Go.Proofs.YtdcbjgmjmdgmmaaGreatDoor.driveTells
open Go.ChangeShapes Go.WideShapes Go.ChangeAt Go.RowKit
open Go.ChangeMaps (open_string shut_string)
set_option linter.unusedVariables false      -- a walk need not use every 'w<i>' (that an integer argument fits its kind)

theorem own : ownKnob Tryz.prog.godebug = none := by kernel_rfl

set_option maxRecDepth 100000 in
set_option maxHeartbeats 8000000 in
theorem walk (a0 : ByteArray) (a1 : ByteArray) (w0 : a0.size ≤ maxLen) (w1 : a1.size ≤ maxLen) (w : World) (hT : LaidAt w) :
    Calls Tryz.prog 3 #[.string a0, .string a1] w fun e w' => e = .returned (.bool true) ∧ Below w.heap.size w w' := by
  clear w0 w1
  have HW := Lib.hid hT
  clear hT
  by_cases hlen : 300 < a0.size ∨ 60 < a1.size
  · have hc : decide ((300 : Int) < (a0.size : Int)) = true ∨ decide ((300 : Int) < (a0.size : Int)) = false ∧ decide ((60 : Int) < (a1.size : Int)) = true := by
      simp only [decide_eq_true_eq, decide_eq_false_iff_not]; omega
    clear hlen
    rcases hc with hc | ⟨hc, hd⟩
    all_goals
      go_enter Tryz.func3, Tryz.ntmps3
      go_wp2_with (fail)
      refine (drvAwake_any w HW.out).mono ?_
      rintro e w1 ⟨rfl, c1⟩
      go_wp2
      go_ret
      exact ⟨rfl, c1⟩
  have d0 : decide ((300 : Int) < (a0.size : Int)) = false := decide_eq_false (by omega)
  have d1 : decide ((60 : Int) < (a1.size : Int)) = false := decide_eq_false (by omega)
  have H1 := fun w h => Lib.hid (drvDrive_any a0 w (by omega) h)
  have H2 := fun w => Lib.hid (refDrive16_any a0 w (by omega))
  have H3 := fun w h => Lib.hid (drvState_any a1 w (by omega) h)
  have H4 := fun w => Lib.hid (refState16_any a1 w)
  obtain ⟨T, hT⟩ : ∃ T, drvL a0.data.toList = T := ⟨_, rfl⟩
  obtain ⟨K, hK⟩ : ∃ K, drvN a1.data.toList = K := ⟨_, rfl⟩
  rw [hT] at H1 H2
  rw [hK] at H3 H4
  clear hT hK hlen
  go_enter Tryz.func3, Tryz.ntmps3
  go_wp2_with (fail)
  refine (drvAwake_any w HW.out).mono ?_
  rintro e w1 ⟨rfl, c1⟩
  have B1 := Lib.hid c1
  clear c1
  go_wp2_with (fail)
  refine (H1 _ (HW.out.below B1.out)).out.mono ?_
  rintro e w2 ⟨x, l, c, rfl, t2, c2⟩
  have B2 := Lib.hid (B1.out.trans (c2.mono B1.out.size))
  have T2 := Lib.hid t2.toks
  clear c2 t2
  go_wp2_with (fail)
  refine (H2 _).out.mono ?_
  rintro e w3 ⟨v, Q, rfl, o3, q3, c3⟩
  obtain ⟨y, d, rfl, t3⟩ := o3.told
  rw [q3] at t3
  have B3 := Lib.hid (B2.out.trans (c3.mono B2.out.size))
  have T2 := Lib.hid (T2.out.below c3 (Nat.le_refl _))
  have T3 := Lib.hid t3
  clear c3 t3 o3 q3
  have HA := Lib.hid (refAll_any _ _ _ _ _ _ _ _ _ T2.out T3.out)
  rw [decide_eq_true (rfl : T = T)] at HA
  go_wp2_with (fail)
  refine HA.out.mono ?_
  rintro e w4 ⟨rfl, c4⟩
  have B4 := Lib.hid (B3.out.trans (c4.mono B3.out.size))
  clear c4
  go_wp2_with (fail)
  refine (H3 _ (HW.out.below B4.out)).out.mono ?_
  rintro e w5 ⟨rfl, c5⟩
  have B5 := Lib.hid (B4.out.trans (c5.mono B4.out.size))
  clear c5
  go_wp2_with (fail)
  refine (H4 _).out.mono ?_
  rintro e w6 ⟨rfl, hw6⟩
  obtain rfl := hw6.symm
  go_wp2
  go_ret
  exact ⟨ret_bool (by simp), B5.out⟩
  -- go_wp2
  -- go_ret
  -- exact ⟨rfl, by repeat (first | exact Grown.refl _ | apply Grown.drew | apply Grown.alloc)⟩

theorem laid_met (os : Os) : laidMet Tryz.prog Rows.driveTellsRow.laid ((laidWorld os).forCall (fun _ _ => 0) ⟨#[], #[.string ByteArray.empty, .string ByteArray.empty], []⟩).memory :=
  laidMet_of_run' 8 (by kernel_rfl) (by kernel_rfl)
theorem reads (os : Os) {H : Type} (enc : TypeId × Value → H) : ∃ places, DataW.whole enc Tryz.prog ((laidWorld os).forCall (fun _ _ => 0) ⟨#[], #[.string ByteArray.empty, .string ByteArray.empty], []⟩).memory Tryz.f3.params.toList Rows.driveTellsSpec.vars false (#[.string ByteArray.empty, .string ByteArray.empty] : Array Value).toList 8 = some ([.lit (.string []), .lit (.string [])], [], places) :=
  ⟨[], by kernel_rfl⟩
set_option maxRecDepth 100000 in
theorem lifted (os : Os) (started : os.Started) (H : Type) (enc : TypeId × Value → H) (F : Stop.Interp) :
    ReturnsInHanded {} Tryz.checked os 3 .any ((OpenSpec.ofChange Rows.driveTellsSpec).preRow enc Tryz.prog Tryz.f3 Rows.driveTellsRow.domain false Rows.driveTellsRow.laid) (((OpenSpec.ofChange Rows.driveTellsSpec).at F).post enc Tryz.prog Tryz.f3 false true false false) := by
  obtain ⟨places, hx⟩ := reads os enc
  refine returnsInHanded_of_row (C := Tryz.checked) (s := OpenSpec.ofChange Rows.driveTellsSpec) own started (by kernel_rfl) Tryz.func3
    (witness_row_at (enc := enc) (C := Tryz.checked) false (laidWorld os) #[.string ByteArray.empty, .string ByteArray.empty] rfl (by kernel_rfl) (by kernel_rfl) (by kernel_rfl)
      (OpenSpec.preRow_of_cond 8 hx (by kernel_rfl) (fun k hk => by cases hk) (by kernel_rfl) (laid_met os))) ?_
  intro W base args ds gs before hval0 hW _ _ _ hL hsh _
  have hval : ∀ (j : Nat) t v, Tryz.f3.params[j]? = some t → args[j]? = some v → Value.okWide Tryz.prog W .any base t v := hval0
  have hW' := hW
  obtain ⟨p, q, hA0, hV, rfl, hfz, hnd⟩ := hW
  have hA : DataW.TrodAll enc Tryz.prog W 0 (fun _ => true) true Tryz.f3.params.toList args.toList ds p := hA0
  rw [Tryz.params3] at hA hval
  obtain ⟨v0, vs0, d0, ds0, p0, q0, hargs, rfl, rfl, h0, r0⟩ := trodAll_cons hA
  obtain ⟨v1, vs1, d1, ds1, p1, q1, rfl, rfl, rfl, h1, r1⟩ := trodAll_cons r0
  obtain ⟨rfl, rfl, rfl⟩ := trodAll_nil r1
  obtain rfl : args = #[v0, v1] := by cases args; simp_all
  obtain ⟨rfl, rfl⟩ := trodVars_none hV
  obtain ⟨a0, rfl, rfl, rfl, w0⟩ := open_string Tryz.underlying9 (hval 0 9 v0 rfl rfl) h0
  obtain ⟨a1, rfl, rfl, rfl, w1⟩ := open_string Tryz.underlying9 (hval 1 9 v1 rfl rfl) h1
  clear hA0 hval0
  refine (walk a0 a1 w0 w1 W (tabAt_of hL hsh)).mono fun e W' ⟨he, bel⟩ => ?_
  subst he
  exact ⟨_, rfl, _, _, _, [], _, [], hW', trodAll_mk1 (shut_bool Tryz.underlying4 _), (trodAll_cons_mk (shut_string Tryz.underlying9 w0) (trodAll_cons_mk (shut_string Tryz.underlying9 w1) trodAll_mk0)), rfl, bel.frame _, fun h => by cases h⟩

theorem said : Rows.DriveTellsSaid :=
  OpenClaim.holds_of_cond 3 Tryz.f3 rfl rfl rfl rfl rfl rfl rfl ⟨rfl, rfl, rfl, rfl, rfl⟩ rfl rfl rfl rfl rfl (by kernel_rfl) Tryz.func3 (by kernel_rfl)
    (of_decide_eq_true (by kernel_rfl)) (by unfold Func.isWrapper; first | (rw [if_pos (by decide +kernel)]; kernel_rfl) | (rw [if_neg (by decide +kernel)]; exact ⟨rfl, rfl⟩))
    (fun os started H enc _ F => by rw [OpenClaim.pre_eq_preRow]; exact lifted os started H enc F)
theorem plain (f : FuncId) (fn : Func) (hf : Tryz.pinned.checked.prog.funcNamed "flail/flaillaw16.DriveTells" = some f) (hfn : Tryz.pinned.checked.prog.funcs[f]? = some fn) :
    true = Tryz.pinned.checked.prog.looks [] ∧ ∀ (j : Nat) t, fn.params[j]? = some t → Tryz.pinned.checked.prog.wantsStandIn t = false := by
  obtain rfl : f = 3 := Option.some.inj ((show Tryz.prog.funcNamed "flail/flaillaw16.DriveTells" = some 3 by kernel_rfl).symm.trans hf) |>.symm
  obtain rfl : fn = Tryz.f3 := (Option.some.inj (Tryz.func3.symm.trans hfn)).symm
  refine ⟨by kernel_rfl, fun j t ht => ?_⟩
  rw [Tryz.params3] at ht
  have hm : t ∈ [9] := by first | simpa using Array.mem_of_getElem? ht | (have h := Array.mem_of_getElem? ht; simp at h ⊢; grind)
  have hall : ([9].all fun u => !Tryz.prog.wantsStandIn u) = true := by kernel_rfl
  exact (show Tryz.prog.wantsStandIn t = false by simpa using List.all_eq_true.1 hall t hm)
/-- the statement: the row's card -/
theorem proved : Rows.DriveTellsCardSaid :=
  Claim7.holds_tied_plain_at .later [] _ _ _ _ said (fun _ h => by cases h) (by kernel_rfl) (fun _ h => by cases h) driveTells_row_tie rfl ⟨rfl, rfl⟩ (by kernel_rfl) rfl plain (by kernel_rfl)
end Go.Proofs.YtdcbjgmjmdgmmaaGreatDoor.driveTells
