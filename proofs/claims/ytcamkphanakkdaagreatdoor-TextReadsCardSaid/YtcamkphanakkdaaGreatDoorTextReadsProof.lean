/-
  The law TextReads of flail/flaillaw14 answers true for every input, and changes nothing that was there. Condition, which the card ties to the program's text: when the call begins, the package variables that the row lists hold what that text lays in them (math/bits.deBruijn32tab, math/bits.deBruijn64tab, internal/strconv.uint64pow10, strconv.ErrRange, strconv.ErrSyntax, flail/number.others).
-/
import Derived.Test.YtcamkphanakkdaaGreatDoorRows
import Derived.Test.YtcamkphanakkdaaGreatDoorTxtAwake
import Derived.Test.YtcamkphanakkdaaGreatDoorTxtRefB
import Derived.Test.YtcamkphanakkdaaGreatDoorCards
import Derived.Test.YtcamkphanakkdaaGreatDoorP6
import Derived.WalkKit
import Derived.ProofKit
import Derived.ChangeOld
import Derived.Below
import Derived.OpenShut
import Derived.ShutString
namespace Go.Proofs.YtcamkphanakkdaaGreatDoor.textReads
open Go.ChangeShapes Go.WideShapes Go.ChangeAt Go.RowKit
open Go.ChangeMaps (open_string shut_string)
set_option linter.unusedVariables false      -- a walk need not use every 'w<i>' (that an integer argument fits its kind)

theorem own : ownKnob Tryz.prog.godebug = none := by kernel_rfl

set_option maxRecDepth 100000 in
set_option maxHeartbeats 8000000 in
theorem walk (a0 : ByteArray) (a1 : Int) (w0 : a0.size ≤ maxLen) (w1 : (Lit.int .i64 a1).wf = true) (w : World) (hT : LaidAt w) :
    Calls Tryz.prog 3 #[.string a0, .int .i64 a1] w fun e w' => e = .returned (.bool true) ∧ Below w.heap.size w w' := by
  have hb : -9223372036854775808 ≤ a1 ∧ a1 ≤ 9223372036854775807 := by simpa [Lit.wf, IntKind.min, IntKind.max, IntKind.signed, IntKind.bits] using w1
  clear w0 w1
  have HW := Lib.hid hT
  clear hT
  by_cases hlen : 300 < a0.size
  · go_enter Tryz.func3, Tryz.ntmps3
    go_wp2_with (fail)
    refine (txtAwake_any w HW.out).mono ?_
    rintro e w1 ⟨rfl, c1⟩
    go_wp2
    go_ret
    exact ⟨rfl, c1⟩
  have d0 : decide ((300 : Int) < (a0.size : Int)) = false := decide_eq_false (by omega)
  have HR1 := fun w h => Lib.hid (txtRead_any a0 a1 w (by omega) hb h)
  have HR2 := fun w => Lib.hid (refRead14_any a0 a1 w (by omega) hb)
  have HB1 := fun w h => Lib.hid (txtBegins_any a0 a1 w (by omega) hb h)
  have HB2 := fun w => Lib.hid (refBegins14_any a0 a1 w (by omega) hb)
  have HN1 := fun w h => Lib.hid (txtNext_any a0 a1 w (by omega) hb h)
  have HN2 := fun w => Lib.hid (refNext14_any a0 a1 w (by omega) hb)
  obtain ⟨M, hM⟩ : ∃ M, mkV a0.data.toList a1 = M := ⟨_, rfl⟩
  obtain ⟨N, hN⟩ : ∃ N, nextV a0.data.toList a1 = N := ⟨_, rfl⟩
  obtain ⟨T, hT⟩ : ∃ T : ByteArray, (⟨(txtV a0.data.toList a1).toArray⟩ : ByteArray) = T := ⟨_, rfl⟩
  rw [hM] at HB1 HB2
  rw [hN] at HN1 HN2 HR1 HR2
  rw [hT] at HR1 HR2
  clear hM hN hT hb hlen
  go_enter Tryz.func3, Tryz.ntmps3
  go_wp2_with (fail)
  refine (txtAwake_any w HW.out).mono ?_
  rintro e w1 ⟨rfl, c1⟩
  have B1 := Lib.hid c1
  go_wp2_with (fail)
  refine (HR1 _ (HW.out.below B1.out)).out.mono ?_
  rintro e w2 ⟨rfl, c2⟩
  have B2 := Lib.hid (B1.out.trans (c2.mono B1.out.size))
  go_wp2_with (fail)
  refine (HR2 _).out.mono ?_
  rintro e w3 ⟨rfl, c3⟩
  have B3 := Lib.hid (B2.out.trans (c3.mono B2.out.size))
  go_wp2_with (fail)
  refine (HB1 _ (HW.out.below B3.out)).out.mono ?_
  rintro e w4 ⟨rfl, c4⟩
  have B4 := Lib.hid (B3.out.trans (c4.mono B3.out.size))
  go_wp2_with (fail)
  refine (HB2 _).out.mono ?_
  rintro e w5 ⟨rfl, c5⟩
  have B5 := Lib.hid (B4.out.trans (c5.mono B4.out.size))
  go_wp2_with (fail)
  refine (HN1 _ (HW.out.below B5.out)).out.mono ?_
  rintro e w6 ⟨rfl, c6⟩
  have B6 := Lib.hid (B5.out.trans (c6.mono B5.out.size))
  go_wp2_with (fail)
  refine (HN2 _).out.mono ?_
  rintro e w7 ⟨rfl, c7⟩
  have B7 := Lib.hid (B6.out.trans (c7.mono B6.out.size))
  go_wp2
  go_ret
  exact ⟨ret_bool (by simp), B7.out⟩
  -- go_wp2
  -- go_ret
  -- exact ⟨rfl, by repeat (first | exact Grown.refl _ | apply Grown.drew | apply Grown.alloc)⟩

theorem laid_met (os : Os) : laidMet Tryz.prog Rows.textReadsRow.laid ((laidWorld os).forCall (fun _ _ => 0) ⟨#[], #[.string ByteArray.empty, .int .i64 0], []⟩).memory :=
  laidMet_of_run' 8 (by kernel_rfl) (by kernel_rfl)
theorem reads (os : Os) {H : Type} (enc : TypeId × Value → H) : ∃ places, DataW.whole enc Tryz.prog ((laidWorld os).forCall (fun _ _ => 0) ⟨#[], #[.string ByteArray.empty, .int .i64 0], []⟩).memory Tryz.f3.params.toList Rows.textReadsSpec.vars false (#[.string ByteArray.empty, .int .i64 0] : Array Value).toList 8 = some ([.lit (.string []), .lit (.int .i64 0)], [], places) :=
  ⟨[], by kernel_rfl⟩
set_option maxRecDepth 100000 in
theorem lifted (os : Os) (started : os.Started) (H : Type) (enc : TypeId × Value → H) (F : Stop.Interp) :
    ReturnsInHanded {} Tryz.checked os 3 .any ((OpenSpec.ofChange Rows.textReadsSpec).preRow enc Tryz.prog Tryz.f3 Rows.textReadsRow.domain false Rows.textReadsRow.laid) (((OpenSpec.ofChange Rows.textReadsSpec).at F).post enc Tryz.prog Tryz.f3 false true false false) := by
  obtain ⟨places, hx⟩ := reads os enc
  refine returnsInHanded_of_row (C := Tryz.checked) (s := OpenSpec.ofChange Rows.textReadsSpec) own started (by kernel_rfl) Tryz.func3
    (witness_row_at (enc := enc) (C := Tryz.checked) false (laidWorld os) #[.string ByteArray.empty, .int .i64 0] rfl (by kernel_rfl) (by kernel_rfl) (by kernel_rfl)
      (OpenSpec.preRow_of_cond 8 hx (by kernel_rfl) (fun k hk => by cases hk) (by kernel_rfl) (laid_met os))) ?_
  intro W base args ds gs before hval0 hW _ _ _ hL hsh _
  have hval : ∀ (j : Nat) t v, Tryz.f3.params[j]? = some t → args[j]? = some v → Value.okWide Tryz.prog W .any base t v := hval0
  have hW' := hW
  obtain ⟨p, q, hA0, hV, rfl, hfz, hnd⟩ := hW
  have hA : DataW.TrodAll enc Tryz.prog W 0 (fun _ => true) true Tryz.f3.params.toList args.toList ds p := hA0
  rw [Tryz.params3] at hA hval
  obtain ⟨v0, vs0, d0, ds0, p0, q0, hargs, rfl, rfl, h0, r0⟩ := trodAll_cons hA
  obtain ⟨v1, vs1, d1, ds1, p1, q1, rfl, rfl, rfl, h1, r1⟩ := trodAll_cons r0
  obtain ⟨rfl, rfl, rfl⟩ := trodAll_nil r1
  obtain rfl : args = #[v0, v1] := by cases args; simp_all
  obtain ⟨rfl, rfl⟩ := trodVars_none hV
  obtain ⟨a0, rfl, rfl, rfl, w0⟩ := open_string Tryz.underlying9 (hval 0 9 v0 rfl rfl) h0
  obtain ⟨a1, rfl, rfl, rfl, w1⟩ := open_int Tryz.underlying3 (hval 1 3 v1 rfl rfl) h1
  clear hA0 hval0
  refine (walk a0 a1 w0 w1 W (tabAt_of hL hsh)).mono fun e W' ⟨he, bel⟩ => ?_
  subst he
  exact ⟨_, rfl, _, _, _, [], _, [], hW', trodAll_mk1 (shut_bool Tryz.underlying4 _), (trodAll_cons_mk (shut_string Tryz.underlying9 w0) (trodAll_cons_mk (shut_int Tryz.underlying3 w1) trodAll_mk0)), rfl, bel.frame _, fun h => by cases h⟩

theorem said : Rows.TextReadsSaid :=
  OpenClaim.holds_of_cond 3 Tryz.f3 rfl rfl rfl rfl rfl rfl rfl ⟨rfl, rfl, rfl, rfl, rfl⟩ rfl rfl rfl rfl rfl (by kernel_rfl) Tryz.func3 (by kernel_rfl)
    (of_decide_eq_true (by kernel_rfl)) (by unfold Func.isWrapper; first | (rw [if_pos (by decide +kernel)]; kernel_rfl) | (rw [if_neg (by decide +kernel)]; exact ⟨rfl, rfl⟩))
    (fun os started H enc _ F => by rw [OpenClaim.pre_eq_preRow]; exact lifted os started H enc F)
theorem plain (f : FuncId) (fn : Func) (hf : Tryz.pinned.checked.prog.funcNamed "flail/flaillaw14.TextReads" = some f) (hfn : Tryz.pinned.checked.prog.funcs[f]? = some fn) :
    true = Tryz.pinned.checked.prog.looks [] ∧ ∀ (j : Nat) t, fn.params[j]? = some t → Tryz.pinned.checked.prog.wantsStandIn t = false := by
  obtain rfl : f = 3 := Option.some.inj ((show Tryz.prog.funcNamed "flail/flaillaw14.TextReads" = some 3 by kernel_rfl).symm.trans hf) |>.symm
  obtain rfl : fn = Tryz.f3 := (Option.some.inj (Tryz.func3.symm.trans hfn)).symm
  refine ⟨by kernel_rfl, fun j t ht => ?_⟩
  rw [Tryz.params3] at ht
  have hm : t ∈ [9, 3] := by first | simpa using Array.mem_of_getElem? ht | (have h := Array.mem_of_getElem? ht; simp at h ⊢; grind)
  have hall : ([9, 3].all fun u => !Tryz.prog.wantsStandIn u) = true := by kernel_rfl
  exact (show Tryz.prog.wantsStandIn t = false by simpa using List.all_eq_true.1 hall t hm)
/-- the statement: the row's card -/
theorem proved : Rows.TextReadsCardSaid :=
  Claim7.holds_tied_plain_at .later [] _ _ _ _ said (fun _ h => by cases h) (by kernel_rfl) (fun _ h => by cases h) textReads_row_tie rfl ⟨rfl, rfl⟩ (by kernel_rfl) rfl plain (by kernel_rfl)
end Go.Proofs.YtcamkphanakkdaaGreatDoor.textReads
