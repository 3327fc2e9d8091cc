/-
  The law RawRest of flail/flaillaw12 answers true for every input, and changes nothing that was there. Condition, which the card ties to the program's text: when the call begins, the package variables that the row lists hold what that text lays in them (math/bits.deBruijn32tab, math/bits.deBruijn64tab, internal/strconv.uint64pow10, strconv.ErrRange, strconv.ErrSyntax, flail/number.others).
-/
import Derived.Test.YtameddkmbfcnoaaDoorRows
import Derived.Test.YtameddkmbfcnoaaDoorRawAwake
import Derived.Test.YtameddkmbfcnoaaDoorCards
import Derived.Test.YtameddkmbfcnoaaDoorP6
import Derived.WalkKit
import Derived.ProofKit
import Derived.ChangeOld
import Derived.Below
import Derived.OpenShut
import Derived.ShutString
namespace Go.Proofs.YtameddkmbfcnoaaDoor.rawRest
open Go.ChangeShapes Go.WideShapes Go.ChangeAt Go.RowKit
open Go.ChangeMaps (open_string shut_string)
set_option linter.unusedVariables false      -- a walk need not use every 'w<i>' (that an integer argument fits its kind)

theorem own : ownKnob Tryd.prog.godebug = none := by kernel_rfl

set_option maxRecDepth 100000 in
set_option maxHeartbeats 4000000 in
theorem walk (a0 : ByteArray) (a1 : ByteArray) (a2 : ByteArray) (w0 : a0.size ≤ maxLen) (w1 : a1.size ≤ maxLen) (w2 : a2.size ≤ maxLen) (w : World) (hT : LaidAt w) :
    Calls Tryd.prog 5 #[.string a0, .string a1, .string a2] w fun e w' => e = .returned (.bool true) ∧ Below w.heap.size w w' := by
  clear w0 w1 w2
  have HW := Lib.hid hT
  clear hT
  by_cases hlen : 300 < a0.size ∨ 300 < a1.size ∨ 60 < a2.size
  · have hc : decide ((300 : Int) < (a0.size : Int)) = true ∨ decide ((300 : Int) < (a0.size : Int)) = false ∧ decide ((300 : Int) < (a1.size : Int)) = true ∨ decide ((300 : Int) < (a0.size : Int)) = false ∧ decide ((300 : Int) < (a1.size : Int)) = false ∧ decide ((60 : Int) < (a2.size : Int)) = true := by
      simp only [decide_eq_true_eq, decide_eq_false_iff_not]; omega
    clear hlen
    rcases hc with hc | ⟨hc, hd⟩ | ⟨hc, hd, he⟩
    all_goals
      go_enter Tryd.func5, Tryd.ntmps5
      go_wp2_with (fail)
      refine (rawAwake_any w HW.out).mono ?_
      rintro e w1 ⟨rfl, c1⟩
      go_wp2
      go_ret
      exact ⟨rfl, c1⟩
  have hs0 : a0.size ≤ 300 := by omega
  have hs1 : a1.size ≤ 300 := by omega
  have hs2 : a2.size ≤ 60 := by omega
  have d0 : decide ((300 : Int) < (a0.size : Int)) = false := decide_eq_false (by omega)
  have d1 : decide ((300 : Int) < (a1.size : Int)) = false := decide_eq_false (by omega)
  have d2 : decide ((60 : Int) < (a2.size : Int)) = false := decide_eq_false (by omega)
  have hz : (a0 ++ a1).data.toList = a0.data.toList ++ a1.data.toList := by rw [ByteArray.data_append, Array.toList_append]
  have f1 := findV_ahead a2.data.toList a0.data.toList a1.data.toList
  have f2 := endV_ahead a2.data.toList a0.data.toList a1.data.toList
  rw [← hz, ← Lib.size_eq] at f1 f2
  have f3 := findV_low a2.data.toList a1.data.toList (-1) (by decide)
  have f4 := findV_high a2.data.toList a1.data.toList ((a1.size : Int) + 1) (by rw [← Lib.size_eq]; omega)
  rw [← Lib.size_eq] at f4
  have f5 := (findV_is a2.data.toList a1.data.toList 0 (Nat.zero_le _)).2.1
  rw [← Lib.size_eq] at f5
  have hA : (a0 ++ a1).size ≤ 1048576 := by rw [ByteArray.size_append]; omega
  have H1 := fun w h => Lib.hid (rawFind_any a1 0 a2 w (by omega) (by omega) (by decide) h)
  have H2 := fun w h => Lib.hid (rawFind_any (a0 ++ a1) (a0.size : Int) a2 w hA (by omega) (by omega) h)
  have H3 := fun w h => Lib.hid (rawEnds_any (a0 ++ a1) (a0.size : Int) a2 w hA (by omega) (by omega) h)
  have H4 := fun w h => Lib.hid (rawEnds_any a1 0 a2 w (by omega) (by omega) (by decide) h)
  have H5 := fun w h => Lib.hid (rawFind_any a1 (-1) a2 w (by omega) (by omega) (by decide) h)
  have H6 := fun w h => Lib.hid (rawFind_any a1 ((a1.size : Int) + 1) a2 w (by omega) (by omega) (by omega) h)
  rw [f1] at H2
  rw [f2] at H3
  rw [f3] at H5
  rw [f4] at H6
  obtain ⟨N, hN⟩ : ∃ N, findV a2.data.toList a1.data.toList 0 = N := ⟨_, rfl⟩
  obtain ⟨E, hE⟩ : ∃ E, endV a2.data.toList a1.data.toList 0 = E := ⟨_, rfl⟩
  rw [show findV a2.data.toList a1.data.toList ((0 : Nat) : Int) = N from hN] at f5
  rw [hN] at H1 H2 H5
  rw [hE] at H3 H4
  have g1 : ¬ 9223372036854775807 < a0.size + a1.size := by omega
  clear f1 f2 f3 f4 hz hA hN hE hlen
  go_enter Tryd.func5, Tryd.ntmps5
  go_wp2_with (fail)
  refine (rawAwake_any w HW.out).mono ?_
  rintro e w1 ⟨rfl, c1⟩
  have B1 := Lib.hid c1
  clear c1
  go_wp2_with (fail)
  refine (H1 _ (HW.out.below B1.out)).out.mono ?_
  rintro e w2 ⟨rfl, c2⟩
  have B2 := Lib.hid (B1.out.trans (c2.mono B1.out.size))
  clear c2
  go_wp2_with (fail)
  refine (H2 _ (HW.out.below B2.out)).out.mono ?_
  rintro e w3 ⟨rfl, c3⟩
  have B3 := Lib.hid (B2.out.trans (c3.mono B2.out.size))
  clear c3
  go_wp2_with (fail)
  refine (H3 _ (HW.out.below B3.out)).out.mono ?_
  rintro e w4 ⟨rfl, c4⟩
  have B4 := Lib.hid (B3.out.trans (c4.mono B3.out.size))
  clear c4
  go_wp2_with (fail)
  refine (H4 _ (HW.out.below B4.out)).out.mono ?_
  rintro e w5 ⟨rfl, c5⟩
  have B5 := Lib.hid (B4.out.trans (c5.mono B4.out.size))
  clear c5
  go_wp2_with (fail)
  refine (H5 _ (HW.out.below B5.out)).out.mono ?_
  rintro e w6 ⟨rfl, c6⟩
  have B6 := Lib.hid (B5.out.trans (c6.mono B5.out.size))
  clear c6
  go_wp2_with (fail)
  refine (H6 _ (HW.out.below B6.out)).out.mono ?_
  rintro e w7 ⟨rfl, c7⟩
  have B7 := Lib.hid (B6.out.trans (c7.mono B6.out.size))
  clear c7
  go_wp2
  go_ret
  exact ⟨ret_bool (by simp), B7.out⟩
  -- go_wp2
  -- go_ret
  -- exact ⟨rfl, by repeat (first | exact Grown.refl _ | apply Grown.drew | apply Grown.alloc)⟩

theorem laid_met (os : Os) : laidMet Tryd.prog Rows.rawRestRow.laid ((laidWorld os).forCall (fun _ _ => 0) ⟨#[], #[.string ByteArray.empty, .string ByteArray.empty, .string ByteArray.empty], []⟩).memory :=
  laidMet_of_run' 8 (by kernel_rfl) (by kernel_rfl)
theorem reads (os : Os) {H : Type} (enc : TypeId × Value → H) : ∃ places, DataW.whole enc Tryd.prog ((laidWorld os).forCall (fun _ _ => 0) ⟨#[], #[.string ByteArray.empty, .string ByteArray.empty, .string ByteArray.empty], []⟩).memory Tryd.f5.params.toList Rows.rawRestSpec.vars false (#[.string ByteArray.empty, .string ByteArray.empty, .string ByteArray.empty] : Array Value).toList 8 = some ([.lit (.string []), .lit (.string []), .lit (.string [])], [], places) :=
  ⟨[], by kernel_rfl⟩
set_option maxRecDepth 100000 in
theorem lifted (os : Os) (started : os.Started) (H : Type) (enc : TypeId × Value → H) (F : Stop.Interp) :
    ReturnsInHanded {} Tryd.checked os 5 .any ((OpenSpec.ofChange Rows.rawRestSpec).preRow enc Tryd.prog Tryd.f5 Rows.rawRestRow.domain false Rows.rawRestRow.laid) (((OpenSpec.ofChange Rows.rawRestSpec).at F).post enc Tryd.prog Tryd.f5 false true false false) := by
  obtain ⟨places, hx⟩ := reads os enc
  refine returnsInHanded_of_row (C := Tryd.checked) (s := OpenSpec.ofChange Rows.rawRestSpec) own started (by kernel_rfl) Tryd.func5
    (witness_row_at (enc := enc) (C := Tryd.checked) false (laidWorld os) #[.string ByteArray.empty, .string ByteArray.empty, .string ByteArray.empty] rfl (by kernel_rfl) (by kernel_rfl) (by kernel_rfl)
      (OpenSpec.preRow_of_cond 8 hx (by kernel_rfl) (fun k hk => by cases hk) (by kernel_rfl) (laid_met os))) ?_
  intro W base args ds gs before hval0 hW _ _ _ hL hsh _
  have hval : ∀ (j : Nat) t v, Tryd.f5.params[j]? = some t → args[j]? = some v → Value.okWide Tryd.prog W .any base t v := hval0
  have hW' := hW
  obtain ⟨p, q, hA0, hV, rfl, hfz, hnd⟩ := hW
  have hA : DataW.TrodAll enc Tryd.prog W 0 (fun _ => true) true Tryd.f5.params.toList args.toList ds p := hA0
  rw [Tryd.params5] at hA hval
  obtain ⟨v0, vs0, d0, ds0, p0, q0, hargs, rfl, rfl, h0, r0⟩ := trodAll_cons hA
  obtain ⟨v1, vs1, d1, ds1, p1, q1, rfl, rfl, rfl, h1, r1⟩ := trodAll_cons r0
  obtain ⟨v2, vs2, d2, ds2, p2, q2, rfl, rfl, rfl, h2, r2⟩ := trodAll_cons r1
  obtain ⟨rfl, rfl, rfl⟩ := trodAll_nil r2
  obtain rfl : args = #[v0, v1, v2] := by cases args; simp_all
  obtain ⟨rfl, rfl⟩ := trodVars_none hV
  obtain ⟨a0, rfl, rfl, rfl, w0⟩ := open_string Tryd.underlying9 (hval 0 9 v0 rfl rfl) h0
  obtain ⟨a1, rfl, rfl, rfl, w1⟩ := open_string Tryd.underlying9 (hval 1 9 v1 rfl rfl) h1
  obtain ⟨a2, rfl, rfl, rfl, w2⟩ := open_string Tryd.underlying9 (hval 2 9 v2 rfl rfl) h2
  clear hA0 hval0
  refine (walk a0 a1 a2 w0 w1 w2 W (tabAt_of hL hsh)).mono fun e W' ⟨he, bel⟩ => ?_
  subst he
  exact ⟨_, rfl, _, _, _, [], _, [], hW', trodAll_mk1 (shut_bool Tryd.underlying4 _), (trodAll_cons_mk (shut_string Tryd.underlying9 w0) (trodAll_cons_mk (shut_string Tryd.underlying9 w1) (trodAll_cons_mk (shut_string Tryd.underlying9 w2) trodAll_mk0))), rfl, bel.frame _, fun h => by cases h⟩

theorem said : Rows.RawRestSaid :=
  OpenClaim.holds_of_cond 5 Tryd.f5 rfl rfl rfl rfl rfl rfl rfl ⟨rfl, rfl, rfl, rfl, rfl⟩ rfl rfl rfl rfl rfl (by kernel_rfl) Tryd.func5 (by kernel_rfl)
    (of_decide_eq_true (by kernel_rfl)) (by unfold Func.isWrapper; first | (rw [if_pos (by decide +kernel)]; kernel_rfl) | (rw [if_neg (by decide +kernel)]; exact ⟨rfl, rfl⟩))
    (fun os started H enc _ F => by rw [OpenClaim.pre_eq_preRow]; exact lifted os started H enc F)
theorem plain (f : FuncId) (fn : Func) (hf : Tryd.pinned.checked.prog.funcNamed "flail/flaillaw12.RawRest" = some f) (hfn : Tryd.pinned.checked.prog.funcs[f]? = some fn) :
    true = Tryd.pinned.checked.prog.looks [] ∧ ∀ (j : Nat) t, fn.params[j]? = some t → Tryd.pinned.checked.prog.wantsStandIn t = false := by
  obtain rfl : f = 5 := Option.some.inj ((show Tryd.prog.funcNamed "flail/flaillaw12.RawRest" = some 5 by kernel_rfl).symm.trans hf) |>.symm
  obtain rfl : fn = Tryd.f5 := (Option.some.inj (Tryd.func5.symm.trans hfn)).symm
  refine ⟨by kernel_rfl, fun j t ht => ?_⟩
  rw [Tryd.params5] at ht
  have hm : t ∈ [9] := by simpa using Array.mem_of_getElem? ht
  have hall : ([9].all fun u => !Tryd.prog.wantsStandIn u) = true := by kernel_rfl
  exact (show Tryd.prog.wantsStandIn t = false by simpa using List.all_eq_true.1 hall t hm)
/-- the statement: the row's card -/
theorem proved : Rows.RawRestCardSaid :=
  Claim7.holds_tied_plain_at .later [] _ _ _ _ said (fun _ h => by cases h) (by kernel_rfl) (fun _ h => by cases h) rawRest_row_tie rfl ⟨rfl, rfl⟩ (by kernel_rfl) rfl plain (by kernel_rfl)
end Go.Proofs.YtameddkmbfcnoaaDoor.rawRest
