/-
  The law TextKinds of flail/flaillaw14 answers true for every input, and changes nothing that was there. Condition, which the card ties to the program's text: when the call begins, the package variables that the row lists hold what that text lays in them (math/bits.deBruijn32tab, math/bits.deBruijn64tab, internal/strconv.uint64pow10, strconv.ErrRange, strconv.ErrSyntax, flail/number.others).
-/
import Derived.Test.YtcamkphanakkdaaDoorRows
import Derived.Test.YtcamkphanakkdaaDoorTxtAwake
import Derived.Test.YtcamkphanakkdaaDoorCards
import Derived.Test.YtcamkphanakkdaaDoorP6
import Derived.WalkKit
import Derived.ProofKit
import Derived.ChangeOld
import Derived.Below
import Derived.OpenShut
import Derived.ShutString
namespace Go.Proofs.YtcamkphanakkdaaDoor.textKinds
open Go.ChangeShapes Go.WideShapes Go.ChangeAt Go.RowKit
open Go.ChangeMaps (open_string shut_string)
set_option linter.unusedVariables false      -- a walk need not use every 'w<i>' (that an integer argument fits its kind)

theorem own : ownKnob Tryd.prog.godebug = none := by kernel_rfl

theorem kinds_at (s : Txt) (k : Nat) : Kinds (begV s (k : Int)) (cbegV s (k : Int)) (dbegV s (k : Int)) (ebegV s (k : Int)) := by
  rw [beg_in, cbeg_in, dbeg_in]
  unfold ebegV
  rw [show decide (0 ≤ (k : Int)) = true from decide_eq_true (by omega), Bool.true_and, show ((k : Nat) : Int).toNat = k by omega]
  exact kinds_of _
set_option maxRecDepth 100000 in
set_option maxHeartbeats 8000000 in
theorem walk (a0 : ByteArray) (a1 : Int) (w0 : a0.size ≤ maxLen) (w1 : (Lit.int .u16 a1).wf = true) (w : World) (hT : LaidAt w) :
    Calls Tryd.prog 6 #[.string a0, .int .u16 a1] w fun e w' => e = .returned (.bool true) ∧ Below w.heap.size w w' := by
  have hb1 : 0 ≤ a1 ∧ a1 ≤ 65535 := by simpa [Lit.wf, IntKind.min, IntKind.max, IntKind.signed, IntKind.bits] using w1
  obtain ⟨h10, h11⟩ := hb1
  clear w0 w1
  have HW := Lib.hid hT
  clear hT
  by_cases hlen : 300 < a0.size ∨ a0.size = 0
  · have hc : decide ((300 : Int) < (a0.size : Int)) = true ∨ decide ((300 : Int) < (a0.size : Int)) = false ∧ ((a0.size : Int) == 0) = true := by
      simp only [decide_eq_true_eq, decide_eq_false_iff_not, beq_iff_eq]; omega
    clear hlen
    rcases hc with hc | ⟨hc, hd⟩
    all_goals
      go_enter Tryd.func6, Tryd.ntmps6
      go_wp2_with (fail)
      refine (txtAwake_any w HW.out).mono ?_
      rintro e w1 ⟨rfl, c1⟩
      go_wp2
      go_ret
      exact ⟨rfl, c1⟩
  have hs0 : a0.size ≤ 300 := by omega
  have d0 : decide ((300 : Int) < (a0.size : Int)) = false := decide_eq_false (by omega)
  have d1 : ((a0.size : Int) == 0) = false := beq_eq_false_iff_ne.2 (by omega)
  have hk0 : 0 ≤ a1 % (a0.size : Int) := Int.emod_nonneg _ (by omega)
  have hk1 : a1 % (a0.size : Int) < (a0.size : Int) := Int.emod_lt_of_pos _ (by omega)
  obtain ⟨k, hk⟩ : ∃ k : Nat, a1 % (a0.size : Int) = k := ⟨(a1 % (a0.size : Int)).toNat, by omega⟩
  have HK := Lib.hid hk
  have hks : k < a0.size := by omega
  have H1 := fun w h => Lib.hid (txTag_any a0 (k : Int) w (by omega) (by omega) h)
  have H2 := fun w h => Lib.hid (txCom_any a0 (k : Int) w (by omega) (by omega) h)
  have H3 := fun w h => Lib.hid (txDct_any a0 (k : Int) w (by omega) (by omega) h)
  have H4 := fun w h => Lib.hid (txEmp_any a0 (k : Int) w (by omega) (by omega) h)
  have H5 := fun w h => Lib.hid (txtBegins_any a0 (k : Int) w (by omega) (by omega) h)
  rw [mk_four] at H5
  have hhead : mkV a0.data.toList (k : Int) = true → a0[k] = 60 := fun h => by
    rw [mk_in, drop_at a0 k hks] at h
    obtain ⟨t, e⟩ := mk_head _ h
    exact (List.cons.inj e).1
  rw [mk_four] at hhead
  have hkin := kinds_at a0.data.toList k
  generalize begV a0.data.toList (k : Int) = b1 at *
  generalize cbegV a0.data.toList (k : Int) = b2 at *
  generalize dbegV a0.data.toList (k : Int) = b3 at *
  generalize ebegV a0.data.toList (k : Int) = b4 at *
  clear hk hk0 hlen
  have hk2 : k ≤ 300 := by omega
  cases hkin
  · clear hhead
    go_enter Tryd.func6, Tryd.ntmps6
    go_wp2_with (fail)
    refine (txtAwake_any w HW.out).mono ?_
    rintro e w1 ⟨rfl, c1⟩
    have B1 := Lib.hid c1
    clear c1
    go_wp2_with (fail)
    rw [HK.out]
    refine (H1 _ (HW.out.below B1.out)).out.mono ?_
    rintro e w2 ⟨rfl, c2⟩
    have B2 := Lib.hid (B1.out.trans (c2.mono B1.out.size))
    clear c2 hk1
    go_wp2_with (fail)
    refine (H2 _ (HW.out.below B2.out)).out.mono ?_
    rintro e w3 ⟨rfl, c3⟩
    have B3 := Lib.hid (B2.out.trans (c3.mono B2.out.size))
    clear c3
    go_wp2_with (fail)
    refine (H3 _ (HW.out.below B3.out)).out.mono ?_
    rintro e w4 ⟨rfl, c4⟩
    have B4 := Lib.hid (B3.out.trans (c4.mono B3.out.size))
    clear c4
    go_wp2_with (fail)
    refine (H4 _ (HW.out.below B4.out)).out.mono ?_
    rintro e w5 ⟨rfl, c5⟩
    have B5 := Lib.hid (B4.out.trans (c5.mono B4.out.size))
    clear c5
    go_wp2_with (fail)
    refine (H5 _ (HW.out.below B5.out)).out.mono ?_
    rintro e w6 ⟨rfl, c6⟩
    have B6 := Lib.hid (B5.out.trans (c6.mono B5.out.size))
    clear c6
    go_wp2
    go_ret
    exact ⟨ret_bool (by simp), B6.out⟩
  all_goals
    have b60 : (((a0[k].toNat : Nat) : Int) == 60) = true := by rw [hhead (by simp)]; rfl
    clear hhead
    go_enter Tryd.func6, Tryd.ntmps6
    go_wp2_with (fail)
    refine (txtAwake_any w HW.out).mono ?_
    rintro e w1 ⟨rfl, c1⟩
    have B1 := Lib.hid c1
    clear c1
    go_wp2_with (fail)
    rw [HK.out]
    refine (H1 _ (HW.out.below B1.out)).out.mono ?_
    rintro e w2 ⟨rfl, c2⟩
    have B2 := Lib.hid (B1.out.trans (c2.mono B1.out.size))
    clear c2 hk1
    go_wp2_with (fail)
    refine (H2 _ (HW.out.below B2.out)).out.mono ?_
    rintro e w3 ⟨rfl, c3⟩
    have B3 := Lib.hid (B2.out.trans (c3.mono B2.out.size))
    clear c3
    go_wp2_with (fail)
    refine (H3 _ (HW.out.below B3.out)).out.mono ?_
    rintro e w4 ⟨rfl, c4⟩
    have B4 := Lib.hid (B3.out.trans (c4.mono B3.out.size))
    clear c4
    go_wp2_with (fail)
    refine (H4 _ (HW.out.below B4.out)).out.mono ?_
    rintro e w5 ⟨rfl, c5⟩
    have B5 := Lib.hid (B4.out.trans (c5.mono B4.out.size))
    clear c5
    go_wp2_with (fail)
    refine (H5 _ (HW.out.below B5.out)).out.mono ?_
    rintro e w6 ⟨rfl, c6⟩
    have B6 := Lib.hid (B5.out.trans (c6.mono B5.out.size))
    clear c6
    go_wp2
    go_ret
    exact ⟨ret_bool (by simp), B6.out⟩
  -- go_wp2
  -- go_ret
  -- exact ⟨rfl, by repeat (first | exact Grown.refl _ | apply Grown.drew | apply Grown.alloc)⟩

theorem laid_met (os : Os) : laidMet Tryd.prog Rows.textKindsRow.laid ((laidWorld os).forCall (fun _ _ => 0) ⟨#[], #[.string ByteArray.empty, .int .u16 0], []⟩).memory :=
  laidMet_of_run' 8 (by kernel_rfl) (by kernel_rfl)
theorem reads (os : Os) {H : Type} (enc : TypeId × Value → H) : ∃ places, DataW.whole enc Tryd.prog ((laidWorld os).forCall (fun _ _ => 0) ⟨#[], #[.string ByteArray.empty, .int .u16 0], []⟩).memory Tryd.f6.params.toList Rows.textKindsSpec.vars false (#[.string ByteArray.empty, .int .u16 0] : Array Value).toList 8 = some ([.lit (.string []), .lit (.int .u16 0)], [], places) :=
  ⟨[], by kernel_rfl⟩
set_option maxRecDepth 100000 in
theorem lifted (os : Os) (started : os.Started) (H : Type) (enc : TypeId × Value → H) (F : Stop.Interp) :
    ReturnsInHanded {} Tryd.checked os 6 .any ((OpenSpec.ofChange Rows.textKindsSpec).preRow enc Tryd.prog Tryd.f6 Rows.textKindsRow.domain false Rows.textKindsRow.laid) (((OpenSpec.ofChange Rows.textKindsSpec).at F).post enc Tryd.prog Tryd.f6 false true false false) := by
  obtain ⟨places, hx⟩ := reads os enc
  refine returnsInHanded_of_row (C := Tryd.checked) (s := OpenSpec.ofChange Rows.textKindsSpec) own started (by kernel_rfl) Tryd.func6
    (witness_row_at (enc := enc) (C := Tryd.checked) false (laidWorld os) #[.string ByteArray.empty, .int .u16 0] rfl (by kernel_rfl) (by kernel_rfl) (by kernel_rfl)
      (OpenSpec.preRow_of_cond 8 hx (by kernel_rfl) (fun k hk => by cases hk) (by kernel_rfl) (laid_met os))) ?_
  intro W base args ds gs before hval0 hW _ _ _ hL hsh _
  have hval : ∀ (j : Nat) t v, Tryd.f6.params[j]? = some t → args[j]? = some v → Value.okWide Tryd.prog W .any base t v := hval0
  have hW' := hW
  obtain ⟨p, q, hA0, hV, rfl, hfz, hnd⟩ := hW
  have hA : DataW.TrodAll enc Tryd.prog W 0 (fun _ => true) true Tryd.f6.params.toList args.toList ds p := hA0
  rw [Tryd.params6] at hA hval
  obtain ⟨v0, vs0, d0, ds0, p0, q0, hargs, rfl, rfl, h0, r0⟩ := trodAll_cons hA
  obtain ⟨v1, vs1, d1, ds1, p1, q1, rfl, rfl, rfl, h1, r1⟩ := trodAll_cons r0
  obtain ⟨rfl, rfl, rfl⟩ := trodAll_nil r1
  obtain rfl : args = #[v0, v1] := by cases args; simp_all
  obtain ⟨rfl, rfl⟩ := trodVars_none hV
  obtain ⟨a0, rfl, rfl, rfl, w0⟩ := open_string Tryd.underlying9 (hval 0 9 v0 rfl rfl) h0
  obtain ⟨a1, rfl, rfl, rfl, w1⟩ := open_int Tryd.underlying29 (hval 1 29 v1 rfl rfl) h1
  clear hA0 hval0
  refine (walk a0 a1 w0 w1 W (tabAt_of hL hsh)).mono fun e W' ⟨he, bel⟩ => ?_
  subst he
  exact ⟨_, rfl, _, _, _, [], _, [], hW', trodAll_mk1 (shut_bool Tryd.underlying4 _), (trodAll_cons_mk (shut_string Tryd.underlying9 w0) (trodAll_cons_mk (shut_int Tryd.underlying29 w1) trodAll_mk0)), rfl, bel.frame _, fun h => by cases h⟩

theorem said : Rows.TextKindsSaid :=
  OpenClaim.holds_of_cond 6 Tryd.f6 rfl rfl rfl rfl rfl rfl rfl ⟨rfl, rfl, rfl, rfl, rfl⟩ rfl rfl rfl rfl rfl (by kernel_rfl) Tryd.func6 (by kernel_rfl)
    (of_decide_eq_true (by kernel_rfl)) (by unfold Func.isWrapper; first | (rw [if_pos (by decide +kernel)]; kernel_rfl) | (rw [if_neg (by decide +kernel)]; exact ⟨rfl, rfl⟩))
    (fun os started H enc _ F => by rw [OpenClaim.pre_eq_preRow]; exact lifted os started H enc F)
theorem plain (f : FuncId) (fn : Func) (hf : Tryd.pinned.checked.prog.funcNamed "flail/flaillaw14.TextKinds" = some f) (hfn : Tryd.pinned.checked.prog.funcs[f]? = some fn) :
    true = Tryd.pinned.checked.prog.looks [] ∧ ∀ (j : Nat) t, fn.params[j]? = some t → Tryd.pinned.checked.prog.wantsStandIn t = false := by
  obtain rfl : f = 6 := Option.some.inj ((show Tryd.prog.funcNamed "flail/flaillaw14.TextKinds" = some 6 by kernel_rfl).symm.trans hf) |>.symm
  obtain rfl : fn = Tryd.f6 := (Option.some.inj (Tryd.func6.symm.trans hfn)).symm
  refine ⟨by kernel_rfl, fun j t ht => ?_⟩
  rw [Tryd.params6] at ht
  have hm : t ∈ [9, 29] := by first | simpa using Array.mem_of_getElem? ht | (have h := Array.mem_of_getElem? ht; simp at h ⊢; grind)
  have hall : ([9, 29].all fun u => !Tryd.prog.wantsStandIn u) = true := by kernel_rfl
  exact (show Tryd.prog.wantsStandIn t = false by simpa using List.all_eq_true.1 hall t hm)
/-- the statement: the row's card -/
theorem proved : Rows.TextKindsCardSaid :=
  Claim7.holds_tied_plain_at .later [] _ _ _ _ said (fun _ h => by cases h) (by kernel_rfl) (fun _ h => by cases h) textKinds_row_tie rfl ⟨rfl, rfl⟩ (by kernel_rfl) rfl plain (by kernel_rfl)
end Go.Proofs.YtcamkphanakkdaaDoor.textKinds
