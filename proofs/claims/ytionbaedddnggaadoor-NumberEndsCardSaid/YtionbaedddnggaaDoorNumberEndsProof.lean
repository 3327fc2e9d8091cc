/-
  The law NumberEnds of flail/flaillaw04 answers true for every input, and changes nothing that was there. Condition, which the card ties to the program's text: when the call begins, the package variable that the row lists holds what that text lays in it (flail/number.others).
-/
import Derived.Test.YtionbaedddnggaaDoorRows
import Derived.Test.YtionbaedddnggaaDoorNumList
import Derived.Test.YtionbaedddnggaaDoorCards
import Derived.Test.YtionbaedddnggaaDoorNumLaid
import Derived.WalkKit
import Derived.ProofKit
import Derived.ChangeOld
import Derived.Below
import Derived.OpenShut
import Derived.ShutString
namespace Go.Proofs.YtionbaedddnggaaDoor.numberEnds
open Go.ChangeShapes Go.WideShapes Go.ChangeAt Go.RowKit
open Go.ChangeMaps (open_string shut_string)
set_option linter.unusedVariables false      -- a walk need not use every 'w<i>' (that an integer argument fits its kind)

theorem own : ownKnob Tryd.prog.godebug = none := by kernel_rfl

set_option maxRecDepth 100000 in
set_option maxHeartbeats 1000000 in
theorem walk (a0 : ByteArray) (a1 : Int) (w0 : a0.size ≤ maxLen) (w1 : (Lit.int .u16 a1).wf = true) (w : World) (hT : TabAt w) :
    Calls Tryd.prog 7 #[.string a0, .int .u16 a1] w fun e w' => e = .returned (.bool true) ∧ Below w.heap.size w w' := by
  have hb1 : 0 ≤ a1 ∧ a1 ≤ 65535 := by simpa [Lit.wf, IntKind.min, IntKind.max, IntKind.signed, IntKind.bits] using w1
  obtain ⟨h10, h11⟩ := hb1
  clear w0 w1
  by_cases hlen : 300 < a0.size
  · go_enter Tryd.func7, Tryd.ntmps7
    go_wp2_with (fail)
    refine (awakeB w hT).mono ?_
    rintro e w1 ⟨rfl, hb1⟩
    go_wp2
    go_ret
    exact ⟨rfl, hb1⟩
  have hs : a0.size ≤ 1099511627776 := by omega
  have hk0 : 0 ≤ a1 % ((a0.size : Int) + 1) := Int.emod_nonneg _ (by omega)
  have hk1 : a1 % ((a0.size : Int) + 1) < (a0.size : Int) + 1 := Int.emod_lt_of_pos _ (by omega)
  obtain ⟨k, hk⟩ : ∃ k : Nat, a1 % ((a0.size : Int) + 1) = k := ⟨(a1 % ((a0.size : Int) + 1)).toNat, by omega⟩
  have hkl : k ≤ a0.size := by omega
  have HK := Lib.hid hk
  clear hk
  have g1 : (k : Int) ≤ 9223372036854775807 := by omega
  have g2 : -9223372036854775808 ≤ (k : Int) := by omega
  by_cases hr : isRef a0.data.toList (k : Int) = true
  · obtain ⟨hc1, hc2, hc3⟩ := cut_ref a0.data.toList k hr
    have ht1 := txtR_yes hr
    have hn1 := nxtR_yes hr
    obtain ⟨E, hE⟩ : ∃ E, endN a0.data.toList k = E := ⟨_, rfl⟩
    obtain ⟨hE1, hE2, hst⟩ := ref_stop' a0 k E hr hE
    have ht2 := txtR_yes hc1
    have hn2 := nxtR_yes hc1
    rw [hc2] at ht2
    rw [hc3] at hn2
    rw [hE] at hn1 hn2 ht2 hc1
    have hfl := fixS_len (refN a0.data.toList k)
    obtain ⟨T, hT1⟩ : ∃ T, fixS (refN a0.data.toList k) = T := ⟨_, rfl⟩
    rw [hT1] at ht1 ht2 hfl
    have hpre : (a0.extract 0 E).data.toList = a0.data.toList.take E := by rw [Lib.extract_data, List.drop_zero, Nat.sub_zero]
    have HP := Lib.hid hpre
    have HT1 := Lib.hid ht1
    have HT2 := Lib.hid ht2
    have HN1 := Lib.hid hn1
    have HN2 := Lib.hid hn2
    have HR1 := Lib.hid hr
    have HR2 := Lib.hid hc1
    obtain ⟨f1, f2⟩ := hfl
    have i1 : (k : Int) + 1 < (E : Int) := by omega
    have i2 : (E : Int) ≤ (a0.size : Int) := by omega
    have i3 : (0 : Int) ≤ (E : Int) - 1 := by omega
    have i4 : (E : Int) - 1 < (a0.size : Int) := by omega
    have i5 : ((E : Int) - 1).toNat = E - 1 := by omega
    have i6 : E - 1 < a0.size := by omega
    have f1i : (1 : Int) ≤ (T.size : Int) := by omega
    have f2i : (T.size : Int) ≤ 4 := by omega
    have hX : (a0.extract 0 E).size ≤ 1099511627776 := by rw [ByteArray.size_extract]; omega
    have HX := Lib.hid hX
    have HST := Lib.hid hst
    clear hr hc1 hc2 hc3 ht1 hn1 hE ht2 hn2 hT1 hpre hX hst
    by_cases q1 : ((a0[E - 1].toNat : Nat) : Int) = 59
    · have b1 : (((a0[E - 1].toNat : Nat) : Int) != 59) = false := by rw [q1]; rfl
      clear q1
      go_enter Tryd.func7, Tryd.ntmps7
      go_wp2_with (fail)
      refine (awake_any w hT).mono ?_
      rintro e w1 ⟨rfl, n1, rfl⟩
      go_wp2_with (fail)
      rw [HK.out]
      clear hk0 hk1
      refine (read a0 k _ hs g2 g1 (hT.drawn _)).mono ?_
      rintro e w1 ⟨rfl, n2, rfl⟩
      rw [HT1.out, HN1.out, HR1.out]
      go_wp2_with (fail)
      refine (read (a0.extract 0 E) k _ HX.out g2 g1 (hT.drawn _)).mono ?_
      rintro e w1 ⟨rfl, n3, rfl⟩
      rw [HP.out, HT2.out, HN2.out, HR2.out]
      go_wp2
      go_ret
      exact ⟨ret_bool (by simp), below_drewN4 _ _ _⟩
    · have b1 : (((a0[E - 1].toNat : Nat) : Int) != 59) = true := bne_iff_ne.2 q1
      by_cases q2 : E < a0.size
      · have i7 : (E : Int) < (a0.size : Int) := by omega
        obtain ⟨s1, s2⟩ := HST.out i6 q2 q1
        have s3 : (((a0[E].toNat : Nat) : Int) == 59) = false := beq_eq_false_iff_ne.2 s2
        clear q1 s2
        by_cases q3 : ((a0[E].toNat : Nat) : Int) < 48
        · clear s1
          go_enter Tryd.func7, Tryd.ntmps7
          go_wp2_with (fail)
          refine (awake_any w hT).mono ?_
          rintro e w1 ⟨rfl, n1, rfl⟩
          go_wp2_with (fail)
          rw [HK.out]
          clear hk0 hk1
          refine (read a0 k _ hs g2 g1 (hT.drawn _)).mono ?_
          rintro e w1 ⟨rfl, n2, rfl⟩
          rw [HT1.out, HN1.out, HR1.out]
          go_wp2_with (fail)
          refine (read (a0.extract 0 E) k _ HX.out g2 g1 (hT.drawn _)).mono ?_
          rintro e w1 ⟨rfl, n3, rfl⟩
          rw [HP.out, HT2.out, HN2.out, HR2.out]
          go_wp2
          go_ret
          exact ⟨ret_bool (by simp), below_drewN4 _ _ _⟩
        · have q4 : 57 < ((a0[E].toNat : Nat) : Int) := by omega
          have q5 : 48 ≤ ((a0[E].toNat : Nat) : Int) := by omega
          clear s1 q3
          go_enter Tryd.func7, Tryd.ntmps7
          go_wp2_with (fail)
          refine (awake_any w hT).mono ?_
          rintro e w1 ⟨rfl, n1, rfl⟩
          go_wp2_with (fail)
          rw [HK.out]
          clear hk0 hk1
          refine (read a0 k _ hs g2 g1 (hT.drawn _)).mono ?_
          rintro e w1 ⟨rfl, n2, rfl⟩
          rw [HT1.out, HN1.out, HR1.out]
          go_wp2_with (fail)
          refine (read (a0.extract 0 E) k _ HX.out g2 g1 (hT.drawn _)).mono ?_
          rintro e w1 ⟨rfl, n3, rfl⟩
          rw [HP.out, HT2.out, HN2.out, HR2.out]
          go_wp2
          go_ret
          exact ⟨ret_bool (by simp), below_drewN4 _ _ _⟩
      · have i7 : (a0.size : Int) ≤ (E : Int) := by omega
        clear q1 q2
        go_enter Tryd.func7, Tryd.ntmps7
        go_wp2_with (fail)
        refine (awake_any w hT).mono ?_
        rintro e w1 ⟨rfl, n1, rfl⟩
        go_wp2_with (fail)
        rw [HK.out]
        clear hk0 hk1
        refine (read a0 k _ hs g2 g1 (hT.drawn _)).mono ?_
        rintro e w1 ⟨rfl, n2, rfl⟩
        rw [HT1.out, HN1.out, HR1.out]
        go_wp2_with (fail)
        refine (read (a0.extract 0 E) k _ HX.out g2 g1 (hT.drawn _)).mono ?_
        rintro e w1 ⟨rfl, n3, rfl⟩
        rw [HP.out, HT2.out, HN2.out, HR2.out]
        go_wp2
        go_ret
        exact ⟨ret_bool (by simp), below_drewN4 _ _ _⟩
  · have hr' : isRef a0.data.toList (k : Int) = false := by simpa using hr
    have HT1 := Lib.hid (txtR_no hr')
    have HN1 := Lib.hid (nxtR_no hr')
    have HR1 := Lib.hid hr'
    clear hr hr'
    go_enter Tryd.func7, Tryd.ntmps7
    go_wp2_with (fail)
    refine (awake_any w hT).mono ?_
    rintro e w1 ⟨rfl, n1, rfl⟩
    go_wp2_with (fail)
    rw [HK.out]
    clear hk0 hk1
    refine (read a0 k _ hs g2 g1 (hT.drawn _)).mono ?_
    rintro e w1 ⟨rfl, n2, rfl⟩
    rw [HT1.out, HN1.out, HR1.out]
    go_wp2
    go_ret
    exact ⟨ret_bool (by simp), below_drewN4 _ _ _⟩
  -- go_wp2
  -- go_ret
  -- exact ⟨rfl, by repeat (first | exact Grown.refl _ | apply Grown.drew | apply Grown.alloc)⟩

theorem laid_met (os : Os) : laidMet Tryd.prog Rows.numberEndsRow.laid ((laidWorld os).forCall (fun _ _ => 0) ⟨#[], #[.string ByteArray.empty, .int .u16 0], []⟩).memory :=
  laidMet_of_run' 8 (by kernel_rfl) (by kernel_rfl)
theorem reads (os : Os) {H : Type} (enc : TypeId × Value → H) : ∃ places, DataW.whole enc Tryd.prog ((laidWorld os).forCall (fun _ _ => 0) ⟨#[], #[.string ByteArray.empty, .int .u16 0], []⟩).memory Tryd.f7.params.toList Rows.numberEndsSpec.vars false (#[.string ByteArray.empty, .int .u16 0] : Array Value).toList 8 = some ([.lit (.string []), .lit (.int .u16 0)], [], places) :=
  ⟨[], by kernel_rfl⟩
set_option maxRecDepth 100000 in
theorem lifted (os : Os) (started : os.Started) (H : Type) (enc : TypeId × Value → H) (F : Stop.Interp) :
    ReturnsInHanded {} Tryd.checked os 7 .any ((OpenSpec.ofChange Rows.numberEndsSpec).preRow enc Tryd.prog Tryd.f7 Rows.numberEndsRow.domain false Rows.numberEndsRow.laid) (((OpenSpec.ofChange Rows.numberEndsSpec).at F).post enc Tryd.prog Tryd.f7 false true false false) := by
  obtain ⟨places, hx⟩ := reads os enc
  refine returnsInHanded_of_row (C := Tryd.checked) (s := OpenSpec.ofChange Rows.numberEndsSpec) own started (by kernel_rfl) Tryd.func7
    (witness_row_at (enc := enc) (C := Tryd.checked) false (laidWorld os) #[.string ByteArray.empty, .int .u16 0] rfl (by kernel_rfl) (by kernel_rfl) (by kernel_rfl)
      (OpenSpec.preRow_of_cond 8 hx (by kernel_rfl) (fun k hk => by cases hk) (by kernel_rfl) (laid_met os))) ?_
  intro W base args ds gs before hval0 hW _ _ _ hL _ _
  have hval : ∀ (j : Nat) t v, Tryd.f7.params[j]? = some t → args[j]? = some v → Value.okWide Tryd.prog W .any base t v := hval0
  have hW' := hW
  obtain ⟨p, q, hA0, hV, rfl, hfz, hnd⟩ := hW
  have hA : DataW.TrodAll enc Tryd.prog W 0 (fun _ => true) true Tryd.f7.params.toList args.toList ds p := hA0
  rw [Tryd.params7] at hA hval
  obtain ⟨v0, vs0, d0, ds0, p0, q0, hargs, rfl, rfl, h0, r0⟩ := trodAll_cons hA
  obtain ⟨v1, vs1, d1, ds1, p1, q1, rfl, rfl, rfl, h1, r1⟩ := trodAll_cons r0
  obtain ⟨rfl, rfl, rfl⟩ := trodAll_nil r1
  obtain rfl : args = #[v0, v1] := by cases args; simp_all
  obtain ⟨rfl, rfl⟩ := trodVars_none hV
  obtain ⟨a0, rfl, rfl, rfl, w0⟩ := open_string Tryd.underlying9 (hval 0 9 v0 rfl rfl) h0
  obtain ⟨a1, rfl, rfl, rfl, w1⟩ := open_int Tryd.underlying33 (hval 1 33 v1 rfl rfl) h1
  clear hA0 hval0
  refine (walk a0 a1 w0 w1 W (tabAt_of hL)).mono fun e W' ⟨he, bel⟩ => ?_
  subst he
  exact ⟨_, rfl, _, _, _, [], _, [], hW', trodAll_mk1 (shut_bool Tryd.underlying4 _), (trodAll_cons_mk (shut_string Tryd.underlying9 w0) (trodAll_cons_mk (shut_int Tryd.underlying33 w1) trodAll_mk0)), rfl, bel.frame _, fun h => by cases h⟩

theorem said : Rows.NumberEndsSaid :=
  OpenClaim.holds_of_cond 7 Tryd.f7 rfl rfl rfl rfl rfl rfl rfl ⟨rfl, rfl, rfl, rfl, rfl⟩ rfl rfl rfl rfl rfl (by kernel_rfl) Tryd.func7 (by kernel_rfl)
    (of_decide_eq_true (by kernel_rfl)) (by unfold Func.isWrapper; first | (rw [if_pos (by decide +kernel)]; kernel_rfl) | (rw [if_neg (by decide +kernel)]; exact ⟨rfl, rfl⟩))
    (fun os started H enc _ F => by rw [OpenClaim.pre_eq_preRow]; exact lifted os started H enc F)
theorem plain (f : FuncId) (fn : Func) (hf : Tryd.pinned.checked.prog.funcNamed "flail/flaillaw04.NumberEnds" = some f) (hfn : Tryd.pinned.checked.prog.funcs[f]? = some fn) :
    false = Tryd.pinned.checked.prog.looks [] ∧ ∀ (j : Nat) t, fn.params[j]? = some t → Tryd.pinned.checked.prog.wantsStandIn t = false := by
  obtain rfl : f = 7 := Option.some.inj ((show Tryd.prog.funcNamed "flail/flaillaw04.NumberEnds" = some 7 by kernel_rfl).symm.trans hf) |>.symm
  obtain rfl : fn = Tryd.f7 := (Option.some.inj (Tryd.func7.symm.trans hfn)).symm
  refine ⟨by kernel_rfl, fun j t ht => ?_⟩
  rw [Tryd.params7] at ht
  have hm : t ∈ [9, 33] := by simpa using Array.mem_of_getElem? ht
  have hall : ([9, 33].all fun u => !Tryd.prog.wantsStandIn u) = true := by kernel_rfl
  exact (show Tryd.prog.wantsStandIn t = false by simpa using List.all_eq_true.1 hall t hm)
/-- the statement: the row's card -/
theorem proved : Rows.NumberEndsCardSaid :=
  Claim7.holds_tied_plain_at .later [] _ _ _ _ said (fun _ h => by cases h) (by kernel_rfl) (fun _ h => by cases h) numberEnds_row_tie rfl ⟨rfl, rfl⟩ (by kernel_rfl) rfl plain (by kernel_rfl)
end Go.Proofs.YtionbaedddnggaaDoor.numberEnds
