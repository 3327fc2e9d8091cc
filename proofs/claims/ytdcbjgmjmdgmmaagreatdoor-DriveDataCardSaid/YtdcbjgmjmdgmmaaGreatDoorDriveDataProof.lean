/-
  The law DriveData of flail/flaillaw16 answers true for every input, and changes nothing that was there. Condition, which the card ties to the program's text: when the call begins, the package variables that the row lists hold what that text lays in them (math/bits.deBruijn32tab, math/bits.deBruijn64tab, internal/strconv.uint64pow10, strconv.ErrRange, strconv.ErrSyntax, flail/number.others).
-/
import Derived.Test.YtdcbjgmjmdgmmaaGreatDoorRows
import Derived.Test.YtdcbjgmjmdgmmaaGreatDoorDrvAwake
import Derived.Test.YtdcbjgmjmdgmmaaGreatDoorTkCode
import Derived.Test.YtdcbjgmjmdgmmaaGreatDoorCards
import Derived.Test.YtdcbjgmjmdgmmaaGreatDoorP6
import Derived.WalkKit
import Derived.ProofKit
import Derived.ChangeOld
import Derived.Below
import Derived.OpenShut
import Derived.ShutString
namespace Go.Proofs.YtdcbjgmjmdgmmaaGreatDoor.driveData
open Go.ChangeShapes Go.WideShapes Go.ChangeAt Go.RowKit
open Go.ChangeMaps (open_string shut_string)
set_option linter.unusedVariables false      -- a walk need not use every 'w<i>' (that an integer argument fits its kind)

theorem own : ownKnob Tryz.prog.godebug = none := by kernel_rfl

set_option maxRecDepth 100000 in
set_option maxHeartbeats 8000000 in
theorem walk (a0 : ByteArray) (w0 : a0.size ≤ maxLen) (w : World) (hT : LaidAt w) :
    Calls Tryz.prog 5 #[.string a0] w fun e w' => e = .returned (.bool true) ∧ Below w.heap.size w w' := by
  clear w0
  have HW := Lib.hid hT
  clear hT
  by_cases hlen : 300 < a0.size
  · have hc : decide ((300 : Int) < (a0.size : Int)) = true := decide_eq_true (by omega)
    clear hlen
    go_enter Tryz.func5, Tryz.ntmps5
    go_wp2_with (fail)
    refine (drvAwake_any w HW.out).mono ?_
    rintro e w1 ⟨rfl, c1⟩
    go_wp2
    go_ret
    exact ⟨rfl, c1⟩
  have d0 : decide ((300 : Int) < (a0.size : Int)) = false := decide_eq_false (by omega)
  have H1 := fun w h => Lib.hid (tokTok_any a0 0 ⟨#[]⟩ w (by omega) (by decide) (by decide) h)
  have H2 := fun w h => Lib.hid (drvDrive_any a0 w (by omega) h)
  have HD := Lib.hid (drv_data a0.data.toList)
  have HNL := Lib.hid (show ∀ t ∈ tokL 0 [] a0.data.toList, t.name.length ≤ 1048576 from fun t h => by have := tokL_name _ _ _ t h; rw [← Lib.size_eq] at this; omega)
  rw [show (⟨#[]⟩ : ByteArray).data.toList = [] from rfl] at H1
  obtain ⟨T, hT⟩ : ∃ T, tokL 0 [] a0.data.toList = T := ⟨_, rfl⟩
  obtain ⟨D, hD⟩ : ∃ D, drvL a0.data.toList = D := ⟨_, rfl⟩
  rw [hT] at H1 HD HNL
  rw [hD] at H2 HD
  clear hT hD hlen
  go_enter Tryz.func5, Tryz.ntmps5
  go_wp2_with (fail)
  refine (drvAwake_any w HW.out).mono ?_
  rintro e w1 ⟨rfl, c1⟩
  have B1 := Lib.hid c1
  clear c1
  go_wp2_with (fail)
  refine (H1 _ (HW.out.below B1.out)).out.mono ?_
  rintro e w2 ⟨x, l, c, rfl, t2, c2⟩
  have B2 := Lib.hid (B1.out.trans (c2.mono B1.out.size))
  have hll := t2.1
  have hm := t2.2.2.1
  have hlc := t2.2.1
  unfold maxLen at hm
  have T2 := Lib.hid t2.toks
  clear c2 t2
  go_wp2
  clear d0
  go_loopw [5] (fun v wr => ∃ i : Nat, v = .int .i64 (i : Int) ∧ i ≤ l ∧ Below w2.heap.size w2 wr ∧ Hid (∀ j (h : j < T.length), j < i → ¬ SpecT T[j])) (fun v _ => l - (intOf v).toNat)
  case atStart => exact ⟨0, rfl, Nat.zero_le _, Below.refl _ _, Lib.hid fun j _ h => absurd h (by omega)⟩
  case round =>
    obtain ⟨i, rfl, hi, hb, HS⟩ := hrel
    have HB := Lib.hid hb
    have B3 := Lib.hid (B2.out.trans (hb.mono B2.out.size))
    clear hb
    by_cases hlt : i < l
    · have hiT : i < T.length := by omega
      obtain ⟨x, ad, ln, cp, rfl, xc, -⟩ := T2.out.2.2.2 i hiT
      obtain ⟨x0, x1, -, -, -⟩ := (xc.below HB.out (Nat.le_refl _)).asked
      simp only at x0 x1
      obtain ⟨t, ht⟩ : ∃ t, T[i]'hiT = t := ⟨_, rfl⟩
      have hNL := HNL.out (T[i]'hiT) (List.getElem_mem hiT)
      rw [ht] at x0 x1 hNL
      have HNB := Lib.hid hNL
      clear hNL
      have HT' := Lib.hid ht
      obtain ⟨nm, hnm⟩ : ∃ nm : ByteArray, (⟨t.name.toArray⟩ : ByteArray) = nm := ⟨_, rfl⟩
      have hnm2 : nm.data.toList = t.name := by rw [← hnm, List.toList_toArray]
      rw [hnm] at x1
      obtain ⟨K, hK⟩ : ∃ K, t.kind = K := ⟨_, rfl⟩
      rw [hK] at x0
      have HN : Hid (¬ SpecT t → ∀ j (h : j < T.length), j < i + 1 → ¬ SpecT T[j]) := Lib.hid fun hn j h hj => by
        rcases Nat.lt_or_eq_of_le (Nat.le_of_lt_succ hj) with h1 | rfl
        · exact HS.out j h h1
        · rw [HT'.out]; exact hn
      clear xc ht hnm
      by_cases hk1 : K = 1
      · have HST := fun w h => Lib.hid (drvState_any nm w (by rw [Lib.size_eq, hnm2]; have := HNB.out; omega) h)
        rw [hnm2] at HST
        obtain ⟨st, hst⟩ : ∃ st, drvN t.name = st := ⟨_, rfl⟩
        rw [hst] at HST
        by_cases h0 : st = 0
        · have HN1 := Lib.hid (HN.out (fun e => e.2 (hst.trans h0)))
          subst h0
          subst hk1
          clear hst hnm2 hK
          go_wp2_with (fail)
          refine (HST _ (HW.out.below B3.out)).out.mono ?_
          rintro e w3 ⟨rfl, c3⟩
          have HB4 := Lib.hid (HB.out.trans (c3.mono HB.out.size))
          clear c3
          go_wp2
          go_roundw
          case rel => exact ⟨i + 1, by go_num, by omega, HB4.out, HN1⟩
          case measure => simp [intOf]; omega
        · have hst0 : (st == 0) = false := beq_eq_false_iff_ne.2 h0
          subst hk1
          clear hst hnm2 hK h0
          go_wp2_with (fail)
          refine (HST _ (HW.out.below B3.out)).out.mono ?_
          rintro e w3 ⟨rfl, c3⟩
          have B4 := Lib.hid (B3.out.trans (c3.mono B3.out.size))
          clear c3
          go_wp2
          go_ret
          exact ⟨rfl, B4.out⟩
      · have bk : (K == 1) = false := beq_eq_false_iff_ne.2 hk1
        have HN1 := Lib.hid (HN.out (fun e => hk1 (hK.symm.trans e.1)))
        clear hnm2 hK hk1
        go_wp2
        go_roundw
        case rel => exact ⟨i + 1, by go_num, by omega, HB.out, HN1⟩
        case measure => simp [intOf]; omega
    · have hD : D = T := HD.out (fun t ht => by
        obtain ⟨j, hj, rfl⟩ := List.getElem_of_mem ht
        exact HS.out j hj (by omega))
      rw [hD] at H2
      clear hD HD HS
      go_wp2_with (fail)
      refine (H2 _ (HW.out.below B3.out)).out.mono ?_
      rintro e w4 ⟨y, l', c', rfl, t4, c4⟩
      have B4 := Lib.hid (B3.out.trans (c4.mono B3.out.size))
      have T3 := Lib.hid ((T2.out.below HB.out (Nat.le_refl _)).below c4 (Nat.le_refl _))
      have HA := Lib.hid (refAll_any _ _ _ _ _ _ _ _ _ t4.toks T3.out)
      rw [decide_eq_true (rfl : T = T)] at HA
      clear c4 t4
      go_wp2_with (fail)
      refine HA.out.mono ?_
      rintro e w5 ⟨rfl, c5⟩
      go_wp2
      go_ret
      exact ⟨ret_bool (by simp), B4.out.trans (c5.mono B4.out.size)⟩
  -- go_wp2
  -- go_ret
  -- exact ⟨rfl, by repeat (first | exact Grown.refl _ | apply Grown.drew | apply Grown.alloc)⟩

theorem laid_met (os : Os) : laidMet Tryz.prog Rows.driveDataRow.laid ((laidWorld os).forCall (fun _ _ => 0) ⟨#[], #[.string ByteArray.empty], []⟩).memory :=
  laidMet_of_run' 8 (by kernel_rfl) (by kernel_rfl)
theorem reads (os : Os) {H : Type} (enc : TypeId × Value → H) : ∃ places, DataW.whole enc Tryz.prog ((laidWorld os).forCall (fun _ _ => 0) ⟨#[], #[.string ByteArray.empty], []⟩).memory Tryz.f5.params.toList Rows.driveDataSpec.vars false (#[.string ByteArray.empty] : Array Value).toList 8 = some ([.lit (.string [])], [], places) :=
  ⟨[], by kernel_rfl⟩
set_option maxRecDepth 100000 in
theorem lifted (os : Os) (started : os.Started) (H : Type) (enc : TypeId × Value → H) (F : Stop.Interp) :
    ReturnsInHanded {} Tryz.checked os 5 .any ((OpenSpec.ofChange Rows.driveDataSpec).preRow enc Tryz.prog Tryz.f5 Rows.driveDataRow.domain false Rows.driveDataRow.laid) (((OpenSpec.ofChange Rows.driveDataSpec).at F).post enc Tryz.prog Tryz.f5 false true false false) := by
  obtain ⟨places, hx⟩ := reads os enc
  refine returnsInHanded_of_row (C := Tryz.checked) (s := OpenSpec.ofChange Rows.driveDataSpec) own started (by kernel_rfl) Tryz.func5
    (witness_row_at (enc := enc) (C := Tryz.checked) false (laidWorld os) #[.string ByteArray.empty] rfl (by kernel_rfl) (by kernel_rfl) (by kernel_rfl)
      (OpenSpec.preRow_of_cond 8 hx (by kernel_rfl) (fun k hk => by cases hk) (by kernel_rfl) (laid_met os))) ?_
  intro W base args ds gs before hval0 hW _ _ _ hL hsh _
  have hval : ∀ (j : Nat) t v, Tryz.f5.params[j]? = some t → args[j]? = some v → Value.okWide Tryz.prog W .any base t v := hval0
  have hW' := hW
  obtain ⟨p, q, hA0, hV, rfl, hfz, hnd⟩ := hW
  have hA : DataW.TrodAll enc Tryz.prog W 0 (fun _ => true) true Tryz.f5.params.toList args.toList ds p := hA0
  rw [Tryz.params5] at hA hval
  obtain ⟨v0, vs0, d0, ds0, p0, q0, hargs, rfl, rfl, h0, r0⟩ := trodAll_cons hA
  obtain ⟨rfl, rfl, rfl⟩ := trodAll_nil r0
  obtain rfl : args = #[v0] := by cases args; simp_all
  obtain ⟨rfl, rfl⟩ := trodVars_none hV
  obtain ⟨a0, rfl, rfl, rfl, w0⟩ := open_string Tryz.underlying9 (hval 0 9 v0 rfl rfl) h0
  clear hA0 hval0
  refine (walk a0 w0 W (tabAt_of hL hsh)).mono fun e W' ⟨he, bel⟩ => ?_
  subst he
  exact ⟨_, rfl, _, _, _, [], _, [], hW', trodAll_mk1 (shut_bool Tryz.underlying4 _), (trodAll_cons_mk (shut_string Tryz.underlying9 w0) trodAll_mk0), rfl, bel.frame _, fun h => by cases h⟩

theorem said : Rows.DriveDataSaid :=
  OpenClaim.holds_of_cond 5 Tryz.f5 rfl rfl rfl rfl rfl rfl rfl ⟨rfl, rfl, rfl, rfl, rfl⟩ rfl rfl rfl rfl rfl (by kernel_rfl) Tryz.func5 (by kernel_rfl)
    (of_decide_eq_true (by kernel_rfl)) (by unfold Func.isWrapper; first | (rw [if_pos (by decide +kernel)]; kernel_rfl) | (rw [if_neg (by decide +kernel)]; exact ⟨rfl, rfl⟩))
    (fun os started H enc _ F => by rw [OpenClaim.pre_eq_preRow]; exact lifted os started H enc F)
theorem plain (f : FuncId) (fn : Func) (hf : Tryz.pinned.checked.prog.funcNamed "flail/flaillaw16.DriveData" = some f) (hfn : Tryz.pinned.checked.prog.funcs[f]? = some fn) :
    true = Tryz.pinned.checked.prog.looks [] ∧ ∀ (j : Nat) t, fn.params[j]? = some t → Tryz.pinned.checked.prog.wantsStandIn t = false := by
  obtain rfl : f = 5 := Option.some.inj ((show Tryz.prog.funcNamed "flail/flaillaw16.DriveData" = some 5 by kernel_rfl).symm.trans hf) |>.symm
  obtain rfl : fn = Tryz.f5 := (Option.some.inj (Tryz.func5.symm.trans hfn)).symm
  refine ⟨by kernel_rfl, fun j t ht => ?_⟩
  rw [Tryz.params5] at ht
  have hm : t ∈ [9] := by first | simpa using Array.mem_of_getElem? ht | (have h := Array.mem_of_getElem? ht; simp at h ⊢; grind)
  have hall : ([9].all fun u => !Tryz.prog.wantsStandIn u) = true := by kernel_rfl
  exact (show Tryz.prog.wantsStandIn t = false by simpa using List.all_eq_true.1 hall t hm)
/-- the statement: the row's card -/
theorem proved : Rows.DriveDataCardSaid :=
  Claim7.holds_tied_plain_at .later [] _ _ _ _ said (fun _ h => by cases h) (by kernel_rfl) (fun _ h => by cases h) driveData_row_tie rfl ⟨rfl, rfl⟩ (by kernel_rfl) rfl plain (by kernel_rfl)
end Go.Proofs.YtdcbjgmjmdgmmaaGreatDoor.driveData
