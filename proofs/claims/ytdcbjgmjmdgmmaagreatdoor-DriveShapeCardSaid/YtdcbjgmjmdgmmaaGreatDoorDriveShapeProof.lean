/-
  The law DriveShape of flail/flaillaw16 answers true for every input, and changes nothing that was there. Condition, which the card ties to the program's text: when the call begins, the package variables that the row lists hold what that text lays in them (math/bits.deBruijn32tab, math/bits.deBruijn64tab, internal/strconv.uint64pow10, strconv.ErrRange, strconv.ErrSyntax, flail/number.others).
-/
import Derived.Test.YtdcbjgmjmdgmmaaGreatDoorRows
import Derived.Test.YtdcbjgmjmdgmmaaGreatDoorDrvAwake
import Derived.Test.YtdcbjgmjmdgmmaaGreatDoorCards
import Derived.Test.YtdcbjgmjmdgmmaaGreatDoorP6
import Derived.WalkKit
import Derived.ProofKit
import Derived.ChangeOld
import Derived.Below
import Derived.OpenShut
import Derived.ShutString
namespace Go.Proofs.YtdcbjgmjmdgmmaaGreatDoor.driveShape
open Go.ChangeShapes Go.WideShapes Go.ChangeAt Go.RowKit
open Go.ChangeMaps (open_string shut_string)
set_option linter.unusedVariables false      -- a walk need not use every 'w<i>' (that an integer argument fits its kind)

theorem own : ownKnob Tryz.prog.godebug = none := by kernel_rfl

theorem drv_texts (s : Txt) (t : TokP) (h : t ∈ drvL s) (hk : t.kind = 0) : t.text ≠ [] := by
  rcases join_mem _ _ t h with ⟨h1, -⟩ | ⟨x, hx, rfl⟩
  · exact absurd hk h1
  · exact hx
set_option maxRecDepth 100000 in
set_option maxHeartbeats 8000000 in
theorem walk (a0 : ByteArray) (w0 : a0.size ≤ maxLen) (w : World) (hT : LaidAt w) :
    Calls Tryz.prog 4 #[.string a0] w fun e w' => e = .returned (.bool true) ∧ Below w.heap.size w w' := by
  clear w0
  have HW := Lib.hid hT
  clear hT
  by_cases hlen : 300 < a0.size
  · have hc : decide ((300 : Int) < (a0.size : Int)) = true := decide_eq_true (by omega)
    clear hlen
    go_enter Tryz.func4, Tryz.ntmps4
    go_wp2_with (fail)
    refine (drvAwake_any w HW.out).mono ?_
    rintro e w1 ⟨rfl, c1⟩
    go_wp2
    go_ret
    exact ⟨rfl, c1⟩
  have d0 : decide ((300 : Int) < (a0.size : Int)) = false := decide_eq_false (by omega)
  have H1 := fun w h => Lib.hid (drvDrive_any a0 w (by omega) h)
  have HSH := Lib.hid (shape_at _ (drv_shape a0.data.toList))
  have HPA := Lib.hid (parted_at (drv_parted a0.data.toList))
  have HTX := Lib.hid (drv_texts a0.data.toList)
  have HNL := Lib.hid (show ∀ t ∈ drvL a0.data.toList, t.name.length ≤ 1048576 from fun t h => by have := drv_name _ t h; rw [← Lib.size_eq] at this; omega)
  obtain ⟨T, hT⟩ : ∃ T, drvL a0.data.toList = T := ⟨_, rfl⟩
  rw [hT] at H1 HPA HTX HSH HNL
  clear hT hlen
  go_enter Tryz.func4, Tryz.ntmps4
  go_wp2_with (fail)
  refine (drvAwake_any w HW.out).mono ?_
  rintro e w1 ⟨rfl, c1⟩
  have B1 := Lib.hid c1
  clear c1
  go_wp2_with (fail)
  refine (H1 _ (HW.out.below B1.out)).out.mono ?_
  rintro e w2 ⟨x, l, c, rfl, t2, c2⟩
  have B2 := Lib.hid (B1.out.trans (c2.mono B1.out.size))
  have hll := t2.1
  have hm := t2.2.2.1
  have hlc := t2.2.1
  unfold maxLen at hm
  have T2 := Lib.hid t2.toks
  clear c2 t2 H1
  go_wp2
  clear d0
  go_loopw [5] (fun v wr => ∃ i : Nat, v = .int .i64 (i : Int) ∧ i ≤ l ∧ Below w2.heap.size w2 wr) (fun v _ => l - (intOf v).toNat)
  case atStart => exact ⟨0, rfl, Nat.zero_le _, Below.refl _ _⟩
  case round =>
    obtain ⟨i, rfl, hi, hb⟩ := hrel
    have HB := Lib.hid hb
    have B3 := Lib.hid (B2.out.trans (hb.mono B2.out.size))
    clear hb
    by_cases hlt : i < l
    · have hiT : i < T.length := by omega
      obtain ⟨x, ad, ln, cp, rfl, xc, -⟩ := T2.out.2.2.2 i hiT
      obtain ⟨x0, x1, x2, -, -⟩ := (xc.below HB.out (Nat.le_refl _)).asked
      simp only at x0 x1 x2
      have HC := Lib.hid (fun j (hj : j < T.length) => show ∃ ad ln cp, TokCells wr x j ⟨T[j], ad, ln, cp⟩ from by
        obtain ⟨y, ad, ln, cp, hy, yc, -⟩ := T2.out.2.2.2 j hj
        obtain rfl := Option.some.inj hy
        exact ⟨ad, ln, cp, yc.below HB.out (Nat.le_refl _)⟩)
      have hTX := HTX.out (T[i]'hiT) (List.getElem_mem hiT)
      have hNL := HNL.out (T[i]'hiT) (List.getElem_mem hiT)
      have hPA := HPA.out i
      have hSH := HSH.out i hiT
      obtain ⟨t, ht⟩ : ∃ t, T[i]'hiT = t := ⟨_, rfl⟩
      rw [ht] at x0 x1 x2 hTX hSH hNL
      have HNB := Lib.hid hNL
      clear hNL
      simp only [ht] at hPA
      obtain ⟨nm, hnm⟩ : ∃ nm : ByteArray, (⟨t.name.toArray⟩ : ByteArray) = nm := ⟨_, rfl⟩
      have hnm2 : nm.data.toList = t.name := by rw [← hnm, List.toList_toArray]
      rw [hnm] at x1
      have HNM := Lib.hid hnm
      obtain ⟨K, hK⟩ : ∃ K, t.kind = K := ⟨_, rfl⟩
      rw [hK] at x0 hPA hTX
      have hll2 : T.length = l := hll
      clear xc ht hnm
      obtain ⟨j, hj⟩ : ∃ j : Nat, (i : Int) + 1 = (j : Int) := ⟨i + 1, by omega⟩
      have hij : i + 1 = j := by omega
      by_cases hk0 : K = 0
      · obtain ⟨e1, e2, e3⟩ := not_empty t.text (hTX hk0)
        have HP2 := Lib.hid hPA
        subst hk0
        clear hSH hTX hPA hK hnm2
        by_cases hn : i + 1 < l
        · have hjT : j < T.length := by omega
          obtain ⟨ad', ln', cp', yc⟩ := HC.out j hjT
          obtain ⟨y0, -, -, -, -⟩ := yc.asked
          simp only at y0
          have hk2 : ((T[j]'hjT).kind == 0) = false := by
            rw [beq_eq_false_iff_ne]
            intro e
            subst hij
            exact HP2.out (by omega) ⟨rfl, e⟩
          generalize (T[j]'hjT).kind = K2 at y0 hk2
          clear yc HC HP2
          go_wp2
          go_roundw
          case rel => exact ⟨i + 1, by go_num, by omega, HB.out⟩
          case measure => simp [intOf]; omega
        · clear HC HP2
          go_wp2
          go_roundw
          case rel => exact ⟨i + 1, by go_num, by omega, HB.out⟩
          case measure => simp [intOf]; omega
      · have bk0 : (K == 0) = false := beq_eq_false_iff_ne.2 hk0
        by_cases hk1 : K = 1
        · have HST := fun w h => Lib.hid (drvState_any nm w (by rw [Lib.size_eq, hnm2]; have := HNB.out; omega) h)
          rw [hnm2] at HST
          obtain ⟨st, hst⟩ : ∃ st, drvN t.name = st := ⟨_, rfl⟩
          rw [hst] at HST
          subst hk1
          by_cases h0 : st = 0
          · subst h0
            clear hst hnm2 hK hSH hTX hPA HC hk0
            go_wp2_with (fail)
            refine (HST _ (HW.out.below B3.out)).out.mono ?_
            rintro e w3 ⟨rfl, c3⟩
            have HB4 := Lib.hid (HB.out.trans (c3.mono HB.out.size))
            clear c3
            go_wp2
            go_roundw
            case rel => exact ⟨i + 1, by go_num, by omega, HB4.out⟩
            case measure => simp [intOf]; omega
          · have hst0 : (st == 0) = false := beq_eq_false_iff_ne.2 h0
            have hways := hSH ⟨hK, fun e => h0 (hst.symm.trans e)⟩
            have HWY := Lib.hid hways
            clear hst hnm2 hK hSH hTX hPA hk0 hways h0
            have hb0 : wr.heap.size ≤ wr.heap.size := Nat.le_refl _
            go_wp2_with (fail)
            refine (HST _ (HW.out.below B3.out)).out.mono ?_
            rintro e w3 ⟨rfl, c3⟩
            have HB4 := Lib.hid (HB.out.trans (c3.mono HB.out.size))
            have X1 : w3.cell? ⟨(x.add (i * 5)).block, (x.add (i * 5)).off + 1, none⟩ = some (.string nm) := (c3.cell (by have := block_lt_of_cell x1; exact this)).trans x1
            have HC3 := Lib.hid (fun j (hj : j < T.length) => show ∃ ad ln cp, TokCells w3 x j ⟨T[j], ad, ln, cp⟩ from by
              obtain ⟨ad, ln, cp, h⟩ := HC.out j hj
              exact ⟨ad, ln, cp, h.below c3 (Nat.le_refl _)⟩)
            clear c3 HST HC x0 x1 x2
            rcases HWY.out with h1 | ⟨h1, h2, h3⟩ | ⟨h1, h2, h3⟩
            · have hjl : j = l := by omega
              clear HWY HC3
              go_wp2
              go_roundw
              case rel => exact ⟨i + 1, by go_num, by omega, HB4.out⟩
              case measure => simp [intOf]; omega
            · obtain ⟨ad', ln', cp', yc⟩ := HC3.out (i + 1) h1
              obtain ⟨y0, y1, -, -, -⟩ := yc.asked
              simp only at y0 y1
              rw [h2] at y0
              rw [h3, HNM.out] at y1
              rw [hij] at y0 y1
              have hjl : j < l := by omega
              clear HWY HC3 yc h1 h2 h3
              go_wp2
              (go_quiet (fail))
              go_wp2
              go_roundw
              case rel => exact ⟨i + 1, by go_num, by omega, HB4.out.trans (dr_below _ _ _)⟩
              case measure => simp [intOf]; omega
            · obtain ⟨ad', ln', cp', yc⟩ := HC3.out (i + 1) h1
              obtain ⟨y0, -, -, -, -⟩ := yc.asked
              simp only at y0
              rw [h2] at y0
              rw [hij] at y0
              have hjl : j < l := by omega
              obtain ⟨k, hk⟩ : ∃ k : Nat, (j : Int) + 1 = (k : Int) := ⟨j + 1, by omega⟩
              rcases h3 with h3 | ⟨h3, h4, h5⟩
              · have hkl : k = l := by omega
                clear HWY HC3 yc h1 h2 h3
                go_wp2
                go_roundw
                case rel => exact ⟨i + 1, by go_num, by omega, HB4.out⟩
                case measure => simp [intOf]; omega
              · obtain ⟨ad2, ln2, cp2, zc⟩ := HC3.out (i + 2) h3
                obtain ⟨z0, z1, -, -, -⟩ := zc.asked
                simp only at z0 z1
                rw [h4] at z0
                rw [h5, HNM.out] at z1
                have hik : i + 2 = k := by omega
                rw [hik] at z0 z1
                have hkl : k < l := by omega
                clear HWY HC3 yc zc h1 h2 h3 h4 h5 hik
                go_wp2
                (go_quiet (fail))
                go_wp2
                go_roundw
                case rel => exact ⟨i + 1, by go_num, by omega, HB4.out.trans (dr_below _ _ _)⟩
                case measure => simp [intOf]; omega
        · have bk : (K == 1) = false := beq_eq_false_iff_ne.2 hk1
          have bk1 : (K != 1) = true := by rw [bne, bk]; rfl
          clear hnm2 hK hk1 hSH hTX hPA HC hk0
          go_wp2
          go_roundw
          case rel => exact ⟨i + 1, by go_num, by omega, HB.out⟩
          case measure => simp [intOf]; omega
    · go_wp2
      go_ret
      exact ⟨rfl, B3.out⟩
  -- go_wp2
  -- go_ret
  -- exact ⟨rfl, by repeat (first | exact Grown.refl _ | apply Grown.drew | apply Grown.alloc)⟩

theorem laid_met (os : Os) : laidMet Tryz.prog Rows.driveShapeRow.laid ((laidWorld os).forCall (fun _ _ => 0) ⟨#[], #[.string ByteArray.empty], []⟩).memory :=
  laidMet_of_run' 8 (by kernel_rfl) (by kernel_rfl)
theorem reads (os : Os) {H : Type} (enc : TypeId × Value → H) : ∃ places, DataW.whole enc Tryz.prog ((laidWorld os).forCall (fun _ _ => 0) ⟨#[], #[.string ByteArray.empty], []⟩).memory Tryz.f4.params.toList Rows.driveShapeSpec.vars false (#[.string ByteArray.empty] : Array Value).toList 8 = some ([.lit (.string [])], [], places) :=
  ⟨[], by kernel_rfl⟩
set_option maxRecDepth 100000 in
theorem lifted (os : Os) (started : os.Started) (H : Type) (enc : TypeId × Value → H) (F : Stop.Interp) :
    ReturnsInHanded {} Tryz.checked os 4 .any ((OpenSpec.ofChange Rows.driveShapeSpec).preRow enc Tryz.prog Tryz.f4 Rows.driveShapeRow.domain false Rows.driveShapeRow.laid) (((OpenSpec.ofChange Rows.driveShapeSpec).at F).post enc Tryz.prog Tryz.f4 false true false false) := by
  obtain ⟨places, hx⟩ := reads os enc
  refine returnsInHanded_of_row (C := Tryz.checked) (s := OpenSpec.ofChange Rows.driveShapeSpec) own started (by kernel_rfl) Tryz.func4
    (witness_row_at (enc := enc) (C := Tryz.checked) false (laidWorld os) #[.string ByteArray.empty] rfl (by kernel_rfl) (by kernel_rfl) (by kernel_rfl)
      (OpenSpec.preRow_of_cond 8 hx (by kernel_rfl) (fun k hk => by cases hk) (by kernel_rfl) (laid_met os))) ?_
  intro W base args ds gs before hval0 hW _ _ _ hL hsh _
  have hval : ∀ (j : Nat) t v, Tryz.f4.params[j]? = some t → args[j]? = some v → Value.okWide Tryz.prog W .any base t v := hval0
  have hW' := hW
  obtain ⟨p, q, hA0, hV, rfl, hfz, hnd⟩ := hW
  have hA : DataW.TrodAll enc Tryz.prog W 0 (fun _ => true) true Tryz.f4.params.toList args.toList ds p := hA0
  rw [Tryz.params4] at hA hval
  obtain ⟨v0, vs0, d0, ds0, p0, q0, hargs, rfl, rfl, h0, r0⟩ := trodAll_cons hA
  obtain ⟨rfl, rfl, rfl⟩ := trodAll_nil r0
  obtain rfl : args = #[v0] := by cases args; simp_all
  obtain ⟨rfl, rfl⟩ := trodVars_none hV
  obtain ⟨a0, rfl, rfl, rfl, w0⟩ := open_string Tryz.underlying9 (hval 0 9 v0 rfl rfl) h0
  clear hA0 hval0
  refine (walk a0 w0 W (tabAt_of hL hsh)).mono fun e W' ⟨he, bel⟩ => ?_
  subst he
  exact ⟨_, rfl, _, _, _, [], _, [], hW', trodAll_mk1 (shut_bool Tryz.underlying4 _), (trodAll_cons_mk (shut_string Tryz.underlying9 w0) trodAll_mk0), rfl, bel.frame _, fun h => by cases h⟩

theorem said : Rows.DriveShapeSaid :=
  OpenClaim.holds_of_cond 4 Tryz.f4 rfl rfl rfl rfl rfl rfl rfl ⟨rfl, rfl, rfl, rfl, rfl⟩ rfl rfl rfl rfl rfl (by kernel_rfl) Tryz.func4 (by kernel_rfl)
    (of_decide_eq_true (by kernel_rfl)) (by unfold Func.isWrapper; first | (rw [if_pos (by decide +kernel)]; kernel_rfl) | (rw [if_neg (by decide +kernel)]; exact ⟨rfl, rfl⟩))
    (fun os started H enc _ F => by rw [OpenClaim.pre_eq_preRow]; exact lifted os started H enc F)
theorem plain (f : FuncId) (fn : Func) (hf : Tryz.pinned.checked.prog.funcNamed "flail/flaillaw16.DriveShape" = some f) (hfn : Tryz.pinned.checked.prog.funcs[f]? = some fn) :
    true = Tryz.pinned.checked.prog.looks [] ∧ ∀ (j : Nat) t, fn.params[j]? = some t → Tryz.pinned.checked.prog.wantsStandIn t = false := by
  obtain rfl : f = 4 := Option.some.inj ((show Tryz.prog.funcNamed "flail/flaillaw16.DriveShape" = some 4 by kernel_rfl).symm.trans hf) |>.symm
  obtain rfl : fn = Tryz.f4 := (Option.some.inj (Tryz.func4.symm.trans hfn)).symm
  refine ⟨by kernel_rfl, fun j t ht => ?_⟩
  rw [Tryz.params4] at ht
  have hm : t ∈ [9] := by first | simpa using Array.mem_of_getElem? ht | (have h := Array.mem_of_getElem? ht; simp at h ⊢; grind)
  have hall : ([9].all fun u => !Tryz.prog.wantsStandIn u) = true := by kernel_rfl
  exact (show Tryz.prog.wantsStandIn t = false by simpa using List.all_eq_true.1 hall t hm)
/-- the statement: the row's card -/
theorem proved : Rows.DriveShapeCardSaid :=
  Claim7.holds_tied_plain_at .later [] _ _ _ _ said (fun _ h => by cases h) (by kernel_rfl) (fun _ h => by cases h) driveShape_row_tie rfl ⟨rfl, rfl⟩ (by kernel_rfl) rfl plain (by kernel_rfl)
end Go.Proofs.YtdcbjgmjmdgmmaaGreatDoor.driveShape
