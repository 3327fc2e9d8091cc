/-
  The law DriveStates of flail/flaillaw16 answers true for every input, and changes nothing that was there. Condition, which the card ties to the program's text: when the call begins, the package variables that the row lists hold what that text lays in them (math/bits.deBruijn32tab, math/bits.deBruijn64tab, internal/strconv.uint64pow10, strconv.ErrRange, strconv.ErrSyntax, flail/number.others).
-/
import Derived.Test.YtdcbjgmjmdgmmaaGreatDoorRows
import Derived.Test.YtdcbjgmjmdgmmaaGreatDoorDrvAwake
import Derived.Test.YtdcbjgmjmdgmmaaGreatDoorCards
import Derived.Test.YtdcbjgmjmdgmmaaGreatDoorP6
import Derived.WalkKit
import Derived.ProofKit
import Derived.ChangeOld
import Derived.Below
import Derived.OpenShut
import Derived.ShutString
namespace Go.Proofs.YtdcbjgmjmdgmmaaGreatDoor.driveStates
open Go.ChangeShapes Go.WideShapes Go.ChangeAt Go.RowKit
open Go.ChangeMaps (open_string shut_string)
set_option linter.unusedVariables false      -- a walk need not use every 'w<i>' (that an integer argument fits its kind)

theorem own : ownKnob Tryz.prog.godebug = none := by kernel_rfl

def nmCells : Array Value := #[.string ⟨#[116, 105, 116, 108, 101]⟩, .string ⟨#[116, 101, 120, 116, 97, 114, 101, 97]⟩, .string ⟨#[115, 116, 121, 108, 101]⟩, .string ⟨#[120, 109, 112]⟩, .string ⟨#[105, 102, 114, 97, 109, 101]⟩, .string ⟨#[110, 111, 101, 109, 98, 101, 100]⟩, .string ⟨#[110, 111, 102, 114, 97, 109, 101, 115]⟩, .string ⟨#[110, 111, 115, 99, 114, 105, 112, 116]⟩, .string ⟨#[115, 99, 114, 105, 112, 116]⟩, .string ⟨#[112, 108, 97, 105, 110, 116, 101, 120, 116]⟩]
theorem nm_cell (i : Nat) (h : i < stTab.length) : nmCells[i]? = some (.string ⟨stTab[i].1.toArray⟩) := by
  have h10 : i < 10 := h
  match i, h10 with
  | 0, _ => rfl
  | 1, _ => rfl
  | 2, _ => rfl
  | 3, _ => rfl
  | 4, _ => rfl
  | 5, _ => rfl
  | 6, _ => rfl
  | 7, _ => rfl
  | 8, _ => rfl
  | 9, _ => rfl
theorem st_apart : ∀ p ∈ stTab, ∀ q ∈ stTab, p.1.isPrefixOf q.1 = true → p.1.length = q.1.length := by decide +kernel
theorem st_more (p : Txt × Int) (hp : p ∈ stTab) (nm : Txt) (h : nm ≠ []) : drvN (p.1 ++ nm) = 0 := by
  rcases st_cases (p.1 ++ nm) with ⟨q, hq, e, -⟩ | ⟨-, e⟩
  · have h1 := st_apart p hp q hq (by rw [e]; exact List.isPrefixOf_iff_prefix.2 (List.prefix_append _ _))
    rw [e, List.length_append] at h1
    exact absurd (List.eq_nil_of_length_eq_zero (by omega)) h
  · exact e
theorem st_any (nm : Txt) : stTab.any (fun p => decide (p.1 = nm)) = (drvN nm != 0) := by
  rcases st_cases nm with ⟨p, hp, e, h⟩ | ⟨hn, h⟩
  · have h1 := (st_tab p hp).1
    rw [h, List.any_eq_true.2 ⟨p, hp, decide_eq_true e⟩]
    exact (bne_iff_ne.2 (by omega)).symm
  · rw [h, List.any_eq_false.2 (fun p hp => by rw [decide_eq_true_eq]; exact hn p hp)]; rfl
theorem any_step (nm : Txt) (i : Nat) (h : i < stTab.length) : (stTab.take (i + 1)).any (fun p => decide (p.1 = nm)) = ((stTab.take i).any (fun p => decide (p.1 = nm)) || decide (stTab[i].1 = nm)) := by
  rw [List.take_succ_eq_append_getElem h, List.any_append]
  simp
set_option maxRecDepth 100000 in
set_option maxHeartbeats 8000000 in
theorem walk (a0 : ByteArray) (w0 : a0.size ≤ maxLen) (w : World) (hT : LaidAt w) :
    Calls Tryz.prog 7 #[.string a0] w fun e w' => e = .returned (.bool true) ∧ Below w.heap.size w w' := by
  clear w0
  have HW := Lib.hid hT
  clear hT
  by_cases hlen : 60 < a0.size
  · have hc : decide ((60 : Int) < (a0.size : Int)) = true := decide_eq_true (by omega)
    clear hlen
    go_enter Tryz.func7, Tryz.ntmps7
    go_wp2_with (fail)
    refine (drvAwake_any w HW.out).mono ?_
    rintro e w1 ⟨rfl, c1⟩
    go_wp2
    go_ret
    exact ⟨rfl, c1⟩
  have d0 : decide ((60 : Int) < (a0.size : Int)) = false := decide_eq_false (by omega)
  have hs0 : a0.size ≤ 60 := by omega
  obtain ⟨nm, hnm⟩ : ∃ nm, a0.data.toList = nm := ⟨_, rfl⟩
  have HNM := Lib.hid hnm
  have HST := fun w h => Lib.hid (drvState_any a0 w (by omega) h)
  rw [hnm] at HST
  obtain ⟨K, hK⟩ : ∃ K, drvN nm = K := ⟨_, rfl⟩
  rw [hK] at HST
  have hr := st_range nm
  rw [hK] at hr
  have HA := Lib.hid (st_any nm)
  rw [hK] at HA
  have htl : a0.toList = nm := by rw [ByteArray.toList_eq]; exact hnm
  have HTL := Lib.hid htl
  clear hlen hnm hK htl
  go_enter Tryz.func7, Tryz.ntmps7
  go_wp2_with (fail)
  refine (drvAwake_any w HW.out).mono ?_
  rintro e w1 ⟨rfl, c1⟩
  have B1 := Lib.hid c1
  have hb1 := c1.size
  clear c1
  go_wp2
  clear d0
  go_loopw [5, 6] (fun v5 v6 wr => ∃ (i : Nat) (B : Bool), v6 = .int .i64 (i : Int) ∧ v5 = .bool B ∧ i ≤ 10 ∧ wr.heap[w1.heap.size]? = some (.cells nmCells 9 (0, 0)) ∧ Below w.heap.size w wr ∧ Hid (B = (stTab.take i).any (fun p => decide (p.1 = nm)))) (fun _ v _ => 10 - (intOf v).toNat)
  case atStart => exact ⟨0, false, rfl, rfl, Nat.zero_le _, heap_alloc_new w1 _, B1.out.alloc hb1 _, Lib.hid rfl⟩
  case round =>
    obtain ⟨i, B, rfl, rfl, hi, hh, hb, HS⟩ := hrel
    have HH := Lib.hid hh
    have HB := Lib.hid hb
    clear hh hb
    by_cases hlt : i < 10
    · have hiT : i < stTab.length := hlt
      have hcell : wr.cell? ⟨w1.heap.size, i, none⟩ = some (.string ⟨stTab[i].1.toArray⟩) := by rw [cell_of_row _ _ _ _ _ _ HH.out]; exact nm_cell i hiT
      have hp : stTab[i] ∈ stTab := List.getElem_mem hiT
      have hst := any_step nm i hiT
      rw [← HS.out] at hst
      obtain ⟨p, hpi⟩ : ∃ p, stTab[i] = p := ⟨_, rfl⟩
      rw [hpi] at hcell hp hst
      obtain ⟨p1, p2, p3, -⟩ := st_tab p hp
      have p9 : p.1.length ≤ 9 := (show ∀ p ∈ stTab, p.1.length ≤ 9 by decide) p hp
      obtain ⟨N, hN⟩ : ∃ N : ByteArray, (⟨p.1.toArray⟩ : ByteArray) = N := ⟨_, rfl⟩
      have hN2 : N.data.toList = p.1 := by rw [← hN, List.toList_toArray]
      rw [hN] at hcell
      have hNs : N.size ≤ 9 := by rw [Lib.size_eq, hN2]; exact p9
      have HP := fun w h => Lib.hid (drvState_any N w (by omega) h)
      rw [hN2, p3] at HP
      have HP2 := fun w h => Lib.hid (drvState_any (N ++ a0) w (by rw [ByteArray.size_append]; omega) h)
      rw [show (N ++ a0).data.toList = p.1 ++ nm by rw [ByteArray.data_append, Array.toList_append, hN2, HNM.out]] at HP2
      have hmore := st_more p hp nm
      have hNt : N.toList = p.1 := by rw [ByteArray.toList_eq]; exact hN2
      have h2 : (p.2 == 0) = false := beq_eq_false_iff_ne.2 (by omega)
      obtain ⟨Z, hZ⟩ : ∃ Z, p.2 = Z := ⟨_, rfl⟩
      rw [hZ] at HP h2
      have h3 : (Z != 0) = true := by rw [bne, h2]; rfl
      obtain ⟨Y, hY⟩ : ∃ Y, drvN (p.1 ++ nm) = Y := ⟨_, rfl⟩
      have hnone : nm = [] → Y = Z := fun e => by rw [← hY, e, List.append_nil, p3, hZ]
      rw [hY] at HP2 hmore
      have s1 : ¬ 9223372036854775807 < N.size + a0.size := by omega
      obtain ⟨E, hE⟩ : ∃ E, decide (p.1 = nm) = E := ⟨_, rfl⟩
      rw [hE] at hst
      have hEq : (N.toList == a0.toList) = E := by rw [hNt, HTL.out, ← hE]; rw [Bool.eq_iff_iff, beq_iff_eq, decide_eq_true_iff]
      have HN1 := Lib.hid hst.symm
      have hN0 : nm = [] → ¬ N.toList = [] ∧ E = false := fun e => by
        have h1 : p.1 ≠ [] := (show ∀ p ∈ stTab, p.1 ≠ [] by decide) p hp
        exact ⟨by rw [hNt]; exact h1, by rw [← hE, e]; exact decide_eq_false h1⟩
      have hB : wr.heap.size = wr.heap.size := rfl
      have hways : (nm = [] ∧ Y = Z) ∨ (nm ≠ [] ∧ Y = 0) := by
        by_cases h : nm = []
        · exact .inl ⟨h, hnone h⟩
        · exact .inr ⟨h, hmore h⟩
      clear hpi hp p1 p2 p3 p9 hN hN2 hmore hnone hNt hZ hY hE hst hB
      rcases hways with ⟨hw, rfl⟩ | ⟨hw, rfl⟩
      · have f1 : a0.toList = [] := HTL.out.trans hw
        have f2 : a0.toList.isEmpty = true := by rw [f1]; rfl
        obtain ⟨g1, rfl⟩ := hN0 hw
        have g2 : N.toList.isEmpty = false := by
          cases h : N.toList with
          | nil => exact absurd h g1
          | cons a l => rfl
        clear hw hEq hN0
        go_wp2_with (fail)
        refine (HP _ (HW.out.below HB.out)).out.mono ?_
        rintro e w3 ⟨rfl, c3⟩
        have hg3 : w1.heap.size < wr.heap.size := (Array.getElem?_eq_some_iff.1 HH.out).1
        have hcell3 : w3.cell? ⟨w1.heap.size, i, none⟩ = some (.string N) := (c3.cell (p := ⟨w1.heap.size, i, none⟩) hg3).trans hcell
        have HH3 := Lib.hid ((c3.block _ hg3).trans HH.out)
        have HB3 := Lib.hid (HB.out.trans (c3.mono HB.out.size))
        clear c3 hcell
        go_wp2_with (fail)
        refine (HP2 _ (HW.out.below HB3.out)).out.mono ?_
        rintro e w4 ⟨rfl, c4⟩
        have hg4 : w1.heap.size < w3.heap.size := (Array.getElem?_eq_some_iff.1 HH3.out).1
        have hcell4 : w4.cell? ⟨w1.heap.size, i, none⟩ = some (.string N) := (c4.cell (p := ⟨w1.heap.size, i, none⟩) hg4).trans hcell3
        have HH4 := Lib.hid ((c4.block _ hg4).trans HH3.out)
        have HB4 := Lib.hid (HB3.out.trans (c4.mono HB3.out.size))
        clear c4 hcell3
        go_wp2
        go_roundw
        case rel => exact ⟨i + 1, B, by go_num, rfl, by omega, HH4.out, HB4.out, Lib.hid (by rw [← HN1.out, Bool.or_false])⟩
        case measure => simp [intOf]; omega
      · have f1 : ¬ a0.toList = [] := fun e => hw (HTL.out.symm.trans e)
        have f2 : a0.toList.isEmpty = false := by
          cases h : a0.toList with
          | nil => exact absurd h f1
          | cons a l => rfl
        clear hw hN0
        go_wp2_with (fail)
        refine (HP _ (HW.out.below HB.out)).out.mono ?_
        rintro e w3 ⟨rfl, c3⟩
        have hg3 : w1.heap.size < wr.heap.size := (Array.getElem?_eq_some_iff.1 HH.out).1
        have hcell3 : w3.cell? ⟨w1.heap.size, i, none⟩ = some (.string N) := (c3.cell (p := ⟨w1.heap.size, i, none⟩) hg3).trans hcell
        have HH3 := Lib.hid ((c3.block _ hg3).trans HH.out)
        have HB3 := Lib.hid (HB.out.trans (c3.mono HB.out.size))
        clear c3 hcell
        go_wp2_with (fail)
        refine (HP2 _ (HW.out.below HB3.out)).out.mono ?_
        rintro e w4 ⟨rfl, c4⟩
        have hg4 : w1.heap.size < w3.heap.size := (Array.getElem?_eq_some_iff.1 HH3.out).1
        have hcell4 : w4.cell? ⟨w1.heap.size, i, none⟩ = some (.string N) := (c4.cell (p := ⟨w1.heap.size, i, none⟩) hg4).trans hcell3
        have HH4 := Lib.hid ((c4.block _ hg4).trans HH3.out)
        have HB4 := Lib.hid (HB3.out.trans (c4.mono HB3.out.size))
        clear c4 hcell3
        cases E
        · go_wp2
          go_roundw
          case rel => exact ⟨i + 1, B, by go_num, rfl, by omega, HH4.out, HB4.out, Lib.hid (by rw [← HN1.out, Bool.or_false])⟩
          case measure => simp [intOf]; omega
        · go_wp2
          go_roundw
          case rel => exact ⟨i + 1, true, by go_num, rfl, by omega, HH4.out, HB4.out, Lib.hid (by rw [← HN1.out, Bool.or_true])⟩
          case measure => simp [intOf]; omega
    · have hi10 : i = 10 := by omega
      have hB : B = (K != 0) := by
        rw [HS.out, hi10, ← HA.out]; rfl
      clear hi10
      by_cases hk : K = 0
      · subst hk
        obtain rfl : B = false := hB
        go_wp2_with (fail)
        refine (HST _ (HW.out.below HB.out)).out.mono ?_
        rintro e w3 ⟨rfl, c3⟩
        go_wp2
        go_ret
        exact ⟨ret_bool (by simp), HB.out.trans (c3.mono HB.out.size)⟩
      · have k1 : (K == 0) = false := beq_eq_false_iff_ne.2 hk
        have k2 : (K != 0) = true := bne_iff_ne.2 hk
        rw [k2] at hB
        subst hB
        have k3 : decide (K ≤ 4) = true := decide_eq_true hr.2
        have k4 : decide ((0 : Int) ≤ K) = true := decide_eq_true hr.1
        clear hk
        go_wp2_with (fail)
        refine (HST _ (HW.out.below HB.out)).out.mono ?_
        rintro e w3 ⟨rfl, c3⟩
        go_wp2
        go_ret
        exact ⟨ret_bool (by simp), HB.out.trans (c3.mono HB.out.size)⟩
  -- go_wp2
  -- go_ret
  -- exact ⟨rfl, by repeat (first | exact Grown.refl _ | apply Grown.drew | apply Grown.alloc)⟩

theorem laid_met (os : Os) : laidMet Tryz.prog Rows.driveStatesRow.laid ((laidWorld os).forCall (fun _ _ => 0) ⟨#[], #[.string ByteArray.empty], []⟩).memory :=
  laidMet_of_run' 8 (by kernel_rfl) (by kernel_rfl)
theorem reads (os : Os) {H : Type} (enc : TypeId × Value → H) : ∃ places, DataW.whole enc Tryz.prog ((laidWorld os).forCall (fun _ _ => 0) ⟨#[], #[.string ByteArray.empty], []⟩).memory Tryz.f7.params.toList Rows.driveStatesSpec.vars false (#[.string ByteArray.empty] : Array Value).toList 8 = some ([.lit (.string [])], [], places) :=
  ⟨[], by kernel_rfl⟩
set_option maxRecDepth 100000 in
theorem lifted (os : Os) (started : os.Started) (H : Type) (enc : TypeId × Value → H) (F : Stop.Interp) :
    ReturnsInHanded {} Tryz.checked os 7 .any ((OpenSpec.ofChange Rows.driveStatesSpec).preRow enc Tryz.prog Tryz.f7 Rows.driveStatesRow.domain false Rows.driveStatesRow.laid) (((OpenSpec.ofChange Rows.driveStatesSpec).at F).post enc Tryz.prog Tryz.f7 false true false false) := by
  obtain ⟨places, hx⟩ := reads os enc
  refine returnsInHanded_of_row (C := Tryz.checked) (s := OpenSpec.ofChange Rows.driveStatesSpec) own started (by kernel_rfl) Tryz.func7
    (witness_row_at (enc := enc) (C := Tryz.checked) false (laidWorld os) #[.string ByteArray.empty] rfl (by kernel_rfl) (by kernel_rfl) (by kernel_rfl)
      (OpenSpec.preRow_of_cond 8 hx (by kernel_rfl) (fun k hk => by cases hk) (by kernel_rfl) (laid_met os))) ?_
  intro W base args ds gs before hval0 hW _ _ _ hL hsh _
  have hval : ∀ (j : Nat) t v, Tryz.f7.params[j]? = some t → args[j]? = some v → Value.okWide Tryz.prog W .any base t v := hval0
  have hW' := hW
  obtain ⟨p, q, hA0, hV, rfl, hfz, hnd⟩ := hW
  have hA : DataW.TrodAll enc Tryz.prog W 0 (fun _ => true) true Tryz.f7.params.toList args.toList ds p := hA0
  rw [Tryz.params7] at hA hval
  obtain ⟨v0, vs0, d0, ds0, p0, q0, hargs, rfl, rfl, h0, r0⟩ := trodAll_cons hA
  obtain ⟨rfl, rfl, rfl⟩ := trodAll_nil r0
  obtain rfl : args = #[v0] := by cases args; simp_all
  obtain ⟨rfl, rfl⟩ := trodVars_none hV
  obtain ⟨a0, rfl, rfl, rfl, w0⟩ := open_string Tryz.underlying9 (hval 0 9 v0 rfl rfl) h0
  clear hA0 hval0
  refine (walk a0 w0 W (tabAt_of hL hsh)).mono fun e W' ⟨he, bel⟩ => ?_
  subst he
  exact ⟨_, rfl, _, _, _, [], _, [], hW', trodAll_mk1 (shut_bool Tryz.underlying4 _), (trodAll_cons_mk (shut_string Tryz.underlying9 w0) trodAll_mk0), rfl, bel.frame _, fun h => by cases h⟩

theorem said : Rows.DriveStatesSaid :=
  OpenClaim.holds_of_cond 7 Tryz.f7 rfl rfl rfl rfl rfl rfl rfl ⟨rfl, rfl, rfl, rfl, rfl⟩ rfl rfl rfl rfl rfl (by kernel_rfl) Tryz.func7 (by kernel_rfl)
    (of_decide_eq_true (by kernel_rfl)) (by unfold Func.isWrapper; first | (rw [if_pos (by decide +kernel)]; kernel_rfl) | (rw [if_neg (by decide +kernel)]; exact ⟨rfl, rfl⟩))
    (fun os started H enc _ F => by rw [OpenClaim.pre_eq_preRow]; exact lifted os started H enc F)
theorem plain (f : FuncId) (fn : Func) (hf : Tryz.pinned.checked.prog.funcNamed "flail/flaillaw16.DriveStates" = some f) (hfn : Tryz.pinned.checked.prog.funcs[f]? = some fn) :
    true = Tryz.pinned.checked.prog.looks [] ∧ ∀ (j : Nat) t, fn.params[j]? = some t → Tryz.pinned.checked.prog.wantsStandIn t = false := by
  obtain rfl : f = 7 := Option.some.inj ((show Tryz.prog.funcNamed "flail/flaillaw16.DriveStates" = some 7 by kernel_rfl).symm.trans hf) |>.symm
  obtain rfl : fn = Tryz.f7 := (Option.some.inj (Tryz.func7.symm.trans hfn)).symm
  refine ⟨by kernel_rfl, fun j t ht => ?_⟩
  rw [Tryz.params7] at ht
  have hm : t ∈ [9] := by first | simpa using Array.mem_of_getElem? ht | (have h := Array.mem_of_getElem? ht; simp at h ⊢; grind)
  have hall : ([9].all fun u => !Tryz.prog.wantsStandIn u) = true := by kernel_rfl
  exact (show Tryz.prog.wantsStandIn t = false by simpa using List.all_eq_true.1 hall t hm)
/-- the statement: the row's card -/
theorem proved : Rows.DriveStatesCardSaid :=
  Claim7.holds_tied_plain_at .later [] _ _ _ _ said (fun _ h => by cases h) (by kernel_rfl) (fun _ h => by cases h) driveStates_row_tie rfl ⟨rfl, rfl⟩ (by kernel_rfl) rfl plain (by kernel_rfl)
end Go.Proofs.YtdcbjgmjmdgmmaaGreatDoor.driveStates
