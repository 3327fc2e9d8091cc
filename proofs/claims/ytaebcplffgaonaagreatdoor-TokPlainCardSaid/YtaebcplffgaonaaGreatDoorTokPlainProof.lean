/-
  The law TokPlain of flail/flaillaw15 answers true for every input, and changes nothing that was there. Condition, which the card ties to the program's text: when the call begins, the package variables that the row lists hold what that text lays in them (math/bits.deBruijn32tab, math/bits.deBruijn64tab, internal/strconv.uint64pow10, strconv.ErrRange, strconv.ErrSyntax, flail/number.others).
-/
import Derived.Test.YtaebcplffgaonaaGreatDoorRows
import Derived.Test.YtaebcplffgaonaaGreatDoorTkAwake
import Derived.Test.YtaebcplffgaonaaGreatDoorQH
import Derived.Test.YtaebcplffgaonaaGreatDoorP6
import Derived.Test.YtaebcplffgaonaaGreatDoorP4
import Derived.Test.YtaebcplffgaonaaGreatDoorCards
import Derived.WalkKit
import Derived.ProofKit
import Derived.ChangeOld
import Derived.Below
import Derived.OpenShut
import Derived.ShutString
namespace Go.Proofs.YtaebcplffgaonaaGreatDoor.tokPlain
open Go.ChangeShapes Go.WideShapes Go.ChangeAt Go.RowKit
open Go.ChangeMaps (open_string shut_string)
set_option linter.unusedVariables false      -- a walk need not use every 'w<i>' (that an integer argument fits its kind)

theorem own : ownKnob Tryz.prog.godebug = none := by kernel_rfl

theorem opt_at (s : ByteArray) (i : Nat) (h : i < s.size) : s.data.toList[i]? = some s[i] := by
  rw [List.getElem?_eq_getElem (by rw [← Lib.size_eq]; exact h)]; rfl
theorem add_zero' (x : Addr) : x.add 0 = x := by unfold Addr.add; rw [if_pos rfl]
set_option maxRecDepth 100000 in
set_option maxHeartbeats 8000000 in
theorem walk (a0 : ByteArray) (a1 : ByteArray) (w0 : a0.size ≤ maxLen) (w1 : a1.size ≤ maxLen) (w : World) (hT : LaidAt w) :
    Calls Tryz.prog 8 #[.string a0, .string a1] w fun e w' => e = .returned (.bool true) ∧ Below w.heap.size w w' := by
  clear w0 w1
  have HW := Lib.hid hT
  clear hT
  by_cases hlen : 300 < a0.size ∨ 60 < a1.size
  · have hc : decide ((300 : Int) < (a0.size : Int)) = true ∨ decide ((300 : Int) < (a0.size : Int)) = false ∧ decide ((60 : Int) < (a1.size : Int)) = true := by
      simp only [decide_eq_true_eq, decide_eq_false_iff_not]; omega
    clear hlen
    rcases hc with hc | ⟨hc, hd⟩
    all_goals
      go_enter Tryz.func8, Tryz.ntmps8
      go_wp2_with (fail)
      refine (tkAwake_any w HW.out).mono ?_
      rintro e w1 ⟨rfl, c1⟩
      go_wp2
      go_ret
      exact ⟨rfl, c1⟩
  have d0 : decide ((300 : Int) < (a0.size : Int)) = false := decide_eq_false (by omega)
  have d1 : decide ((60 : Int) < (a1.size : Int)) = false := decide_eq_false (by omega)
  have hs0 : a0.size ≤ 300 := by omega
  have H1 := fun w h => Lib.hid (tokTok_any a0 4 a1 w (by omega) (by omega) (by decide) h)
  rw [tok_end] at H1
  by_cases he : a0.size = 0
  · obtain rfl : a0 = ⟨#[]⟩ := str_ext (by rw [show a0.data.toList = [] from List.eq_nil_of_length_eq_zero (by rw [← Lib.size_eq]; exact he)])
    rw [show emitT (cleanL (⟨#[]⟩ : ByteArray).data.toList) = [] from rfl] at H1
    clear hlen he d0 hs0
    go_enter Tryz.func8, Tryz.ntmps8
    go_wp2_with (fail)
    refine (tkAwake_any w HW.out).mono ?_
    rintro e w1 ⟨rfl, c1⟩
    have B1 := Lib.hid c1
    clear c1
    go_wp2_with (fail)
    refine (H1 _ (HW.out.below B1.out)).out.mono ?_
    rintro e w2 ⟨x, l, c, rfl, t2, c2⟩
    obtain rfl : l = 0 := by rw [← t2.1]; rfl
    have B2 := Lib.hid (B1.out.trans (c2.mono B1.out.size))
    clear c2 t2
    go_wp2
    go_ret
    exact ⟨ret_bool (by simp), B2.out⟩
  have hne : a0.data.toList ≠ [] := fun e => he (by rw [Lib.size_eq, e]; rfl)
  rw [emit_one _ (clean_some _ hne)] at H1
  have hne1 : ¬ a0.toList = [] := by rw [ByteArray.toList_eq]; exact hne
  have hne2 : a0.toList.isEmpty = false := by
    rw [ByteArray.toList_eq]
    cases h : a0.data.toList with
    | nil => exact absurd h hne
    | cons a l => rfl
  have HC := fun w => Lib.hid (clean_any a0 w (by omega))
  have HD := fun w (h : LaidAt w) => Lib.hid (decode_any a0 false w (by omega) h.tab h.err)
  have H2 := fun w h => Lib.hid (tokTok_any a0 0 a1 w (by omega) (by omega) (by decide) h)
  have HPL : Hid (60 ∉ a0.data.toList → tokL 0 a1.data.toList a0.data.toList = [txtT (ddL false a0.data.toList)]) := Lib.hid fun h => by
    rw [tok_plain _ _ h, emit_one _ (dd_some _ hne)]
  obtain ⟨X, hX⟩ : ∃ X : ByteArray, (⟨(cleanL a0.data.toList).toArray⟩ : ByteArray) = X := ⟨_, rfl⟩
  obtain ⟨Y, hY⟩ : ∃ X : ByteArray, (⟨(ddL false a0.data.toList).toArray⟩ : ByteArray) = X := ⟨_, rfl⟩
  have HX := Lib.hid hX
  have HY := Lib.hid hY
  rw [hX] at HC
  rw [hY] at HD
  clear hlen he hne hX hY
  go_enter Tryz.func8, Tryz.ntmps8
  go_wp2_with (fail)
  refine (tkAwake_any w HW.out).mono ?_
  rintro e w1 ⟨rfl, c1⟩
  have B1 := Lib.hid c1
  clear c1
  go_wp2_with (fail)
  refine (H1 _ (HW.out.below B1.out)).out.mono ?_
  rintro e w2 ⟨x, l, c, rfl, t2, c2⟩
  have B2 := Lib.hid (B1.out.trans (c2.mono B1.out.size))
  obtain ⟨x, ad, ln, cp, rfl, xc, xr⟩ := t2.toks.2.2.2 0 (by simp)
  have hln : ln = 0 := by rw [← xr.1]; rfl
  subst hln
  obtain rfl : l = 1 := by rw [← t2.1]; rfl
  obtain ⟨x0, x1, x2, x3, x4⟩ := xc.asked
  simp only [Nat.zero_mul, add_zero', List.getElem_cons_zero] at x0 x1 x2 x3 x4
  simp only [txtT] at x0 x1 x2 x3 x4
  rw [HX.out] at x2
  have HXR := Lib.hid (show ∀ u : World, IsRows u ad 0 cp [] from fun u => ⟨rfl, xr.2.1, xr.2.2.1, fun i hi => by cases hi⟩)
  have lx := block_lt_of_cell x0
  have hcap := t2.2.1
  have hd : w2.drew.cell? x = some (.int .i64 0) ∧ w2.drew.cell? ⟨x.block, x.off + 1, none⟩ = some (.string ⟨#[]⟩) ∧ w2.drew.cell? ⟨x.block, x.off + 2, none⟩ = some (.string X) ∧ w2.drew.cell? ⟨x.block, x.off + 3, none⟩ = some (.slice ad 0 cp) ∧ w2.drew.cell? ⟨x.block, x.off + 4, none⟩ = some (.bool false) ∧ Below w2.heap.size w2 w2.drew := ⟨x0, x1, x2, x3, x4, (Below.refl _ w2).drew⟩
  have hk : ∀ u v : World, (u.cell? x = some (.int .i64 0) ∧ u.cell? ⟨x.block, x.off + 1, none⟩ = some (.string ⟨#[]⟩) ∧ u.cell? ⟨x.block, x.off + 2, none⟩ = some (.string X) ∧ u.cell? ⟨x.block, x.off + 3, none⟩ = some (.slice ad 0 cp) ∧ u.cell? ⟨x.block, x.off + 4, none⟩ = some (.bool false) ∧ Below w2.heap.size w2 u) → Below u.heap.size u v → (v.cell? x = some (.int .i64 0) ∧ v.cell? ⟨x.block, x.off + 1, none⟩ = some (.string ⟨#[]⟩) ∧ v.cell? ⟨x.block, x.off + 2, none⟩ = some (.string X) ∧ v.cell? ⟨x.block, x.off + 3, none⟩ = some (.slice ad 0 cp) ∧ v.cell? ⟨x.block, x.off + 4, none⟩ = some (.bool false) ∧ Below w2.heap.size w2 v) := fun u v h b => by
    obtain ⟨x0, x1, x2, x3, x4, hb⟩ := h
    have mx : x.block < u.heap.size := Nat.lt_of_lt_of_le lx hb.size
    have cx : ∀ j, v.cell? ⟨x.block, x.off + j, none⟩ = u.cell? ⟨x.block, x.off + j, none⟩ := fun j => b.cell (p := ⟨x.block, x.off + j, none⟩) mx
    exact ⟨(b.cell mx).trans x0, (cx 1).trans x1, (cx 2).trans x2, (cx 3).trans x3, (cx 4).trans x4, hb.trans (b.mono hb.size)⟩
  have cA : Hid (∀ u : World, (u.cell? x = some (.int .i64 0) ∧ u.cell? ⟨x.block, x.off + 1, none⟩ = some (.string ⟨#[]⟩) ∧ u.cell? ⟨x.block, x.off + 2, none⟩ = some (.string X) ∧ u.cell? ⟨x.block, x.off + 3, none⟩ = some (.slice ad 0 cp) ∧ u.cell? ⟨x.block, x.off + 4, none⟩ = some (.bool false) ∧ Below w2.heap.size w2 u) → Calls Tryz.prog 23 #[.string a0] u fun e v => e = .returned (.string X) ∧ (v.cell? x = some (.int .i64 0) ∧ v.cell? ⟨x.block, x.off + 1, none⟩ = some (.string ⟨#[]⟩) ∧ v.cell? ⟨x.block, x.off + 2, none⟩ = some (.string X) ∧ v.cell? ⟨x.block, x.off + 3, none⟩ = some (.slice ad 0 cp) ∧ v.cell? ⟨x.block, x.off + 4, none⟩ = some (.bool false) ∧ Below w2.heap.size w2 v)) := Lib.hid fun u h => by
    refine (HC u).out.mono ?_
    rintro e v ⟨rfl, b⟩
    exact ⟨rfl, hk u v h b⟩
  have hsm := fun u => refSame9_any (txtT (cleanL a0.data.toList)) (txtT (cleanL a0.data.toList)) ad none 0 0 cp 0 u (HXR.out u) (isRows_none u)
  have cB : Hid (∀ u : World, (u.cell? x = some (.int .i64 0) ∧ u.cell? ⟨x.block, x.off + 1, none⟩ = some (.string ⟨#[]⟩) ∧ u.cell? ⟨x.block, x.off + 2, none⟩ = some (.string X) ∧ u.cell? ⟨x.block, x.off + 3, none⟩ = some (.slice ad 0 cp) ∧ u.cell? ⟨x.block, x.off + 4, none⟩ = some (.bool false) ∧ Below w2.heap.size w2 u) → Calls Tryz.prog 18 #[.agg #[.int .i64 0, .string ⟨#[]⟩, .string X, .slice ad 0 cp, .bool false], .agg #[.int .i64 0, .string ⟨#[]⟩, .string X, .slice none 0 0, .bool false]] u fun e v => e = .returned (.bool true) ∧ (v.cell? x = some (.int .i64 0) ∧ v.cell? ⟨x.block, x.off + 1, none⟩ = some (.string ⟨#[]⟩) ∧ v.cell? ⟨x.block, x.off + 2, none⟩ = some (.string X) ∧ v.cell? ⟨x.block, x.off + 3, none⟩ = some (.slice ad 0 cp) ∧ v.cell? ⟨x.block, x.off + 4, none⟩ = some (.bool false) ∧ Below w2.heap.size w2 v)) := Lib.hid fun u h => by
    have := hsm u
    unfold tokA txtT at this
    simp only [HX.out] at this
    refine this.mono ?_
    rintro e v ⟨rfl, b⟩
    exact ⟨by simp, hk u v h b⟩
  have FIN : Hid (∀ u : World, (u.cell? x = some (.int .i64 0) ∧ u.cell? ⟨x.block, x.off + 1, none⟩ = some (.string ⟨#[]⟩) ∧ u.cell? ⟨x.block, x.off + 2, none⟩ = some (.string X) ∧ u.cell? ⟨x.block, x.off + 3, none⟩ = some (.slice ad 0 cp) ∧ u.cell? ⟨x.block, x.off + 4, none⟩ = some (.bool false) ∧ Below w2.heap.size w2 u) → Below w.heap.size w u) := Lib.hid fun u h => B2.out.trans (h.2.2.2.2.2.mono B2.out.size)
  clear c2 t2 xc xr x0 x1 x2 x3 x4 lx hk hsm
  go_wp2
  go_region_held3 (fun u : World => u.cell? x = some (.int .i64 0) ∧ u.cell? ⟨x.block, x.off + 1, none⟩ = some (.string ⟨#[]⟩) ∧ u.cell? ⟨x.block, x.off + 2, none⟩ = some (.string X) ∧ u.cell? ⟨x.block, x.off + 3, none⟩ = some (.slice ad 0 cp) ∧ u.cell? ⟨x.block, x.off + 4, none⟩ = some (.bool false) ∧ Below w2.heap.size w2 u)
    (first | exact hd | assumption)
    (first
      | (go_at_call 23; (with_reducible refine (cA.out _ ‹_›).mono ?_); rintro e w' ⟨rfl, hb⟩)
      | (go_at_call 18; (with_reducible refine (cB.out _ ‹_›).mono ?_); rintro e w' ⟨rfl, hb⟩))
  all_goals
    have BF := Lib.hid (FIN.out _ ‹_›)
    clear cA cB FIN hd
    go_wp2
    clear d0 d1 hne1 hne2
    go_loopw [7] (fun v wr => ∃ i : Nat, v = .int .i64 (i : Int) ∧ Below w.heap.size w wr ∧ i ≤ a0.size ∧ Hid (∀ j, j < i → a0.data.toList[j]? ≠ some 60)) (fun v _ => a0.size - (intOf v).toNat)
    case atStart => exact ⟨0, rfl, BF.out, Nat.zero_le _, Lib.hid fun j h => absurd h (by omega)⟩
    case round =>
      obtain ⟨i, rfl, hbw, hi, HI⟩ := hrel
      have HBW := Lib.hid hbw
      by_cases hlt : i < a0.size
      · have HO := Lib.hid (opt_at a0 i hlt)
        by_cases c60 : a0[i] = 60
        · have b60 : (((a0[i].toNat : Nat) : Int) == 60) = true := by rw [c60]; rfl
          clear c60
          go_wp2
          go_ret
          exact ⟨rfl, hbw⟩
        have b60 : (((a0[i].toNat : Nat) : Int) == 60) = false := by
          rw [beq_eq_false_iff_ne]; exact fun h => c60 (u8_eq _ 60 (by decide) h)
        have hn : ∀ j, j < i + 1 → a0.data.toList[j]? ≠ some 60 := fun j hj => by
          rcases Nat.lt_or_eq_of_le (Nat.le_of_lt_succ hj) with h1 | rfl
          · exact HI.out j h1
          · rw [HO.out]; exact fun e => c60 (Option.some.inj e)
        have HN := Lib.hid hn
        clear hn c60
        go_wp2
        go_roundw
        case rel => exact ⟨i + 1, by go_num, hbw, by omega, HN⟩
        case measure => simp [intOf]; omega
      · have h60 := no60 a0.data.toList (fun j hj => HI.out j (by rw [← Lib.size_eq] at hj; omega))
        rw [HPL.out h60] at H2
        clear h60 HI hbw
        go_wp2_with (fail)
        refine (H2 _ (HW.out.below HBW.out)).out.mono ?_
        rintro e w5 ⟨y, l', c', rfl, t5, c5⟩
        have B5 := Lib.hid (HBW.out.trans (c5.mono HBW.out.size))
        have T5 := Lib.hid t5.toks
        clear c5 t5
        go_wp2_with (fail)
        refine (HD _ (HW.out.below B5.out)).out.mono ?_
        rintro e w6 ⟨rfl, c6⟩
        have B6 := Lib.hid (B5.out.trans (c6.mono B5.out.size))
        have T6 := Lib.hid (T5.out.below c6 (Nat.le_refl _))
        clear c6
        have B7 := Lib.hid (B6.out.alloc B6.out.size (.cells #[.int .i64 0, .string ⟨#[]⟩, .string Y, .slice none 0 0, .bool false] 29))
        have T7 := Lib.hid (T6.out.below ((Below.refl _ w6).alloc (Nat.le_refl _) (.cells #[.int .i64 0, .string ⟨#[]⟩, .string Y, .slice none 0 0, .bool false] 29)) (Nat.le_refl _))
        have L7 := Lib.hid (show IsToks (w6.alloc (.cells #[.int .i64 0, .string ⟨#[]⟩, .string Y, .slice none 0 0, .bool false] 29)) (some ⟨w6.heap.size, 0, none⟩) 1 1 [txtT (ddL false a0.data.toList)] by
          have := isToks_put w6 [txtT (ddL false a0.data.toList)] (fun t h => by
            simp only [List.mem_cons, List.not_mem_nil, or_false] at h
            rw [h]; rfl) 29 _ rfl (by simp)
          unfold bareQ cellsT TkV.five txtT at this
          simp only [List.map_cons, List.map_nil, List.flatMap_cons, List.flatMap_nil, List.append_nil, HY.out] at this
          exact this)
        have HA := Lib.hid (refAll_any _ _ _ _ _ _ _ _ _ T7.out L7.out)
        rw [decide_eq_true (rfl : [txtT (ddL false a0.data.toList)] = [txtT (ddL false a0.data.toList)])] at HA
        go_wp2_with (fail)
        refine HA.out.mono ?_
        rintro e w8 ⟨rfl, c8⟩
        go_wp2
        go_ret
        exact ⟨ret_bool (by simp), B7.out.trans (c8.mono B7.out.size)⟩
  -- go_wp2
  -- go_ret
  -- exact ⟨rfl, by repeat (first | exact Grown.refl _ | apply Grown.drew | apply Grown.alloc)⟩

theorem laid_met (os : Os) : laidMet Tryz.prog Rows.tokPlainRow.laid ((laidWorld os).forCall (fun _ _ => 0) ⟨#[], #[.string ByteArray.empty, .string ByteArray.empty], []⟩).memory :=
  laidMet_of_run' 8 (by kernel_rfl) (by kernel_rfl)
theorem reads (os : Os) {H : Type} (enc : TypeId × Value → H) : ∃ places, DataW.whole enc Tryz.prog ((laidWorld os).forCall (fun _ _ => 0) ⟨#[], #[.string ByteArray.empty, .string ByteArray.empty], []⟩).memory Tryz.f8.params.toList Rows.tokPlainSpec.vars false (#[.string ByteArray.empty, .string ByteArray.empty] : Array Value).toList 8 = some ([.lit (.string []), .lit (.string [])], [], places) :=
  ⟨[], by kernel_rfl⟩
set_option maxRecDepth 100000 in
theorem lifted (os : Os) (started : os.Started) (H : Type) (enc : TypeId × Value → H) (F : Stop.Interp) :
    ReturnsInHanded {} Tryz.checked os 8 .any ((OpenSpec.ofChange Rows.tokPlainSpec).preRow enc Tryz.prog Tryz.f8 Rows.tokPlainRow.domain false Rows.tokPlainRow.laid) (((OpenSpec.ofChange Rows.tokPlainSpec).at F).post enc Tryz.prog Tryz.f8 false true false false) := by
  obtain ⟨places, hx⟩ := reads os enc
  refine returnsInHanded_of_row (C := Tryz.checked) (s := OpenSpec.ofChange Rows.tokPlainSpec) own started (by kernel_rfl) Tryz.func8
    (witness_row_at (enc := enc) (C := Tryz.checked) false (laidWorld os) #[.string ByteArray.empty, .string ByteArray.empty] rfl (by kernel_rfl) (by kernel_rfl) (by kernel_rfl)
      (OpenSpec.preRow_of_cond 8 hx (by kernel_rfl) (fun k hk => by cases hk) (by kernel_rfl) (laid_met os))) ?_
  intro W base args ds gs before hval0 hW _ _ _ hL hsh _
  have hval : ∀ (j : Nat) t v, Tryz.f8.params[j]? = some t → args[j]? = some v → Value.okWide Tryz.prog W .any base t v := hval0
  have hW' := hW
  obtain ⟨p, q, hA0, hV, rfl, hfz, hnd⟩ := hW
  have hA : DataW.TrodAll enc Tryz.prog W 0 (fun _ => true) true Tryz.f8.params.toList args.toList ds p := hA0
  rw [Tryz.params8] at hA hval
  obtain ⟨v0, vs0, d0, ds0, p0, q0, hargs, rfl, rfl, h0, r0⟩ := trodAll_cons hA
  obtain ⟨v1, vs1, d1, ds1, p1, q1, rfl, rfl, rfl, h1, r1⟩ := trodAll_cons r0
  obtain ⟨rfl, rfl, rfl⟩ := trodAll_nil r1
  obtain rfl : args = #[v0, v1] := by cases args; simp_all
  obtain ⟨rfl, rfl⟩ := trodVars_none hV
  obtain ⟨a0, rfl, rfl, rfl, w0⟩ := open_string Tryz.underlying9 (hval 0 9 v0 rfl rfl) h0
  obtain ⟨a1, rfl, rfl, rfl, w1⟩ := open_string Tryz.underlying9 (hval 1 9 v1 rfl rfl) h1
  clear hA0 hval0
  refine (walk a0 a1 w0 w1 W (tabAt_of hL hsh)).mono fun e W' ⟨he, bel⟩ => ?_
  subst he
  exact ⟨_, rfl, _, _, _, [], _, [], hW', trodAll_mk1 (shut_bool Tryz.underlying4 _), (trodAll_cons_mk (shut_string Tryz.underlying9 w0) (trodAll_cons_mk (shut_string Tryz.underlying9 w1) trodAll_mk0)), rfl, bel.frame _, fun h => by cases h⟩

theorem said : Rows.TokPlainSaid :=
  OpenClaim.holds_of_cond 8 Tryz.f8 rfl rfl rfl rfl rfl rfl rfl ⟨rfl, rfl, rfl, rfl, rfl⟩ rfl rfl rfl rfl rfl (by kernel_rfl) Tryz.func8 (by kernel_rfl)
    (of_decide_eq_true (by kernel_rfl)) (by unfold Func.isWrapper; first | (rw [if_pos (by decide +kernel)]; kernel_rfl) | (rw [if_neg (by decide +kernel)]; exact ⟨rfl, rfl⟩))
    (fun os started H enc _ F => by rw [OpenClaim.pre_eq_preRow]; exact lifted os started H enc F)
theorem plain (f : FuncId) (fn : Func) (hf : Tryz.pinned.checked.prog.funcNamed "flail/flaillaw15.TokPlain" = some f) (hfn : Tryz.pinned.checked.prog.funcs[f]? = some fn) :
    true = Tryz.pinned.checked.prog.looks [] ∧ ∀ (j : Nat) t, fn.params[j]? = some t → Tryz.pinned.checked.prog.wantsStandIn t = false := by
  obtain rfl : f = 8 := Option.some.inj ((show Tryz.prog.funcNamed "flail/flaillaw15.TokPlain" = some 8 by kernel_rfl).symm.trans hf) |>.symm
  obtain rfl : fn = Tryz.f8 := (Option.some.inj (Tryz.func8.symm.trans hfn)).symm
  refine ⟨by kernel_rfl, fun j t ht => ?_⟩
  rw [Tryz.params8] at ht
  have hm : t ∈ [9] := by first | simpa using Array.mem_of_getElem? ht | (have h := Array.mem_of_getElem? ht; simp at h ⊢; grind)
  have hall : ([9].all fun u => !Tryz.prog.wantsStandIn u) = true := by kernel_rfl
  exact (show Tryz.prog.wantsStandIn t = false by simpa using List.all_eq_true.1 hall t hm)
/-- the statement: the row's card -/
theorem proved : Rows.TokPlainCardSaid :=
  Claim7.holds_tied_plain_at .later [] _ _ _ _ said (fun _ h => by cases h) (by kernel_rfl) (fun _ h => by cases h) tokPlain_row_tie rfl ⟨rfl, rfl⟩ (by kernel_rfl) rfl plain (by kernel_rfl)
end Go.Proofs.YtaebcplffgaonaaGreatDoor.tokPlain
