/-
  The law NamesShort of flail/flaillaw06 answers true for every input, and changes nothing that was there. Condition, which the card ties to the program's text: when the call begins, the package variables that the row lists hold what that text lays in them (math/bits.deBruijn32tab, math/bits.deBruijn64tab, internal/strconv.uint64pow10, strconv.ErrRange, strconv.ErrSyntax).
-/
import Derived.Test.YtnbafhaajckdcaaDoorRows
import Derived.Test.YtnbafhaajckdcaaDoorNamAwake
import Derived.Test.YtnbafhaajckdcaaDoorNamLast
import Derived.Test.YtnbafhaajckdcaaDoorNamNth
import Derived.Test.YtnbafhaajckdcaaDoorCards
import Derived.Test.YtnbafhaajckdcaaDoorNamLaid
import Derived.WalkKit
import Derived.ProofKit
import Derived.ChangeOld
import Derived.Below
import Derived.OpenShut
import Derived.ShutString
namespace Go.Proofs.YtnbafhaajckdcaaDoor.namesShort
open Go.ChangeShapes Go.WideShapes Go.ChangeAt Go.RowKit
open Go.ChangeMaps (open_string shut_string)
set_option linter.unusedVariables false      -- a walk need not use every 'w<i>' (that an integer argument fits its kind)

theorem own : ownKnob Tryd.prog.godebug = none := by kernel_rfl

set_option maxRecDepth 100000 in
set_option maxHeartbeats 1000000 in
theorem walk (a0 : Int) (w0 : (Lit.int .u16 a0).wf = true) (w : World) (hT : TabAt w) :
    Calls Tryd.prog 5 #[.int .u16 a0] w fun e w' => e = .returned (.bool true) ∧ Below w.heap.size w w' := by
  have hb0 : 0 ≤ a0 ∧ a0 ≤ 65535 := by simpa [Lit.wf, IntKind.min, IntKind.max, IntKind.signed, IntKind.bits] using w0
  have HW := Lib.hid hT
  have HN : ∀ w, ∃ r ∈ nmRows, Hid (Calls Tryd.prog 14 #[.int .i64 a0] w fun e w' => e = .returned (strV r.1) ∧ w = w') := fun w => by
    obtain ⟨r, h1, h2⟩ := refNth_any a0 w hb0
    exact ⟨r, h1, Lib.hid h2⟩
  clear w0 hT
  go_enter Tryd.func5, Tryd.ntmps5
  go_wp2_with (fail)
  refine (nmAwake_any w HW.out).mono ?_
  rintro e w1 ⟨rfl, c1⟩
  obtain ⟨r, hr, HN1⟩ := HN w1
  have hlk := look_of hr
  have hp := nm_row _ hr
  have hd : (⟨r.1.toArray⟩ : ByteArray).data.toList = r.1 := List.toList_toArray
  unfold strV at HN1
  generalize (⟨r.1.toArray⟩ : ByteArray) = q at HN1 hd
  have hlen := hp.len
  have hsq : q.size = r.1.length := by rw [Lib.size_eq, hd]
  have hq0 : 0 < q.size := by rw [hsq]; exact List.length_pos_iff.2 hp.ne
  have hsz : q.size ≤ 32 := by omega
  have hlq : nmLook q.data.toList = some r.2 := by rw [hd]; exact hlk
  have hx := aOf_lt q.data.toList
  have hy := bOf_lt q.data.toList
  have HV := fun w h => Lib.hid (value_any q w h)
  have HS := fun w => Lib.hid (short_any q w (by omega))
  obtain ⟨j, hj⟩ : ∃ j : Nat, (q.size : Int) - 1 = (j : Int) := ⟨q.size - 1, by omega⟩
  have hj1 : j < q.size := by omega
  have hj2 : q.size = j + 1 := by omega
  have b3 := last_ne q j hj1 hj2
  have b4 := last_eq q j hj1 hj2
  obtain ⟨x, hx'⟩ : ∃ x, aOf (nmLook q.data.toList) = x := ⟨_, rfl⟩
  obtain ⟨y, hy'⟩ : ∃ y, bOf (nmLook q.data.toList) = y := ⟨_, rfl⟩
  rw [hx', hy'] at HV
  rw [hx'] at hx
  rw [hy'] at hy
  have k1 := fl_self x (by omega)
  have k2 := fl_self y (by omega)
  by_cases h59 : Lib.hasSuffix q.data.toList [59] = true
  · -- a name with a semicolon: without it, it is none, or stands for the same
    have hA := drop_semi q j hj1 hj2 h59
    have hw := look_without (q.extract 0 j).data.toList r.2 (by rw [hA]; exact hlq)
    have HU := fun w h => Lib.hid (value_any (q.extract 0 j) w h)
    rw [hlq, h59] at HS
    rw [hlq] at HV
    rw [h59] at b3 b4
    have hx2 : aOf (some r.2) = x := by rw [← hlq]; exact hx'
    have hy2 : bOf (some r.2) = y := by rw [← hlq]; exact hy'
    rcases hw with hw | hw
    · rw [hw] at HU
      obtain ⟨F, hF⟩ : ∃ F, fl x = F := ⟨_, rfl⟩
      obtain ⟨G, hG⟩ : ∃ G, fl y = G := ⟨_, rfl⟩
      rw [hF, hG] at HV
      clear hF hG hx2 hy2 hw hA h59 k1 k2 hx hy hx' hy' hlq hsq hlen hp hlk hd hj2 HN
      simp only [Option.isSome_some, Option.isSome_none, Bool.true_and, Bool.not_true] at HV HU HS
      go_wp2_with (fail)
      refine HN1.out.mono ?_
      rintro e w2 ⟨rfl, rfl⟩
      go_wp2_with (fail)
      refine (HV _ (HW.out.below c1)).out.mono ?_
      rintro e w3 ⟨rfl, c2⟩
      have c3 := c1.trans (c2.mono c1.size)
      go_wp2_with (fail)
      refine (HS _).out.mono ?_
      rintro e w4 ⟨rfl, c4⟩
      have c5 := c3.trans (c4.mono c3.size)
      go_wp2_with (fail)
      refine (HU _ (HW.out.below c5)).out.mono ?_
      rintro e w5 ⟨rfl, c6⟩
      go_wp2
      go_ret
      exact ⟨ret_bool (by simp), c5.trans (c6.mono c5.size)⟩
    · rw [hw, hx2, hy2] at HU
      obtain ⟨F, hF⟩ : ∃ F, fl x = F := ⟨_, rfl⟩
      obtain ⟨G, hG⟩ : ∃ G, fl y = G := ⟨_, rfl⟩
      rw [hF, hG] at HV HU
      rw [hF] at k1
      rw [hG] at k2
      clear hF hG hx2 hy2 hw hA h59 hx hy hx' hy' hlq hsq hlen hp hlk hd hj2 HN
      simp only [Option.isSome_some, Bool.true_and, Bool.not_true] at HV HU HS
      go_wp2_with (fail)
      refine HN1.out.mono ?_
      rintro e w2 ⟨rfl, rfl⟩
      go_wp2_with (fail)
      refine (HV _ (HW.out.below c1)).out.mono ?_
      rintro e w3 ⟨rfl, c2⟩
      have c3 := c1.trans (c2.mono c1.size)
      go_wp2_with (fail)
      refine (HS _).out.mono ?_
      rintro e w4 ⟨rfl, c4⟩
      have c5 := c3.trans (c4.mono c3.size)
      go_wp2_with (fail)
      refine (HU _ (HW.out.below c5)).out.mono ?_
      rintro e w5 ⟨rfl, c6⟩
      go_wp2
      go_ret
      exact ⟨ret_bool (by simp), c5.trans (c6.mono c5.size)⟩
  · have h59' : Lib.hasSuffix q.data.toList [59] = false := by simpa using h59
    have hw := look_semi q.data.toList r.2 hlq h59'
    have hS : (q ++ (⟨#[59]⟩ : ByteArray)).data.toList = q.data.toList ++ [59] := by rw [ByteArray.data_append, Array.toList_append]
    have HU := fun w h => Lib.hid (value_any (q ++ (⟨#[59]⟩ : ByteArray)) w h)
    rw [hS, hw] at HU
    rw [hlq, h59'] at HS
    rw [hlq] at HV
    rw [h59'] at b3 b4
    have hx2 : aOf (some r.2) = x := by rw [← hlq]; exact hx'
    have hy2 : bOf (some r.2) = y := by rw [← hlq]; exact hy'
    rw [hx2, hy2] at HU
    obtain ⟨F, hF⟩ : ∃ F, fl x = F := ⟨_, rfl⟩
    obtain ⟨G, hG⟩ : ∃ G, fl y = G := ⟨_, rfl⟩
    rw [hF, hG] at HV HU
    rw [hF] at k1
    rw [hG] at k2
    clear hF hG hx2 hy2 hw hS h59 h59' hx hy hx' hy' hlq hsq hlen hp hlk hd hj2 HN
    simp only [Option.isSome_some, Bool.true_and, Bool.not_false] at HV HU HS
    go_wp2_with (fail)
    refine HN1.out.mono ?_
    rintro e w2 ⟨rfl, rfl⟩
    go_wp2_with (fail)
    refine (HV _ (HW.out.below c1)).out.mono ?_
    rintro e w3 ⟨rfl, c2⟩
    have c3 := c1.trans (c2.mono c1.size)
    go_wp2_with (fail)
    refine (HS _).out.mono ?_
    rintro e w4 ⟨rfl, c4⟩
    have c5 := c3.trans (c4.mono c3.size)
    go_wp2_with (fail)
    refine (HU _ (HW.out.below c5)).out.mono ?_
    rintro e w5 ⟨rfl, c6⟩
    go_wp2
    go_ret
    exact ⟨ret_bool (by simp), c5.trans (c6.mono c5.size)⟩
  -- go_wp2
  -- go_ret
  -- exact ⟨rfl, by repeat (first | exact Grown.refl _ | apply Grown.drew | apply Grown.alloc)⟩

theorem laid_met (os : Os) : laidMet Tryd.prog Rows.namesShortRow.laid ((laidWorld os).forCall (fun _ _ => 0) ⟨#[], #[.int .u16 0], []⟩).memory :=
  laidMet_of_run' 8 (by kernel_rfl) (by kernel_rfl)
theorem reads (os : Os) {H : Type} (enc : TypeId × Value → H) : ∃ places, DataW.whole enc Tryd.prog ((laidWorld os).forCall (fun _ _ => 0) ⟨#[], #[.int .u16 0], []⟩).memory Tryd.f5.params.toList Rows.namesShortSpec.vars false (#[.int .u16 0] : Array Value).toList 8 = some ([.lit (.int .u16 0)], [], places) :=
  ⟨[], by kernel_rfl⟩
set_option maxRecDepth 100000 in
theorem lifted (os : Os) (started : os.Started) (H : Type) (enc : TypeId × Value → H) (F : Stop.Interp) :
    ReturnsInHanded {} Tryd.checked os 5 .any ((OpenSpec.ofChange Rows.namesShortSpec).preRow enc Tryd.prog Tryd.f5 Rows.namesShortRow.domain false Rows.namesShortRow.laid) (((OpenSpec.ofChange Rows.namesShortSpec).at F).post enc Tryd.prog Tryd.f5 false true false false) := by
  obtain ⟨places, hx⟩ := reads os enc
  refine returnsInHanded_of_row (C := Tryd.checked) (s := OpenSpec.ofChange Rows.namesShortSpec) own started (by kernel_rfl) Tryd.func5
    (witness_row_at (enc := enc) (C := Tryd.checked) false (laidWorld os) #[.int .u16 0] rfl (by kernel_rfl) (by kernel_rfl) (by kernel_rfl)
      (OpenSpec.preRow_of_cond 8 hx (by kernel_rfl) (fun k hk => by cases hk) (by kernel_rfl) (laid_met os))) ?_
  intro W base args ds gs before hval0 hW _ _ _ hL _ _
  have hval : ∀ (j : Nat) t v, Tryd.f5.params[j]? = some t → args[j]? = some v → Value.okWide Tryd.prog W .any base t v := hval0
  have hW' := hW
  obtain ⟨p, q, hA0, hV, rfl, hfz, hnd⟩ := hW
  have hA : DataW.TrodAll enc Tryd.prog W 0 (fun _ => true) true Tryd.f5.params.toList args.toList ds p := hA0
  rw [Tryd.params5] at hA hval
  obtain ⟨v0, vs0, d0, ds0, p0, q0, hargs, rfl, rfl, h0, r0⟩ := trodAll_cons hA
  obtain ⟨rfl, rfl, rfl⟩ := trodAll_nil r0
  obtain rfl : args = #[v0] := by cases args; simp_all
  obtain ⟨rfl, rfl⟩ := trodVars_none hV
  obtain ⟨a0, rfl, rfl, rfl, w0⟩ := open_int Tryd.underlying32 (hval 0 32 v0 rfl rfl) h0
  clear hA0 hval0
  refine (walk a0 w0 W (tabAt_of hL)).mono fun e W' ⟨he, bel⟩ => ?_
  subst he
  exact ⟨_, rfl, _, _, _, [], _, [], hW', trodAll_mk1 (shut_bool Tryd.underlying4 _), (trodAll_cons_mk (shut_int Tryd.underlying32 w0) trodAll_mk0), rfl, bel.frame _, fun h => by cases h⟩

theorem said : Rows.NamesShortSaid :=
  OpenClaim.holds_of_cond 5 Tryd.f5 rfl rfl rfl rfl rfl rfl rfl ⟨rfl, rfl, rfl, rfl, rfl⟩ rfl rfl rfl rfl rfl (by kernel_rfl) Tryd.func5 (by kernel_rfl)
    (of_decide_eq_true (by kernel_rfl)) (by unfold Func.isWrapper; first | (rw [if_pos (by decide +kernel)]; kernel_rfl) | (rw [if_neg (by decide +kernel)]; exact ⟨rfl, rfl⟩))
    (fun os started H enc _ F => by rw [OpenClaim.pre_eq_preRow]; exact lifted os started H enc F)
theorem plain (f : FuncId) (fn : Func) (hf : Tryd.pinned.checked.prog.funcNamed "flail/flaillaw06.NamesShort" = some f) (hfn : Tryd.pinned.checked.prog.funcs[f]? = some fn) :
    true = Tryd.pinned.checked.prog.looks [] ∧ ∀ (j : Nat) t, fn.params[j]? = some t → Tryd.pinned.checked.prog.wantsStandIn t = false := by
  obtain rfl : f = 5 := Option.some.inj ((show Tryd.prog.funcNamed "flail/flaillaw06.NamesShort" = some 5 by kernel_rfl).symm.trans hf) |>.symm
  obtain rfl : fn = Tryd.f5 := (Option.some.inj (Tryd.func5.symm.trans hfn)).symm
  refine ⟨by kernel_rfl, fun j t ht => ?_⟩
  rw [Tryd.params5] at ht
  have hm : t ∈ [32] := by simpa using Array.mem_of_getElem? ht
  have hall : ([32].all fun u => !Tryd.prog.wantsStandIn u) = true := by kernel_rfl
  exact (show Tryd.prog.wantsStandIn t = false by simpa using List.all_eq_true.1 hall t hm)
/-- the statement: the row's card -/
theorem proved : Rows.NamesShortCardSaid :=
  Claim7.holds_tied_plain_at .later [] _ _ _ _ said (fun _ h => by cases h) (by kernel_rfl) (fun _ h => by cases h) namesShort_row_tie rfl ⟨rfl, rfl⟩ (by kernel_rfl) rfl plain (by kernel_rfl)
end Go.Proofs.YtnbafhaajckdcaaDoor.namesShort
