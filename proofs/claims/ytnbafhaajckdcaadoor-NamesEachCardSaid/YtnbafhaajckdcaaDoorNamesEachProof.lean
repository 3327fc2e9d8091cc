/-
  The law NamesEach of flail/flaillaw06 answers true for every input, and changes nothing that was there. Condition, which the card ties to the program's text: when the call begins, the package variables that the row lists hold what that text lays in them (math/bits.deBruijn32tab, math/bits.deBruijn64tab, internal/strconv.uint64pow10, strconv.ErrRange, strconv.ErrSyntax).
-/
import Derived.Test.YtnbafhaajckdcaaDoorRows
import Derived.Test.YtnbafhaajckdcaaDoorNamAwake
import Derived.Test.YtnbafhaajckdcaaDoorNamRefC
import Derived.Test.YtnbafhaajckdcaaDoorNamLast
import Derived.Test.YtnbafhaajckdcaaDoorNamNth
import Derived.Test.YtnbafhaajckdcaaDoorUtfLaws
import Derived.Test.YtnbafhaajckdcaaDoorUtfRefDec
import Derived.Test.YtnbafhaajckdcaaDoorCards
import Derived.Test.YtnbafhaajckdcaaDoorNamLaid
import Derived.WalkKit
import Derived.ProofKit
import Derived.ChangeOld
import Derived.Below
import Derived.OpenShut
import Derived.ShutString
namespace Go.Proofs.YtnbafhaajckdcaaDoor.namesEach
open Go.ChangeShapes Go.WideShapes Go.ChangeAt Go.RowKit
open Go.ChangeMaps (open_string shut_string)
set_option linter.unusedVariables false      -- a walk need not use every 'w<i>' (that an integer argument fits its kind)

theorem own : ownKnob Tryd.prog.godebug = none := by kernel_rfl

theorem win_zero (r : ByteArray) : winL r.data.toList 0 32 = r.data.toList.take 32 := by
  unfold winL
  rw [if_neg (by omega)]; rfl
theorem text_right (x y : Nat) : Lib.validD (textL x y) = true := by
  unfold textL
  by_cases h : y = 0
  · rw [if_pos h, List.append_nil]
    obtain ⟨q, hq, e, _⟩ := enc_is (x : Int)
    have := validD_enc q hq []
    rw [List.append_nil] at this
    rw [e, this]; rfl
  · rw [if_neg h]; exact two_right _ _
set_option maxRecDepth 100000 in
set_option maxHeartbeats 1000000 in
theorem walk (a0 : Int) (w0 : (Lit.int .u16 a0).wf = true) (w : World) (hT : TabAt w) :
    Calls Tryd.prog 4 #[.int .u16 a0] w fun e w' => e = .returned (.bool true) ∧ Below w.heap.size w w' := by
  have hb0 : 0 ≤ a0 ∧ a0 ≤ 65535 := by simpa [Lit.wf, IntKind.min, IntKind.max, IntKind.signed, IntKind.bits] using w0
  have HW := Lib.hid hT
  obtain ⟨r, hr, -⟩ := refNth_any a0 w hb0
  have HN : ∀ w, ∃ r ∈ nmRows, Hid (Calls Tryd.prog 14 #[.int .i64 a0] w fun e w' => e = .returned (strV r.1) ∧ w = w') := fun w => by
    obtain ⟨r, h1, h2⟩ := refNth_any a0 w hb0
    exact ⟨r, h1, Lib.hid h2⟩
  clear hr r w0 hT
  go_enter Tryd.func4, Tryd.ntmps4
  go_wp2_with (fail)
  refine (nmAwake_any w HW.out).mono ?_
  rintro e w1 ⟨rfl, c1⟩
  obtain ⟨r, hr, HN1⟩ := HN w1
  have hlk := look_of hr
  have hp := nm_row _ hr
  have hd : (⟨r.1.toArray⟩ : ByteArray).data.toList = r.1 := List.toList_toArray
  unfold strV at HN1
  generalize (⟨r.1.toArray⟩ : ByteArray) = q at HN1 hd
  have hlen := hp.len
  have hsq : q.size = r.1.length := by rw [Lib.size_eq, hd]
  have hsz : q.size ≤ 32 := by omega
  have hsome : (nmLook q.data.toList).isSome = true := by rw [hd, hlk]; rfl
  have hx := aOf_lt q.data.toList
  have hy := bOf_lt q.data.toList
  obtain ⟨t1, t2, t3⟩ := text_len q.data.toList hsome
  have HV := fun w h => Lib.hid (value_any q w h)
  have HR := fun w => Lib.hid (refNmText_any q w (by omega))
  have HL := fun w => Lib.hid (nmLongest_any q 0 w (by decide))
  have hL : bestL nmRows (winL q.data.toList 0 32) = q.size := by
    rw [win_zero, best_bound, Lib.size_eq]
    have := best_more q.data.toList [] hsome
    have h2 := best_le nmRows q.data.toList
    rw [List.append_nil] at this
    omega
  rw [hL] at HL
  rw [hsome] at HV
  obtain ⟨x, hx'⟩ : ∃ x, aOf (nmLook q.data.toList) = x := ⟨_, rfl⟩
  obtain ⟨y, hy'⟩ : ∃ y, bOf (nmLook q.data.toList) = y := ⟨_, rfl⟩
  rw [hx', hy'] at HV HR t1 t2 t3
  rw [hx'] at hx
  rw [hy'] at hy
  have HT := fun w => Lib.hid (text_any x y w (by omega) (by omega))
  have hrt := text_right x y
  have hdt : (⟨(textL x y).toArray⟩ : ByteArray).data.toList = textL x y := List.toList_toArray
  rw [← hdt] at hrt
  have hst : (⟨(textL x y).toArray⟩ : ByteArray).size = (textL x y).length := by rw [Lib.size_eq, hdt]
  generalize (⟨(textL x y).toArray⟩ : ByteArray) = s at *
  have hs8 : s.size ≤ 8 := by omega
  have hs0 : 0 < s.size := by omega
  have hs2 : s.size ≤ 2 * q.size + 2 := by rw [Lib.size_eq q]; omega
  have HRT := fun w => Lib.hid (refRight_any s w (by omega))
  rw [hrt] at HRT
  have d1 : decide ((0 : Int) < (s.size : Int)) = true := decide_eq_true (by omega)
  have d2 : decide ((s.size : Int) ≤ 2 * (q.size : Int) + 2) = true := decide_eq_true (by omega)
  clear t1 t2 t3 hx hy hx' hy' hsome hlen hsq hlk hp hd hL hrt hdt hst HN
  go_wp2_with (fail)
  refine HN1.out.mono ?_
  rintro e w2 ⟨rfl, rfl⟩
  go_wp2_with (fail)
  refine (HV _ (HW.out.below c1)).out.mono ?_
  rintro e w3 ⟨rfl, c2⟩
  have c3 := c1.trans (c2.mono c1.size)
  go_wp2_with (fail)
  refine (HT _).out.mono ?_
  rintro e w4 ⟨rfl, rfl⟩
  go_wp2_with (fail)
  refine (HR _).out.mono ?_
  rintro e w5 ⟨rfl, c4⟩
  have c5 := c3.trans (c4.mono c3.size)
  go_wp2_with (fail)
  refine (HRT _).out.mono ?_
  rintro e w6 ⟨rfl, c6⟩
  have c7 := c5.trans (c6.mono c5.size)
  go_wp2_with (fail)
  refine (HL _).out.mono ?_
  rintro e w7 ⟨rfl, n, rfl⟩
  go_wp2
  go_ret
  exact ⟨ret_bool (by simp), c7.trans (dr_below _ w6 n)⟩
  -- go_wp2
  -- go_ret
  -- exact ⟨rfl, by repeat (first | exact Grown.refl _ | apply Grown.drew | apply Grown.alloc)⟩

theorem laid_met (os : Os) : laidMet Tryd.prog Rows.namesEachRow.laid ((laidWorld os).forCall (fun _ _ => 0) ⟨#[], #[.int .u16 0], []⟩).memory :=
  laidMet_of_run' 8 (by kernel_rfl) (by kernel_rfl)
theorem reads (os : Os) {H : Type} (enc : TypeId × Value → H) : ∃ places, DataW.whole enc Tryd.prog ((laidWorld os).forCall (fun _ _ => 0) ⟨#[], #[.int .u16 0], []⟩).memory Tryd.f4.params.toList Rows.namesEachSpec.vars false (#[.int .u16 0] : Array Value).toList 8 = some ([.lit (.int .u16 0)], [], places) :=
  ⟨[], by kernel_rfl⟩
set_option maxRecDepth 100000 in
theorem lifted (os : Os) (started : os.Started) (H : Type) (enc : TypeId × Value → H) (F : Stop.Interp) :
    ReturnsInHanded {} Tryd.checked os 4 .any ((OpenSpec.ofChange Rows.namesEachSpec).preRow enc Tryd.prog Tryd.f4 Rows.namesEachRow.domain false Rows.namesEachRow.laid) (((OpenSpec.ofChange Rows.namesEachSpec).at F).post enc Tryd.prog Tryd.f4 false true false false) := by
  obtain ⟨places, hx⟩ := reads os enc
  refine returnsInHanded_of_row (C := Tryd.checked) (s := OpenSpec.ofChange Rows.namesEachSpec) own started (by kernel_rfl) Tryd.func4
    (witness_row_at (enc := enc) (C := Tryd.checked) false (laidWorld os) #[.int .u16 0] rfl (by kernel_rfl) (by kernel_rfl) (by kernel_rfl)
      (OpenSpec.preRow_of_cond 8 hx (by kernel_rfl) (fun k hk => by cases hk) (by kernel_rfl) (laid_met os))) ?_
  intro W base args ds gs before hval0 hW _ _ _ hL _ _
  have hval : ∀ (j : Nat) t v, Tryd.f4.params[j]? = some t → args[j]? = some v → Value.okWide Tryd.prog W .any base t v := hval0
  have hW' := hW
  obtain ⟨p, q, hA0, hV, rfl, hfz, hnd⟩ := hW
  have hA : DataW.TrodAll enc Tryd.prog W 0 (fun _ => true) true Tryd.f4.params.toList args.toList ds p := hA0
  rw [Tryd.params4] at hA hval
  obtain ⟨v0, vs0, d0, ds0, p0, q0, hargs, rfl, rfl, h0, r0⟩ := trodAll_cons hA
  obtain ⟨rfl, rfl, rfl⟩ := trodAll_nil r0
  obtain rfl : args = #[v0] := by cases args; simp_all
  obtain ⟨rfl, rfl⟩ := trodVars_none hV
  obtain ⟨a0, rfl, rfl, rfl, w0⟩ := open_int Tryd.underlying32 (hval 0 32 v0 rfl rfl) h0
  clear hA0 hval0
  refine (walk a0 w0 W (tabAt_of hL)).mono fun e W' ⟨he, bel⟩ => ?_
  subst he
  exact ⟨_, rfl, _, _, _, [], _, [], hW', trodAll_mk1 (shut_bool Tryd.underlying4 _), (trodAll_cons_mk (shut_int Tryd.underlying32 w0) trodAll_mk0), rfl, bel.frame _, fun h => by cases h⟩

theorem said : Rows.NamesEachSaid :=
  OpenClaim.holds_of_cond 4 Tryd.f4 rfl rfl rfl rfl rfl rfl rfl ⟨rfl, rfl, rfl, rfl, rfl⟩ rfl rfl rfl rfl rfl (by kernel_rfl) Tryd.func4 (by kernel_rfl)
    (of_decide_eq_true (by kernel_rfl)) (by unfold Func.isWrapper; first | (rw [if_pos (by decide +kernel)]; kernel_rfl) | (rw [if_neg (by decide +kernel)]; exact ⟨rfl, rfl⟩))
    (fun os started H enc _ F => by rw [OpenClaim.pre_eq_preRow]; exact lifted os started H enc F)
theorem plain (f : FuncId) (fn : Func) (hf : Tryd.pinned.checked.prog.funcNamed "flail/flaillaw06.NamesEach" = some f) (hfn : Tryd.pinned.checked.prog.funcs[f]? = some fn) :
    true = Tryd.pinned.checked.prog.looks [] ∧ ∀ (j : Nat) t, fn.params[j]? = some t → Tryd.pinned.checked.prog.wantsStandIn t = false := by
  obtain rfl : f = 4 := Option.some.inj ((show Tryd.prog.funcNamed "flail/flaillaw06.NamesEach" = some 4 by kernel_rfl).symm.trans hf) |>.symm
  obtain rfl : fn = Tryd.f4 := (Option.some.inj (Tryd.func4.symm.trans hfn)).symm
  refine ⟨by kernel_rfl, fun j t ht => ?_⟩
  rw [Tryd.params4] at ht
  have hm : t ∈ [32] := by simpa using Array.mem_of_getElem? ht
  have hall : ([32].all fun u => !Tryd.prog.wantsStandIn u) = true := by kernel_rfl
  exact (show Tryd.prog.wantsStandIn t = false by simpa using List.all_eq_true.1 hall t hm)
/-- the statement: the row's card -/
theorem proved : Rows.NamesEachCardSaid :=
  Claim7.holds_tied_plain_at .later [] _ _ _ _ said (fun _ h => by cases h) (by kernel_rfl) (fun _ h => by cases h) namesEach_row_tie rfl ⟨rfl, rfl⟩ (by kernel_rfl) rfl plain (by kernel_rfl)
end Go.Proofs.YtnbafhaajckdcaaDoor.namesEach
