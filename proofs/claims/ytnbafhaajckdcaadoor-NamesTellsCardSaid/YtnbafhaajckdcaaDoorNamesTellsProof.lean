/-
  The law NamesTells of flail/flaillaw06 answers true for every input, and changes nothing that was there. Condition, which the card ties to the program's text: when the call begins, the package variables that the row lists hold what that text lays in them (math/bits.deBruijn32tab, math/bits.deBruijn64tab, internal/strconv.uint64pow10, strconv.ErrRange, strconv.ErrSyntax).
-/
import Derived.Test.YtnbafhaajckdcaaDoorRows
import Derived.Test.YtnbafhaajckdcaaDoorNamAwake
import Derived.Test.YtnbafhaajckdcaaDoorNamRefC
import Derived.Test.YtnbafhaajckdcaaDoorNamLast
import Derived.Test.YtnbafhaajckdcaaDoorCards
import Derived.Test.YtnbafhaajckdcaaDoorNamLaid
import Derived.WalkKit
import Derived.ProofKit
import Derived.ChangeOld
import Derived.Below
import Derived.OpenShut
import Derived.ShutString
namespace Go.Proofs.YtnbafhaajckdcaaDoor.namesTells
open Go.ChangeShapes Go.WideShapes Go.ChangeAt Go.RowKit
open Go.ChangeMaps (open_string shut_string)
set_option linter.unusedVariables false      -- a walk need not use every 'w<i>' (that an integer argument fits its kind)

theorem own : ownKnob Tryd.prog.godebug = none := by kernel_rfl

set_option maxRecDepth 100000 in
set_option maxHeartbeats 1000000 in
theorem walk (a0 : ByteArray) (a1 : ByteArray) (a2 : Int) (w0 : a0.size ≤ maxLen) (w1 : a1.size ≤ maxLen) (w2 : (Lit.int .i64 a2).wf = true) (w : World) (hT : TabAt w) :
    Calls Tryd.prog 3 #[.string a0, .string a1, .int .i64 a2] w fun e w' => e = .returned (.bool true) ∧ Below w.heap.size w w' := by
  have hb2 : -9223372036854775808 ≤ a2 ∧ a2 ≤ 9223372036854775807 := by simpa [Lit.wf, IntKind.min, IntKind.max, IntKind.signed, IntKind.bits] using w2
  clear w0 w1 w2
  have HW := Lib.hid hT
  clear hT
  by_cases h0 : 300 < a0.size
  · have d0 : decide ((300 : Int) < (a0.size : Int)) = true := decide_eq_true (by omega)
    go_enter Tryd.func3, Tryd.ntmps3
    go_wp2_with (fail)
    refine (nmAwake_any w HW.out).mono ?_
    rintro e w1 ⟨rfl, c1⟩
    go_wp2
    go_ret
    exact ⟨rfl, c1⟩
  have d0 : decide ((300 : Int) < (a0.size : Int)) = false := decide_eq_false (by omega)
  by_cases h1 : 300 < a1.size
  · have d1 : decide ((300 : Int) < (a1.size : Int)) = true := decide_eq_true (by omega)
    go_enter Tryd.func3, Tryd.ntmps3
    go_wp2_with (fail)
    refine (nmAwake_any w HW.out).mono ?_
    rintro e w1 ⟨rfl, c1⟩
    go_wp2
    go_ret
    exact ⟨rfl, c1⟩
  have d1 : decide ((300 : Int) < (a1.size : Int)) = false := decide_eq_false (by omega)
  have HV := fun w h => Lib.hid (value_any a0 w h)
  have HR := fun w => Lib.hid (refNmValue_any a0 w (by omega))
  have HS := fun w => Lib.hid (short_any a0 w (by omega))
  have HL := fun w => Lib.hid (nmLongest_any a1 a2 w hb2)
  have HM := fun w => Lib.hid (refNmLongest_any a1 a2 w (by omega) hb2)
  have hx := aOf_lt a0.data.toList
  have hy := bOf_lt a0.data.toList
  have hsz := look_size a0
  have hln := fun j h hj => last_ne a0 j h hj
  obtain ⟨x, hx'⟩ : ∃ x, aOf (nmLook a0.data.toList) = x := ⟨_, rfl⟩
  obtain ⟨y, hy'⟩ : ∃ y, bOf (nmLook a0.data.toList) = y := ⟨_, rfl⟩
  obtain ⟨I, hI⟩ : ∃ I, (nmLook a0.data.toList).isSome = I := ⟨_, rfl⟩
  obtain ⟨K, hK⟩ : ∃ K, Lib.hasSuffix a0.data.toList [59] = K := ⟨_, rfl⟩
  obtain ⟨L, hL⟩ : ∃ L : Int, (bestL nmRows (winL a1.data.toList a2 32) : Int) = L := ⟨_, rfl⟩
  rw [hx', hy', hI] at HV HR
  rw [hI, hK] at HS
  rw [hL] at HL HM
  rw [hI] at hsz
  rw [hK] at hln
  rw [hx'] at hx
  rw [hy'] at hy
  have c1 := fl_self x (by omega)
  have c2 := fl_self y (by omega)
  have f1 := fl_of x
  have f2 := fl_of y
  obtain ⟨F, hF⟩ : ∃ F, fl x = F := ⟨_, rfl⟩
  obtain ⟨G, hG⟩ : ∃ G, fl y = G := ⟨_, rfl⟩
  rw [hF] at HV c1 f1
  rw [hG] at HV c2 f2
  obtain ⟨X, hX⟩ : ∃ X : Int, (x : Int) = X := ⟨_, rfl⟩
  obtain ⟨Y, hY⟩ : ∃ Y : Int, (y : Int) = Y := ⟨_, rfl⟩
  rw [hX] at HR f1
  rw [hY] at HR f2
  clear hx' hy' hI hK hL hF hG hX hY hx hy h0 h1
  cases I
  · clear hsz hln
    go_enter Tryd.func3, Tryd.ntmps3
    go_wp2_with (fail)
    refine (nmAwake_any w HW.out).mono ?_
    rintro e w1 ⟨rfl, c1⟩
    go_wp2_with (fail)
    refine (HV _ (HW.out.below c1)).out.mono ?_
    rintro e w2 ⟨rfl, c2⟩
    have c3 := c1.trans (c2.mono c1.size)
    go_wp2_with (fail)
    refine (HR _).out.mono ?_
    rintro e w3 ⟨rfl, n, rfl⟩
    have c4 := c3.trans (dr_below _ w2 n)
    go_wp2_with (fail)
    refine (HS _).out.mono ?_
    rintro e w4 ⟨rfl, c5⟩
    have c6 := c4.trans (c5.mono c4.size)
    go_wp2_with (fail)
    refine (HL _).out.mono ?_
    rintro e w5 ⟨rfl, n1, rfl⟩
    go_wp2_with (fail)
    refine (HM _).out.mono ?_
    rintro e w6 ⟨rfl, n2, rfl⟩
    go_wp2
    go_ret
    exact ⟨ret_bool (by simp), c6.trans (dr_below _ w4 (n1 + n2))⟩
  · obtain ⟨z1, z2⟩ := hsz rfl
    obtain ⟨j, hj⟩ : ∃ j : Nat, (a0.size : Int) - 1 = (j : Int) := ⟨a0.size - 1, by omega⟩
    have hj1 : j < a0.size := by omega
    have b3 := hln j hj1 (by omega)
    clear hln hsz
    go_enter Tryd.func3, Tryd.ntmps3
    go_wp2_with (fail)
    refine (nmAwake_any w HW.out).mono ?_
    rintro e w1 ⟨rfl, c1⟩
    go_wp2_with (fail)
    refine (HV _ (HW.out.below c1)).out.mono ?_
    rintro e w2 ⟨rfl, c2⟩
    have c3 := c1.trans (c2.mono c1.size)
    go_wp2_with (fail)
    refine (HR _).out.mono ?_
    rintro e w3 ⟨rfl, n, rfl⟩
    have c4 := c3.trans (dr_below _ w2 n)
    go_wp2_with (fail)
    refine (HS _).out.mono ?_
    rintro e w4 ⟨rfl, c5⟩
    have c6 := c4.trans (c5.mono c4.size)
    go_wp2_with (fail)
    refine (HL _).out.mono ?_
    rintro e w5 ⟨rfl, n1, rfl⟩
    go_wp2_with (fail)
    refine (HM _).out.mono ?_
    rintro e w6 ⟨rfl, n2, rfl⟩
    go_wp2
    go_ret
    exact ⟨ret_bool (by simp), c6.trans (dr_below _ w4 (n1 + n2))⟩
  -- go_wp2
  -- go_ret
  -- exact ⟨rfl, by repeat (first | exact Grown.refl _ | apply Grown.drew | apply Grown.alloc)⟩

theorem laid_met (os : Os) : laidMet Tryd.prog Rows.namesTellsRow.laid ((laidWorld os).forCall (fun _ _ => 0) ⟨#[], #[.string ByteArray.empty, .string ByteArray.empty, .int .i64 0], []⟩).memory :=
  laidMet_of_run' 8 (by kernel_rfl) (by kernel_rfl)
theorem reads (os : Os) {H : Type} (enc : TypeId × Value → H) : ∃ places, DataW.whole enc Tryd.prog ((laidWorld os).forCall (fun _ _ => 0) ⟨#[], #[.string ByteArray.empty, .string ByteArray.empty, .int .i64 0], []⟩).memory Tryd.f3.params.toList Rows.namesTellsSpec.vars false (#[.string ByteArray.empty, .string ByteArray.empty, .int .i64 0] : Array Value).toList 8 = some ([.lit (.string []), .lit (.string []), .lit (.int .i64 0)], [], places) :=
  ⟨[], by kernel_rfl⟩
set_option maxRecDepth 100000 in
theorem lifted (os : Os) (started : os.Started) (H : Type) (enc : TypeId × Value → H) (F : Stop.Interp) :
    ReturnsInHanded {} Tryd.checked os 3 .any ((OpenSpec.ofChange Rows.namesTellsSpec).preRow enc Tryd.prog Tryd.f3 Rows.namesTellsRow.domain false Rows.namesTellsRow.laid) (((OpenSpec.ofChange Rows.namesTellsSpec).at F).post enc Tryd.prog Tryd.f3 false true false false) := by
  obtain ⟨places, hx⟩ := reads os enc
  refine returnsInHanded_of_row (C := Tryd.checked) (s := OpenSpec.ofChange Rows.namesTellsSpec) own started (by kernel_rfl) Tryd.func3
    (witness_row_at (enc := enc) (C := Tryd.checked) false (laidWorld os) #[.string ByteArray.empty, .string ByteArray.empty, .int .i64 0] rfl (by kernel_rfl) (by kernel_rfl) (by kernel_rfl)
      (OpenSpec.preRow_of_cond 8 hx (by kernel_rfl) (fun k hk => by cases hk) (by kernel_rfl) (laid_met os))) ?_
  intro W base args ds gs before hval0 hW _ _ _ hL _ _
  have hval : ∀ (j : Nat) t v, Tryd.f3.params[j]? = some t → args[j]? = some v → Value.okWide Tryd.prog W .any base t v := hval0
  have hW' := hW
  obtain ⟨p, q, hA0, hV, rfl, hfz, hnd⟩ := hW
  have hA : DataW.TrodAll enc Tryd.prog W 0 (fun _ => true) true Tryd.f3.params.toList args.toList ds p := hA0
  rw [Tryd.params3] at hA hval
  obtain ⟨v0, vs0, d0, ds0, p0, q0, hargs, rfl, rfl, h0, r0⟩ := trodAll_cons hA
  obtain ⟨v1, vs1, d1, ds1, p1, q1, rfl, rfl, rfl, h1, r1⟩ := trodAll_cons r0
  obtain ⟨v2, vs2, d2, ds2, p2, q2, rfl, rfl, rfl, h2, r2⟩ := trodAll_cons r1
  obtain ⟨rfl, rfl, rfl⟩ := trodAll_nil r2
  obtain rfl : args = #[v0, v1, v2] := by cases args; simp_all
  obtain ⟨rfl, rfl⟩ := trodVars_none hV
  obtain ⟨a0, rfl, rfl, rfl, w0⟩ := open_string Tryd.underlying9 (hval 0 9 v0 rfl rfl) h0
  obtain ⟨a1, rfl, rfl, rfl, w1⟩ := open_string Tryd.underlying9 (hval 1 9 v1 rfl rfl) h1
  obtain ⟨a2, rfl, rfl, rfl, w2⟩ := open_int Tryd.underlying3 (hval 2 3 v2 rfl rfl) h2
  clear hA0 hval0
  refine (walk a0 a1 a2 w0 w1 w2 W (tabAt_of hL)).mono fun e W' ⟨he, bel⟩ => ?_
  subst he
  exact ⟨_, rfl, _, _, _, [], _, [], hW', trodAll_mk1 (shut_bool Tryd.underlying4 _), (trodAll_cons_mk (shut_string Tryd.underlying9 w0) (trodAll_cons_mk (shut_string Tryd.underlying9 w1) (trodAll_cons_mk (shut_int Tryd.underlying3 w2) trodAll_mk0))), rfl, bel.frame _, fun h => by cases h⟩

theorem said : Rows.NamesTellsSaid :=
  OpenClaim.holds_of_cond 3 Tryd.f3 rfl rfl rfl rfl rfl rfl rfl ⟨rfl, rfl, rfl, rfl, rfl⟩ rfl rfl rfl rfl rfl (by kernel_rfl) Tryd.func3 (by kernel_rfl)
    (of_decide_eq_true (by kernel_rfl)) (by unfold Func.isWrapper; first | (rw [if_pos (by decide +kernel)]; kernel_rfl) | (rw [if_neg (by decide +kernel)]; exact ⟨rfl, rfl⟩))
    (fun os started H enc _ F => by rw [OpenClaim.pre_eq_preRow]; exact lifted os started H enc F)
theorem plain (f : FuncId) (fn : Func) (hf : Tryd.pinned.checked.prog.funcNamed "flail/flaillaw06.NamesTells" = some f) (hfn : Tryd.pinned.checked.prog.funcs[f]? = some fn) :
    true = Tryd.pinned.checked.prog.looks [] ∧ ∀ (j : Nat) t, fn.params[j]? = some t → Tryd.pinned.checked.prog.wantsStandIn t = false := by
  obtain rfl : f = 3 := Option.some.inj ((show Tryd.prog.funcNamed "flail/flaillaw06.NamesTells" = some 3 by kernel_rfl).symm.trans hf) |>.symm
  obtain rfl : fn = Tryd.f3 := (Option.some.inj (Tryd.func3.symm.trans hfn)).symm
  refine ⟨by kernel_rfl, fun j t ht => ?_⟩
  rw [Tryd.params3] at ht
  have hm : t ∈ [9, 3] := by simpa using Array.mem_of_getElem? ht
  have hall : ([9, 3].all fun u => !Tryd.prog.wantsStandIn u) = true := by kernel_rfl
  exact (show Tryd.prog.wantsStandIn t = false by simpa using List.all_eq_true.1 hall t hm)
/-- the statement: the row's card -/
theorem proved : Rows.NamesTellsCardSaid :=
  Claim7.holds_tied_plain_at .later [] _ _ _ _ said (fun _ h => by cases h) (by kernel_rfl) (fun _ h => by cases h) namesTells_row_tie rfl ⟨rfl, rfl⟩ (by kernel_rfl) rfl plain (by kernel_rfl)
end Go.Proofs.YtnbafhaajckdcaaDoor.namesTells
