/-
  The law NamesBeyond of flail/flaillaw06 answers true for every input, and changes nothing that was there. Condition, which the card ties to the program's text: when the call begins, the package variables that the row lists hold what that text lays in them (math/bits.deBruijn32tab, math/bits.deBruijn64tab, internal/strconv.uint64pow10, strconv.ErrRange, strconv.ErrSyntax).
-/
import Derived.Test.YtnbafhaajckdcaaDoorRows
import Derived.Test.YtnbafhaajckdcaaDoorNamAwake
import Derived.Test.YtnbafhaajckdcaaDoorNamLast
import Derived.Test.YtnbafhaajckdcaaDoorNamNth
import Derived.Test.YtnbafhaajckdcaaDoorCards
import Derived.Test.YtnbafhaajckdcaaDoorNamLaid
import Derived.WalkKit
import Derived.ProofKit
import Derived.ChangeOld
import Derived.Below
import Derived.OpenShut
import Derived.ShutString
namespace Go.Proofs.YtnbafhaajckdcaaDoor.namesBeyond
open Go.ChangeShapes Go.WideShapes Go.ChangeAt Go.RowKit
open Go.ChangeMaps (open_string shut_string)
set_option linter.unusedVariables false      -- a walk need not use every 'w<i>' (that an integer argument fits its kind)

theorem own : ownKnob Tryd.prog.godebug = none := by kernel_rfl

theorem beyond_one (a q m : ByteArray) (h : (nmLook q.data.toList).isSome = true) : bestL nmRows (winL (a ++ q ++ (⟨#[32]⟩ : ByteArray) ++ m).data.toList (a.size : Int) 32) = q.size := by
  have e : (a ++ q ++ (⟨#[32]⟩ : ByteArray) ++ m).data.toList = a.data.toList ++ (q.data.toList ++ 32 :: m.data.toList) := by
    simp only [ByteArray.data_append, Array.toList_append, List.append_assoc]; rfl
  rw [e, Lib.size_eq a, win_ahead, best_bound, best_blank _ _ h, Lib.size_eq]
theorem beyond_two (a q m : ByteArray) (h : (nmLook q.data.toList).isSome = true) :
    q.size ≤ bestL nmRows (winL (a ++ q ++ m).data.toList (a.size : Int) 32) ∧ (Lib.hasSuffix q.data.toList [59] = true → bestL nmRows (winL (a ++ q ++ m).data.toList (a.size : Int) 32) = q.size) := by
  have e : (a ++ q ++ m).data.toList = a.data.toList ++ (q.data.toList ++ m.data.toList) := by
    simp only [ByteArray.data_append, Array.toList_append, List.append_assoc]
  rw [e, Lib.size_eq a, win_ahead, best_bound, Lib.size_eq q]
  exact ⟨best_more _ _ h, fun h59 => best_semi _ _ h h59⟩
set_option maxRecDepth 100000 in
set_option maxHeartbeats 1000000 in
theorem walk (a0 : Int) (a1 : ByteArray) (a2 : ByteArray) (w0 : (Lit.int .u16 a0).wf = true) (w1 : a1.size ≤ maxLen) (w2 : a2.size ≤ maxLen) (w : World) (hT : TabAt w) :
    Calls Tryd.prog 7 #[.int .u16 a0, .string a1, .string a2] w fun e w' => e = .returned (.bool true) ∧ Below w.heap.size w w' := by
  have hb0 : 0 ≤ a0 ∧ a0 ≤ 65535 := by simpa [Lit.wf, IntKind.min, IntKind.max, IntKind.signed, IntKind.bits] using w0
  have HW := Lib.hid hT
  have HN : ∀ w, ∃ r ∈ nmRows, Hid (Calls Tryd.prog 14 #[.int .i64 a0] w fun e w' => e = .returned (strV r.1) ∧ w = w') := fun w => by
    obtain ⟨r, h1, h2⟩ := refNth_any a0 w hb0
    exact ⟨r, h1, Lib.hid h2⟩
  clear w0 w1 w2 hT
  by_cases h1 : 300 < a1.size
  · have d0 : decide ((300 : Int) < (a1.size : Int)) = true := decide_eq_true (by omega)
    clear HN
    go_enter Tryd.func7, Tryd.ntmps7
    go_wp2_with (fail)
    refine (nmAwake_any w HW.out).mono ?_
    rintro e w1 ⟨rfl, c1⟩
    go_wp2
    go_ret
    exact ⟨rfl, c1⟩
  have d0 : decide ((300 : Int) < (a1.size : Int)) = false := decide_eq_false (by omega)
  by_cases h2 : 300 < a2.size
  · have d1 : decide ((300 : Int) < (a2.size : Int)) = true := decide_eq_true (by omega)
    clear HN
    go_enter Tryd.func7, Tryd.ntmps7
    go_wp2_with (fail)
    refine (nmAwake_any w HW.out).mono ?_
    rintro e w1 ⟨rfl, c1⟩
    go_wp2
    go_ret
    exact ⟨rfl, c1⟩
  have d1 : decide ((300 : Int) < (a2.size : Int)) = false := decide_eq_false (by omega)
  go_enter Tryd.func7, Tryd.ntmps7
  go_wp2_with (fail)
  refine (nmAwake_any w HW.out).mono ?_
  rintro e w1 ⟨rfl, c1⟩
  obtain ⟨r, hr, HN1⟩ := HN w1
  have hlk := look_of hr
  have hp := nm_row _ hr
  have hd : (⟨r.1.toArray⟩ : ByteArray).data.toList = r.1 := List.toList_toArray
  unfold strV at HN1
  generalize (⟨r.1.toArray⟩ : ByteArray) = q at HN1 hd
  have hlen := hp.len
  have hsq : q.size = r.1.length := by rw [Lib.size_eq, hd]
  have hq0 : 0 < q.size := by rw [hsq]; exact List.length_pos_iff.2 hp.ne
  have hsz : q.size ≤ 32 := by omega
  have hsome : (nmLook q.data.toList).isSome = true := by rw [hd, hlk]; rfl
  obtain ⟨j, hj⟩ : ∃ j : Nat, (q.size : Int) - 1 = (j : Int) := ⟨q.size - 1, by omega⟩
  have hj1 : j < q.size := by omega
  have b4 := last_eq q j hj1 (by omega)
  have H1 := fun w => Lib.hid (nmLongest_any (a1 ++ q ++ (⟨#[32]⟩ : ByteArray) ++ a2) (a1.size : Int) w (by omega))
  have H2 := fun w => Lib.hid (nmLongest_any (a1 ++ q ++ a2) (a1.size : Int) w (by omega))
  rw [beyond_one a1 q a2 hsome] at H1
  obtain ⟨k1, k2⟩ := beyond_two a1 q a2 hsome
  obtain ⟨B, hB⟩ : ∃ B, bestL nmRows (winL (a1 ++ q ++ a2).data.toList (a1.size : Int) 32) = B := ⟨_, rfl⟩
  rw [hB] at H2 k1 k2
  have hBb : B ≤ 32 := by
    rw [← hB]
    refine Nat.le_trans (best_le nmRows _) ?_
    unfold winL
    split
    · simp
    · rw [List.length_take]; omega
  clear hB hlk hp hd hlen hsq hsome HN
  by_cases h59 : Lib.hasSuffix q.data.toList [59] = true
  · obtain rfl := k2 h59
    rw [h59] at b4
    clear h59 k1 k2
    go_wp2_with (fail)
    refine HN1.out.mono ?_
    rintro e w2 ⟨rfl, rfl⟩
    go_wp2_with (fail)
    refine (H1 _).out.mono ?_
    rintro e w3 ⟨rfl, n1, rfl⟩
    go_wp2_with (fail)
    refine (H2 _).out.mono ?_
    rintro e w4 ⟨rfl, n2, rfl⟩
    go_wp2
    go_ret
    exact ⟨ret_bool (by simp), c1.trans (dr_below _ w1 (n1 + n2))⟩
  · have h59' : Lib.hasSuffix q.data.toList [59] = false := by simpa using h59
    rw [h59'] at b4
    have b5 : decide ((q.size : Int) ≤ (B : Int)) = true := decide_eq_true (by omega)
    clear h59 h59' k2
    go_wp2_with (fail)
    refine HN1.out.mono ?_
    rintro e w2 ⟨rfl, rfl⟩
    go_wp2_with (fail)
    refine (H1 _).out.mono ?_
    rintro e w3 ⟨rfl, n1, rfl⟩
    go_wp2_with (fail)
    refine (H2 _).out.mono ?_
    rintro e w4 ⟨rfl, n2, rfl⟩
    go_wp2
    go_ret
    exact ⟨ret_bool (by simp), c1.trans (dr_below _ w1 (n1 + n2))⟩
  -- go_wp2
  -- go_ret
  -- exact ⟨rfl, by repeat (first | exact Grown.refl _ | apply Grown.drew | apply Grown.alloc)⟩

theorem laid_met (os : Os) : laidMet Tryd.prog Rows.namesBeyondRow.laid ((laidWorld os).forCall (fun _ _ => 0) ⟨#[], #[.int .u16 0, .string ByteArray.empty, .string ByteArray.empty], []⟩).memory :=
  laidMet_of_run' 8 (by kernel_rfl) (by kernel_rfl)
theorem reads (os : Os) {H : Type} (enc : TypeId × Value → H) : ∃ places, DataW.whole enc Tryd.prog ((laidWorld os).forCall (fun _ _ => 0) ⟨#[], #[.int .u16 0, .string ByteArray.empty, .string ByteArray.empty], []⟩).memory Tryd.f7.params.toList Rows.namesBeyondSpec.vars false (#[.int .u16 0, .string ByteArray.empty, .string ByteArray.empty] : Array Value).toList 8 = some ([.lit (.int .u16 0), .lit (.string []), .lit (.string [])], [], places) :=
  ⟨[], by kernel_rfl⟩
set_option maxRecDepth 100000 in
theorem lifted (os : Os) (started : os.Started) (H : Type) (enc : TypeId × Value → H) (F : Stop.Interp) :
    ReturnsInHanded {} Tryd.checked os 7 .any ((OpenSpec.ofChange Rows.namesBeyondSpec).preRow enc Tryd.prog Tryd.f7 Rows.namesBeyondRow.domain false Rows.namesBeyondRow.laid) (((OpenSpec.ofChange Rows.namesBeyondSpec).at F).post enc Tryd.prog Tryd.f7 false true false false) := by
  obtain ⟨places, hx⟩ := reads os enc
  refine returnsInHanded_of_row (C := Tryd.checked) (s := OpenSpec.ofChange Rows.namesBeyondSpec) own started (by kernel_rfl) Tryd.func7
    (witness_row_at (enc := enc) (C := Tryd.checked) false (laidWorld os) #[.int .u16 0, .string ByteArray.empty, .string ByteArray.empty] rfl (by kernel_rfl) (by kernel_rfl) (by kernel_rfl)
      (OpenSpec.preRow_of_cond 8 hx (by kernel_rfl) (fun k hk => by cases hk) (by kernel_rfl) (laid_met os))) ?_
  intro W base args ds gs before hval0 hW _ _ _ hL _ _
  have hval : ∀ (j : Nat) t v, Tryd.f7.params[j]? = some t → args[j]? = some v → Value.okWide Tryd.prog W .any base t v := hval0
  have hW' := hW
  obtain ⟨p, q, hA0, hV, rfl, hfz, hnd⟩ := hW
  have hA : DataW.TrodAll enc Tryd.prog W 0 (fun _ => true) true Tryd.f7.params.toList args.toList ds p := hA0
  rw [Tryd.params7] at hA hval
  obtain ⟨v0, vs0, d0, ds0, p0, q0, hargs, rfl, rfl, h0, r0⟩ := trodAll_cons hA
  obtain ⟨v1, vs1, d1, ds1, p1, q1, rfl, rfl, rfl, h1, r1⟩ := trodAll_cons r0
  obtain ⟨v2, vs2, d2, ds2, p2, q2, rfl, rfl, rfl, h2, r2⟩ := trodAll_cons r1
  obtain ⟨rfl, rfl, rfl⟩ := trodAll_nil r2
  obtain rfl : args = #[v0, v1, v2] := by cases args; simp_all
  obtain ⟨rfl, rfl⟩ := trodVars_none hV
  obtain ⟨a0, rfl, rfl, rfl, w0⟩ := open_int Tryd.underlying32 (hval 0 32 v0 rfl rfl) h0
  obtain ⟨a1, rfl, rfl, rfl, w1⟩ := open_string Tryd.underlying9 (hval 1 9 v1 rfl rfl) h1
  obtain ⟨a2, rfl, rfl, rfl, w2⟩ := open_string Tryd.underlying9 (hval 2 9 v2 rfl rfl) h2
  clear hA0 hval0
  refine (walk a0 a1 a2 w0 w1 w2 W (tabAt_of hL)).mono fun e W' ⟨he, bel⟩ => ?_
  subst he
  exact ⟨_, rfl, _, _, _, [], _, [], hW', trodAll_mk1 (shut_bool Tryd.underlying4 _), (trodAll_cons_mk (shut_int Tryd.underlying32 w0) (trodAll_cons_mk (shut_string Tryd.underlying9 w1) (trodAll_cons_mk (shut_string Tryd.underlying9 w2) trodAll_mk0))), rfl, bel.frame _, fun h => by cases h⟩

theorem said : Rows.NamesBeyondSaid :=
  OpenClaim.holds_of_cond 7 Tryd.f7 rfl rfl rfl rfl rfl rfl rfl ⟨rfl, rfl, rfl, rfl, rfl⟩ rfl rfl rfl rfl rfl (by kernel_rfl) Tryd.func7 (by kernel_rfl)
    (of_decide_eq_true (by kernel_rfl)) (by unfold Func.isWrapper; first | (rw [if_pos (by decide +kernel)]; kernel_rfl) | (rw [if_neg (by decide +kernel)]; exact ⟨rfl, rfl⟩))
    (fun os started H enc _ F => by rw [OpenClaim.pre_eq_preRow]; exact lifted os started H enc F)
theorem plain (f : FuncId) (fn : Func) (hf : Tryd.pinned.checked.prog.funcNamed "flail/flaillaw06.NamesBeyond" = some f) (hfn : Tryd.pinned.checked.prog.funcs[f]? = some fn) :
    true = Tryd.pinned.checked.prog.looks [] ∧ ∀ (j : Nat) t, fn.params[j]? = some t → Tryd.pinned.checked.prog.wantsStandIn t = false := by
  obtain rfl : f = 7 := Option.some.inj ((show Tryd.prog.funcNamed "flail/flaillaw06.NamesBeyond" = some 7 by kernel_rfl).symm.trans hf) |>.symm
  obtain rfl : fn = Tryd.f7 := (Option.some.inj (Tryd.func7.symm.trans hfn)).symm
  refine ⟨by kernel_rfl, fun j t ht => ?_⟩
  rw [Tryd.params7] at ht
  have hm : t ∈ [32, 9] := by simpa using Array.mem_of_getElem? ht
  have hall : ([32, 9].all fun u => !Tryd.prog.wantsStandIn u) = true := by kernel_rfl
  exact (show Tryd.prog.wantsStandIn t = false by simpa using List.all_eq_true.1 hall t hm)
/-- the statement: the row's card -/
theorem proved : Rows.NamesBeyondCardSaid :=
  Claim7.holds_tied_plain_at .later [] _ _ _ _ said (fun _ h => by cases h) (by kernel_rfl) (fun _ h => by cases h) namesBeyond_row_tie rfl ⟨rfl, rfl⟩ (by kernel_rfl) rfl plain (by kernel_rfl)
end Go.Proofs.YtnbafhaajckdcaaDoor.namesBeyond
