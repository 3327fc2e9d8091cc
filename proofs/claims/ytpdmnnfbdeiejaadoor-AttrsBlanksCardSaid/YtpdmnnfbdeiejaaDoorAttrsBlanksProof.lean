/-
  The law AttrsBlanks of flail/flaillaw08 answers true for every input, and changes nothing that was there. Condition, which the card ties to the program's text: when the call begins, the package variables that the row lists hold what that text lays in them (math/bits.deBruijn32tab, math/bits.deBruijn64tab, internal/strconv.uint64pow10, strconv.ErrRange, strconv.ErrSyntax, flail/number.others).
-/
import Derived.Test.YtpdmnnfbdeiejaaDoorRows
import Derived.Test.YtpdmnnfbdeiejaaDoorAttAwake
import Derived.Test.YtpdmnnfbdeiejaaDoorAttRead
import Derived.Test.YtpdmnnfbdeiejaaDoorCards
import Derived.Test.YtpdmnnfbdeiejaaDoorP6
import Derived.WalkKit
import Derived.ProofKit
import Derived.ChangeOld
import Derived.Below
import Derived.OpenShut
import Derived.ShutString
namespace Go.Proofs.YtpdmnnfbdeiejaaDoor.attrsBlanks
open Go.ChangeShapes Go.WideShapes Go.ChangeAt Go.RowKit
open Go.ChangeMaps (open_string shut_string)
set_option linter.unusedVariables false      -- a walk need not use every 'w<i>' (that an integer argument fits its kind)

theorem own : ownKnob Tryd.prog.godebug = none := by kernel_rfl

theorem ahead_snoc (i : Nat) : aheadL (i + 1) = aheadL i ++ [47, 10, 32] := by
  induction i with
  | zero => rfl
  | succ i ih =>
    show 32 :: 47 :: 10 :: aheadL (i + 1) = (32 :: 47 :: 10 :: aheadL i) ++ [47, 10, 32]
    rw [ih]; rfl
theorem ahead_next (X : Txt) (i : Nat) (h : X ++ [32] = aheadL i) : (X ++ [32, 47, 10]) ++ [32] = aheadL (i + 1) := by
  rw [ahead_snoc, ← h]; simp
theorem blanks_some (N s : ByteArray) (i : Nat) (hN : N.data.toList = aheadL i) (l : List Ln) (self : Bool) (k : Nat) (h : runA (.s0 []) s.data.toList = some (l, self, k)) : attrsV (N ++ s).data.toList 0 = (l, self, (k : Int) + (N.size : Int), true) := by
  have e : runA (.s0 []) (N ++ s).data.toList = some (l, self, k + (3 * i + 1)) := by
    rw [ByteArray.data_append, Array.toList_append, hN, run_ahead, h]; rfl
  rw [zero_some _ _ _ _ e, Lib.size_eq N, hN, ahead_len]; simp
theorem blanks_none (N s : ByteArray) (i : Nat) (hN : N.data.toList = aheadL i) (h : runA (.s0 []) s.data.toList = none) : attrsV (N ++ s).data.toList 0 = ([], false, (N.size : Int) + (s.size : Int), false) := by
  have e : runA (.s0 []) (N ++ s).data.toList = none := by
    rw [ByteArray.data_append, Array.toList_append, hN, run_ahead, h]; rfl
  rw [zero_none _ e, ← Lib.size_eq, ByteArray.size_append]; simp
theorem cut_some (s m : ByteArray) (l : List Ln) (self : Bool) (k : Nat) (h : runA (.s0 []) s.data.toList = some (l, self, k)) : attrsV (s.extract 0 k ++ m).data.toList 0 = (l, self, (k : Int), true) := by
  refine zero_some _ _ _ _ ?_
  rw [ByteArray.data_append, Array.toList_append, Lib.extract_data, List.drop_zero, Nat.sub_zero]
  exact run_cut _ _ _ _ _ _ h
set_option maxRecDepth 100000 in
set_option maxHeartbeats 8000000 in
theorem walk (a0 : ByteArray) (a1 : ByteArray) (a2 : Int) (w0 : a0.size ≤ maxLen) (w1 : a1.size ≤ maxLen) (w2 : (Lit.int .u8 a2).wf = true) (w : World) (hT : LaidAt w) :
    Calls Tryd.prog 5 #[.string a0, .string a1, .int .u8 a2] w fun e w' => e = .returned (.bool true) ∧ Below w.heap.size w w' := by
  have hb2 : 0 ≤ a2 ∧ a2 ≤ 255 := by simpa [Lit.wf, IntKind.min, IntKind.max, IntKind.signed, IntKind.bits] using w2
  obtain ⟨h20, h21⟩ := hb2
  clear w0 w1 w2
  have HW := Lib.hid hT
  clear hT
  by_cases hl0 : 300 < a0.size
  · have d0 : decide ((300 : Int) < (a0.size : Int)) = true := decide_eq_true (by omega)
    go_enter Tryd.func5, Tryd.ntmps5
    go_wp2_with (fail)
    refine (attAwake_any w HW.out).mono ?_
    rintro e w1 ⟨rfl, c1⟩
    go_wp2
    go_ret
    exact ⟨rfl, c1⟩
  have d0 : decide ((300 : Int) < (a0.size : Int)) = false := decide_eq_false (by omega)
  by_cases hl1 : 300 < a1.size
  · have d1 : decide ((300 : Int) < (a1.size : Int)) = true := decide_eq_true (by omega)
    go_enter Tryd.func5, Tryd.ntmps5
    go_wp2_with (fail)
    refine (attAwake_any w HW.out).mono ?_
    rintro e w1 ⟨rfl, c1⟩
    go_wp2
    go_ret
    exact ⟨rfl, c1⟩
  have d1 : decide ((300 : Int) < (a1.size : Int)) = false := decide_eq_false (by omega)
  have hs0 : a0.size ≤ 300 := by omega
  have hs1 : a1.size ≤ 300 := by omega
  have i0 : 0 ≤ a2 % 9 := Int.emod_nonneg _ (by decide)
  have i1 : a2 % 9 < 9 := Int.emod_lt_of_pos _ (by decide)
  clear hl0 hl1
  go_enter Tryd.func5, Tryd.ntmps5
  go_wp2_with (fail)
  refine (attAwake_any w HW.out).mono ?_
  rintro e w1 ⟨rfl, c1⟩
  go_wp2
  clear d0 d1
  go_loopw [8, 9] (fun a v wr => ∃ (i : Nat) (A : ByteArray), a = .string A ∧ v = .int .i64 (i : Int) ∧ (i : Int) ≤ a2 % 9 ∧ A.data.toList ++ [32] = aheadL i ∧ A.size = 3 * i ∧ w1 = wr) (fun _ v _ => (a2 % 9).toNat - (intOf v).toNat)
  case atStart => exact ⟨0, ⟨#[]⟩, rfl, rfl, i0, rfl, rfl, rfl⟩
  case round =>
    obtain ⟨i, A, rfl, rfl, hi, hA, hAs, rfl⟩ := hrel
    have hA9 : A.size ≤ 27 := by omega
    by_cases hlt : (i : Int) < a2 % 9
    · have HA := Lib.hid (ahead_next A.data.toList i hA)
      have HS := Lib.hid hAs
      clear hA hAs
      go_wp2
      go_roundw
      case rel => exact ⟨i + 1, _, rfl, by simp, by omega, by rw [ByteArray.data_append, Array.toList_append]; exact HA.out, by rw [ByteArray.size_append, HS.out]; have : (ByteArray.mk #[32, 47, 10]).size = 3 := rfl; omega, trivial⟩
      case measure => simp [intOf]; omega
    · have hN : (A ++ ⟨#[32]⟩ : ByteArray).data.toList = aheadL i := by rw [ByteArray.data_append, Array.toList_append]; exact hA
      have z1 : (ByteArray.mk #[32]).size = 1 := rfl
      have hNs : (A ++ ⟨#[32]⟩ : ByteArray).size ≤ 28 := by rw [ByteArray.size_append, z1]; omega
      have g1 : ¬ 9223372036854775807 < A.size + (ByteArray.mk #[32]).size := by rw [z1]; omega
      obtain ⟨N, hNN⟩ : ∃ N, A ++ (⟨#[32]⟩ : ByteArray) = N := ⟨_, rfl⟩
      rw [hNN] at hN hNs
      have HNN := Lib.hid hNN
      have HR1 := fun w h => Lib.hid (attrs_any a0 0 w (by omega) (by decide) h)
      have HR2 := fun w h => Lib.hid (attrs_any (N ++ a0) 0 w (by rw [ByteArray.size_append]; omega) (by decide) h)
      have g2 : ¬ 9223372036854775807 < N.size + a0.size := by omega
      have HH := Lib.hid hN
      clear hN hNN hA hAs z1
      cases hrun : runA (.s0 []) a0.data.toList with
      | none =>
        have HV1 := Lib.hid (zero_none _ hrun)
        have HV2 := Lib.hid (blanks_none N a0 i HH.out hrun)
        rw [← Lib.size_eq] at HV1
        clear hrun
        go_wp2_with (fail)
        rw [HNN.out]
        go_wp2_with (fail)
        refine (HR1 _ (HW.out.below c1)).out.mono ?_
        rintro e w2 ⟨ad2, len2, cap2, l2, self2, n2, ok2, rfl, hr2, hv2, b2⟩
        rw [HV1.out] at hv2
        simp only [Prod.mk.injEq] at hv2
        obtain ⟨rfl, rfl, rfl, rfl⟩ := hv2
        have c2 := c1.trans (b2.mono c1.size)
        have K2 := Lib.hid hr2
        clear hr2
        go_wp2_with (fail)
        refine (HR2 _ (HW.out.below c2)).out.mono ?_
        rintro e w3 ⟨ad3, len3, cap3, l3, self3, n3, ok3, rfl, hr3, hv3, b3⟩
        rw [HV2.out] at hv3
        simp only [Prod.mk.injEq] at hv3
        obtain ⟨rfl, rfl, rfl, rfl⟩ := hv3
        have c3 := c2.trans (b3.mono c2.size)
        have K3 := Lib.hid hr3
        clear hr3
        go_wp2
        go_ret
        exact ⟨ret_bool (by simp), c3⟩
      | some r =>
        obtain ⟨l, self, k⟩ := r
        have he := run_ends _ _ _ _ _ hrun
        rw [← Lib.size_eq] at he
        have hk1 : 1 ≤ k := he.1
        have hk2 : k ≤ a0.size := he.2.1
        have HV1 := Lib.hid (zero_some _ _ _ _ hrun)
        have HV2 := Lib.hid (blanks_some N a0 i HH.out l self k hrun)
        have HV3 := Lib.hid (cut_some a0 a1 l self k hrun)
        have HR3 := fun w h => Lib.hid (attrs_any (a0.extract 0 k ++ a1) 0 w (by rw [ByteArray.size_append, ByteArray.size_extract]; omega) (by decide) h)
        have g3 : ¬ 9223372036854775807 < (a0.extract 0 k).size + a1.size := by rw [ByteArray.size_extract]; omega
        clear hrun he
        go_wp2_with (fail)
        rw [HNN.out]
        go_wp2_with (fail)
        refine (HR1 _ (HW.out.below c1)).out.mono ?_
        rintro e w2 ⟨ad2, len2, cap2, l2, self2, n2, ok2, rfl, hr2, hv2, b2⟩
        rw [HV1.out] at hv2
        simp only [Prod.mk.injEq] at hv2
        obtain ⟨rfl, rfl, rfl, rfl⟩ := hv2
        have c2 := c1.trans (b2.mono c1.size)
        have K2 := Lib.hid hr2
        clear hr2
        go_wp2_with (fail)
        refine (HR2 _ (HW.out.below c2)).out.mono ?_
        rintro e w3 ⟨ad3, len3, cap3, l3, self3, n3, ok3, rfl, hr3, hv3, b3⟩
        rw [HV2.out] at hv3
        simp only [Prod.mk.injEq] at hv3
        obtain ⟨rfl, rfl, rfl, rfl⟩ := hv3
        have c3 := c2.trans (b3.mono c2.size)
        have K3 := Lib.hid hr3
        clear hr3
        go_wp2_with (fail)
        refine (HR3 _ (HW.out.below c3)).out.mono ?_
        rintro e w4 ⟨ad4, len4, cap4, l4, self4, n4, ok4, rfl, hr4, hv4, b4⟩
        rw [HV3.out] at hv4
        simp only [Prod.mk.injEq] at hv4
        obtain ⟨rfl, rfl, rfl, rfl⟩ := hv4
        have c4 := c3.trans (b4.mono c3.size)
        have K4 := Lib.hid hr4
        clear hr4
        go_wp2_with (fail)
        refine (refSame_any _ _ _ _ _ _ l l _ ((K2.out.below b3 (Nat.le_refl _)).below b4 (Nat.le_refl _)) (K3.out.below b4 (Nat.le_refl _))).mono ?_
        rintro e w5 ⟨rfl, d5, rfl⟩
        go_wp2_with (fail)
        refine (refSame_any _ _ _ _ _ _ l l _ (((K2.out.below b3 (Nat.le_refl _)).below b4 (Nat.le_refl _)).below (dr_below w4.heap.size _ d5) (Nat.le_refl _)) (K4.out.below (dr_below w4.heap.size _ d5) (Nat.le_refl _))).mono ?_
        rintro e w6 ⟨rfl, d6, rfl⟩
        go_wp2
        go_ret
        exact ⟨ret_bool (by simp), c4.trans (dr_below _ _ _)⟩
  -- go_wp2
  -- go_ret
  -- exact ⟨rfl, by repeat (first | exact Grown.refl _ | apply Grown.drew | apply Grown.alloc)⟩

theorem laid_met (os : Os) : laidMet Tryd.prog Rows.attrsBlanksRow.laid ((laidWorld os).forCall (fun _ _ => 0) ⟨#[], #[.string ByteArray.empty, .string ByteArray.empty, .int .u8 0], []⟩).memory :=
  laidMet_of_run' 8 (by kernel_rfl) (by kernel_rfl)
theorem reads (os : Os) {H : Type} (enc : TypeId × Value → H) : ∃ places, DataW.whole enc Tryd.prog ((laidWorld os).forCall (fun _ _ => 0) ⟨#[], #[.string ByteArray.empty, .string ByteArray.empty, .int .u8 0], []⟩).memory Tryd.f5.params.toList Rows.attrsBlanksSpec.vars false (#[.string ByteArray.empty, .string ByteArray.empty, .int .u8 0] : Array Value).toList 8 = some ([.lit (.string []), .lit (.string []), .lit (.int .u8 0)], [], places) :=
  ⟨[], by kernel_rfl⟩
set_option maxRecDepth 100000 in
theorem lifted (os : Os) (started : os.Started) (H : Type) (enc : TypeId × Value → H) (F : Stop.Interp) :
    ReturnsInHanded {} Tryd.checked os 5 .any ((OpenSpec.ofChange Rows.attrsBlanksSpec).preRow enc Tryd.prog Tryd.f5 Rows.attrsBlanksRow.domain false Rows.attrsBlanksRow.laid) (((OpenSpec.ofChange Rows.attrsBlanksSpec).at F).post enc Tryd.prog Tryd.f5 false true false false) := by
  obtain ⟨places, hx⟩ := reads os enc
  refine returnsInHanded_of_row (C := Tryd.checked) (s := OpenSpec.ofChange Rows.attrsBlanksSpec) own started (by kernel_rfl) Tryd.func5
    (witness_row_at (enc := enc) (C := Tryd.checked) false (laidWorld os) #[.string ByteArray.empty, .string ByteArray.empty, .int .u8 0] rfl (by kernel_rfl) (by kernel_rfl) (by kernel_rfl)
      (OpenSpec.preRow_of_cond 8 hx (by kernel_rfl) (fun k hk => by cases hk) (by kernel_rfl) (laid_met os))) ?_
  intro W base args ds gs before hval0 hW _ _ _ hL _ _
  have hval : ∀ (j : Nat) t v, Tryd.f5.params[j]? = some t → args[j]? = some v → Value.okWide Tryd.prog W .any base t v := hval0
  have hW' := hW
  obtain ⟨p, q, hA0, hV, rfl, hfz, hnd⟩ := hW
  have hA : DataW.TrodAll enc Tryd.prog W 0 (fun _ => true) true Tryd.f5.params.toList args.toList ds p := hA0
  rw [Tryd.params5] at hA hval
  obtain ⟨v0, vs0, d0, ds0, p0, q0, hargs, rfl, rfl, h0, r0⟩ := trodAll_cons hA
  obtain ⟨v1, vs1, d1, ds1, p1, q1, rfl, rfl, rfl, h1, r1⟩ := trodAll_cons r0
  obtain ⟨v2, vs2, d2, ds2, p2, q2, rfl, rfl, rfl, h2, r2⟩ := trodAll_cons r1
  obtain ⟨rfl, rfl, rfl⟩ := trodAll_nil r2
  obtain rfl : args = #[v0, v1, v2] := by cases args; simp_all
  obtain ⟨rfl, rfl⟩ := trodVars_none hV
  obtain ⟨a0, rfl, rfl, rfl, w0⟩ := open_string Tryd.underlying9 (hval 0 9 v0 rfl rfl) h0
  obtain ⟨a1, rfl, rfl, rfl, w1⟩ := open_string Tryd.underlying9 (hval 1 9 v1 rfl rfl) h1
  obtain ⟨a2, rfl, rfl, rfl, w2⟩ := open_int Tryd.underlying5 (hval 2 5 v2 rfl rfl) h2
  clear hA0 hval0
  refine (walk a0 a1 a2 w0 w1 w2 W (tabAt_of hL)).mono fun e W' ⟨he, bel⟩ => ?_
  subst he
  exact ⟨_, rfl, _, _, _, [], _, [], hW', trodAll_mk1 (shut_bool Tryd.underlying4 _), (trodAll_cons_mk (shut_string Tryd.underlying9 w0) (trodAll_cons_mk (shut_string Tryd.underlying9 w1) (trodAll_cons_mk (shut_int Tryd.underlying5 w2) trodAll_mk0))), rfl, bel.frame _, fun h => by cases h⟩

theorem said : Rows.AttrsBlanksSaid :=
  OpenClaim.holds_of_cond 5 Tryd.f5 rfl rfl rfl rfl rfl rfl rfl ⟨rfl, rfl, rfl, rfl, rfl⟩ rfl rfl rfl rfl rfl (by kernel_rfl) Tryd.func5 (by kernel_rfl)
    (of_decide_eq_true (by kernel_rfl)) (by unfold Func.isWrapper; first | (rw [if_pos (by decide +kernel)]; kernel_rfl) | (rw [if_neg (by decide +kernel)]; exact ⟨rfl, rfl⟩))
    (fun os started H enc _ F => by rw [OpenClaim.pre_eq_preRow]; exact lifted os started H enc F)
theorem plain (f : FuncId) (fn : Func) (hf : Tryd.pinned.checked.prog.funcNamed "flail/flaillaw08.AttrsBlanks" = some f) (hfn : Tryd.pinned.checked.prog.funcs[f]? = some fn) :
    true = Tryd.pinned.checked.prog.looks [] ∧ ∀ (j : Nat) t, fn.params[j]? = some t → Tryd.pinned.checked.prog.wantsStandIn t = false := by
  obtain rfl : f = 5 := Option.some.inj ((show Tryd.prog.funcNamed "flail/flaillaw08.AttrsBlanks" = some 5 by kernel_rfl).symm.trans hf) |>.symm
  obtain rfl : fn = Tryd.f5 := (Option.some.inj (Tryd.func5.symm.trans hfn)).symm
  refine ⟨by kernel_rfl, fun j t ht => ?_⟩
  rw [Tryd.params5] at ht
  have hm : t ∈ [9, 5] := by simpa using Array.mem_of_getElem? ht
  have hall : ([9, 5].all fun u => !Tryd.prog.wantsStandIn u) = true := by kernel_rfl
  exact (show Tryd.prog.wantsStandIn t = false by simpa using List.all_eq_true.1 hall t hm)
/-- the statement: the row's card -/
theorem proved : Rows.AttrsBlanksCardSaid :=
  Claim7.holds_tied_plain_at .later [] _ _ _ _ said (fun _ h => by cases h) (by kernel_rfl) (fun _ h => by cases h) attrsBlanks_row_tie rfl ⟨rfl, rfl⟩ (by kernel_rfl) rfl plain (by kernel_rfl)
end Go.Proofs.YtpdmnnfbdeiejaaDoor.attrsBlanks
