/-
  The law RawFirst of flail/flaillaw12 answers true for every input, and changes nothing that was there. Condition, which the card ties to the program's text: when the call begins, the package variables that the row lists hold what that text lays in them (math/bits.deBruijn32tab, math/bits.deBruijn64tab, internal/strconv.uint64pow10, strconv.ErrRange, strconv.ErrSyntax, flail/number.others).
-/
import Derived.Test.YtameddkmbfcnoaaDoorRows
import Derived.Test.YtameddkmbfcnoaaDoorRawAwake
import Derived.Test.YtameddkmbfcnoaaDoorCards
import Derived.Test.YtameddkmbfcnoaaDoorP6
import Derived.WalkKit
import Derived.ProofKit
import Derived.ChangeOld
import Derived.Below
import Derived.OpenShut
import Derived.ShutString
namespace Go.Proofs.YtameddkmbfcnoaaDoor.rawFirst
open Go.ChangeShapes Go.WideShapes Go.ChangeAt Go.RowKit
open Go.ChangeMaps (open_string shut_string)
set_option linter.unusedVariables false      -- a walk need not use every 'w<i>' (that an integer argument fits its kind)

theorem own : ownKnob Tryd.prog.godebug = none := by kernel_rfl

set_option maxRecDepth 100000 in
set_option maxHeartbeats 4000000 in
theorem walk (a0 : ByteArray) (a1 : Int) (a2 : Int) (a3 : ByteArray) (w0 : a0.size ≤ maxLen) (w1 : (Lit.int .u16 a1).wf = true) (w2 : (Lit.int .u16 a2).wf = true) (w3 : a3.size ≤ maxLen) (w : World) (hT : LaidAt w) :
    Calls Tryd.prog 3 #[.string a0, .int .u16 a1, .int .u16 a2, .string a3] w fun e w' => e = .returned (.bool true) ∧ Below w.heap.size w w' := by
  have hb1 : 0 ≤ a1 ∧ a1 ≤ 65535 := by simpa [Lit.wf, IntKind.min, IntKind.max, IntKind.signed, IntKind.bits] using w1
  have hb2 : 0 ≤ a2 ∧ a2 ≤ 65535 := by simpa [Lit.wf, IntKind.min, IntKind.max, IntKind.signed, IntKind.bits] using w2
  obtain ⟨h10, h11⟩ := hb1
  obtain ⟨h20, h21⟩ := hb2
  clear w0 w1 w2 w3
  have HW := Lib.hid hT
  clear hT
  by_cases hlen : 300 < a0.size ∨ 60 < a3.size
  · have hc : decide ((300 : Int) < (a0.size : Int)) = true ∨ decide ((300 : Int) < (a0.size : Int)) = false ∧ decide ((60 : Int) < (a3.size : Int)) = true := by
      simp only [decide_eq_true_eq, decide_eq_false_iff_not]; omega
    clear hlen
    rcases hc with hc | ⟨hc, hd⟩
    all_goals
      go_enter Tryd.func3, Tryd.ntmps3
      go_wp2_with (fail)
      refine (rawAwake_any w HW.out).mono ?_
      rintro e w1 ⟨rfl, c1⟩
      go_wp2
      go_ret
      exact ⟨rfl, c1⟩
  have hs0 : a0.size ≤ 300 := by omega
  have hs3 : a3.size ≤ 60 := by omega
  have d0 : decide ((300 : Int) < (a0.size : Int)) = false := decide_eq_false (by omega)
  have d1 : decide ((60 : Int) < (a3.size : Int)) = false := decide_eq_false (by omega)
  have hk0 : 0 ≤ a1 % ((a0.size : Int) + 1) := Int.emod_nonneg _ (by omega)
  have hk1 : a1 % ((a0.size : Int) + 1) < (a0.size : Int) + 1 := Int.emod_lt_of_pos _ (by omega)
  obtain ⟨k, hk⟩ : ∃ k : Nat, a1 % ((a0.size : Int) + 1) = k := ⟨(a1 % ((a0.size : Int) + 1)).toNat, by omega⟩
  have hm0 : 0 ≤ a2 % ((a0.size : Int) - (k : Int) + 1) := Int.emod_nonneg _ (by omega)
  have hm1 : a2 % ((a0.size : Int) - (k : Int) + 1) < (a0.size : Int) - (k : Int) + 1 := Int.emod_lt_of_pos _ (by omega)
  obtain ⟨m, hm⟩ : ∃ m : Nat, a2 % ((a0.size : Int) - (k : Int) + 1) = m := ⟨(a2 % ((a0.size : Int) - (k : Int) + 1)).toNat, by omega⟩
  have hkm : k + m ≤ a0.size := by omega
  have HK := Lib.hid hk
  have HM := Lib.hid hm
  have hk3 : k ≤ 300 := by omega
  have hm3 : m ≤ 300 := by omega
  obtain ⟨f1, f2, f3, f4⟩ := findV_is a3.data.toList a0.data.toList k (by rw [← Lib.size_eq]; omega)
  have f5 := findV_later a3.data.toList a0.data.toList k (k + m) (by omega) (by rw [← Lib.size_eq]; omega)
  have f6 := findV_again a3.data.toList a0.data.toList k (by rw [← Lib.size_eq]; omega)
  rw [← Lib.size_eq] at f2 f4
  have HF1 := fun w h => Lib.hid (rawFind_any a0 (k : Int) a3 w (by omega) (by omega) (by omega) h)
  have HF2 := fun w h => Lib.hid (rawFind_any a0 ((k : Int) + (m : Int)) a3 w (by omega) (by omega) (by omega) h)
  rw [show ((k : Int) + (m : Int)) = ((k + m : Nat) : Int) by omega] at HF2
  obtain ⟨M, hM⟩ : ∃ M, findV a3.data.toList a0.data.toList ((k + m : Nat) : Int) = M := ⟨_, rfl⟩
  rw [hM] at HF2 f5
  rw [show ((k + m : Nat) : Int) = ((k : Int) + (m : Int)) by omega] at HF2
  obtain ⟨N, hN⟩ : ∃ N, findV a3.data.toList a0.data.toList (k : Int) = N := ⟨_, rfl⟩
  rw [hN] at HF1 f1 f2 f3 f4 f5 f6
  have HF3 := fun w h => Lib.hid (rawFind_any a0 (N : Int) a3 w (by omega) (by omega) (by omega) h)
  rw [f6] at HF3
  have HEN := fun w h => Lib.hid (rawEnds_any a0 (N : Int) a3 w (by omega) (by omega) (by omega) h)
  have HEI := fun (i : Nat) (h1 : k ≤ i) (h2 : i < N) w h => Lib.hid (show Calls Tryd.prog 9 #[.string a0, .int .i64 (i : Int), .string a3] w fun e w' => e = .returned (.bool false) ∧ Below w.heap.size w w' by
    have := rawEnds_any a0 (i : Int) a3 w (by omega) (by omega) (by omega) h
    rwa [endV_in, f3 i h1 h2] at this)
  have hfin : N = a0.size ∨ N < a0.size ∧ endV a3.data.toList a0.data.toList (N : Int) = true := by
    rcases Nat.lt_or_ge N a0.size with h | h
    · exact .inr ⟨h, by rw [endV_in]; exact f4 h⟩
    · exact .inl (by omega)
  have HFIN := Lib.hid hfin
  clear hk hm hm0 hm1 f3 f4 f6 hM hN hfin hlen
  go_enter Tryd.func3, Tryd.ntmps3
  go_wp2_with (fail)
  refine (rawAwake_any w HW.out).mono ?_
  rintro e w1 ⟨rfl, c1⟩
  have B1 := Lib.hid c1
  clear c1
  go_wp2_with (fail)
  rw [HK.out, HM.out]
  have hwr : wrap64 ((k : Int) + (m : Int)) = (k : Int) + (m : Int) := by unfold wrap64; omega
  rw [hwr]
  clear hwr
  clear hk0 hk1 h10 h11 h20 h21 d0 d1
  refine (HF1 _ (HW.out.below B1.out)).out.mono ?_
  rintro e w2 ⟨rfl, c2⟩
  have B2 := Lib.hid (B1.out.trans (c2.mono B1.out.size))
  clear c2
  have n0 : decide ((N : Int) < (k : Int)) = false := decide_eq_false (by omega)
  have n1 : decide ((a0.size : Int) < (N : Int)) = false := decide_eq_false (by omega)
  have n2 : decide (N < k) = false := decide_eq_false (by omega)
  have n3 : decide (a0.size < N) = false := decide_eq_false (by omega)
  go_wp2
  clear n0 n1 n2 n3
  go_loopw [13] (fun v wr => ∃ i : Nat, v = .int .i64 (i : Int) ∧ Below w.heap.size w wr ∧ k ≤ i ∧ i ≤ N) (fun v _ => N - (intOf v).toNat)
  case atStart => exact ⟨k, rfl, B2.out, Nat.le_refl _, f1⟩
  case round =>
    obtain ⟨i, rfl, hb, hki, hiN⟩ := hrel
    have HB := Lib.hid hb
    clear hb
    by_cases hlt : i < N
    · have HC := fun w h => HEI i hki hlt w h
      have hi1 : i ≤ 300 := by omega
      go_wp2_with (fail)
      refine (HC _ (HW.out.below HB.out)).out.mono ?_
      rintro e w3 ⟨rfl, c3⟩
      go_wp2
      go_roundw
      case rel => exact ⟨i + 1, by go_num, HB.out.trans (c3.mono HB.out.size), by omega, by omega⟩
      case measure => simp [intOf]; omega
    · have hiN2 : i = N := by omega
      subst hiN2
      have hM1 : decide ((M : Int) < (i : Int)) = false := decide_eq_false (by omega)
      have hM2 : decide ((i : Int) ≤ (M : Int)) = true := decide_eq_true (by omega)
      rcases HFIN.out with hn | ⟨hn, hE⟩
      · have be : ((i : Int) == (a0.size : Int)) = true := by rw [hn]; exact beq_self_eq_true _
        have HN := Lib.hid hn
        clear hn HEN
        go_wp2_with (fail)
        refine (HF2 _ (HW.out.below HB.out)).out.mono ?_
        rintro e w3 ⟨rfl, c3⟩
        have B3 := Lib.hid (HB.out.trans (c3.mono HB.out.size))
        clear c3
        go_wp2_with (fail)
        refine (HF3 _ (HW.out.below B3.out)).out.mono ?_
        rintro e w4 ⟨rfl, c4⟩
        go_wp2
        go_ret
        exact ⟨ret_bool (by simp), B3.out.trans (c4.mono B3.out.size)⟩
      · have be : ((i : Int) == (a0.size : Int)) = false := by rw [beq_eq_false_iff_ne]; omega
        rw [hE] at HEN
        clear hE
        go_wp2_with (fail)
        refine (HEN _ (HW.out.below HB.out)).out.mono ?_
        rintro e w2 ⟨rfl, c2⟩
        have B2 := Lib.hid (HB.out.trans (c2.mono HB.out.size))
        clear c2
        go_wp2_with (fail)
        refine (HF2 _ (HW.out.below B2.out)).out.mono ?_
        rintro e w3 ⟨rfl, c3⟩
        have B3 := Lib.hid (B2.out.trans (c3.mono B2.out.size))
        clear c3
        go_wp2_with (fail)
        refine (HF3 _ (HW.out.below B3.out)).out.mono ?_
        rintro e w4 ⟨rfl, c4⟩
        go_wp2
        go_ret
        exact ⟨ret_bool (by simp), B3.out.trans (c4.mono B3.out.size)⟩
  -- go_wp2
  -- go_ret
  -- exact ⟨rfl, by repeat (first | exact Grown.refl _ | apply Grown.drew | apply Grown.alloc)⟩

theorem laid_met (os : Os) : laidMet Tryd.prog Rows.rawFirstRow.laid ((laidWorld os).forCall (fun _ _ => 0) ⟨#[], #[.string ByteArray.empty, .int .u16 0, .int .u16 0, .string ByteArray.empty], []⟩).memory :=
  laidMet_of_run' 8 (by kernel_rfl) (by kernel_rfl)
theorem reads (os : Os) {H : Type} (enc : TypeId × Value → H) : ∃ places, DataW.whole enc Tryd.prog ((laidWorld os).forCall (fun _ _ => 0) ⟨#[], #[.string ByteArray.empty, .int .u16 0, .int .u16 0, .string ByteArray.empty], []⟩).memory Tryd.f3.params.toList Rows.rawFirstSpec.vars false (#[.string ByteArray.empty, .int .u16 0, .int .u16 0, .string ByteArray.empty] : Array Value).toList 8 = some ([.lit (.string []), .lit (.int .u16 0), .lit (.int .u16 0), .lit (.string [])], [], places) :=
  ⟨[], by kernel_rfl⟩
set_option maxRecDepth 100000 in
theorem lifted (os : Os) (started : os.Started) (H : Type) (enc : TypeId × Value → H) (F : Stop.Interp) :
    ReturnsInHanded {} Tryd.checked os 3 .any ((OpenSpec.ofChange Rows.rawFirstSpec).preRow enc Tryd.prog Tryd.f3 Rows.rawFirstRow.domain false Rows.rawFirstRow.laid) (((OpenSpec.ofChange Rows.rawFirstSpec).at F).post enc Tryd.prog Tryd.f3 false true false false) := by
  obtain ⟨places, hx⟩ := reads os enc
  refine returnsInHanded_of_row (C := Tryd.checked) (s := OpenSpec.ofChange Rows.rawFirstSpec) own started (by kernel_rfl) Tryd.func3
    (witness_row_at (enc := enc) (C := Tryd.checked) false (laidWorld os) #[.string ByteArray.empty, .int .u16 0, .int .u16 0, .string ByteArray.empty] rfl (by kernel_rfl) (by kernel_rfl) (by kernel_rfl)
      (OpenSpec.preRow_of_cond 8 hx (by kernel_rfl) (fun k hk => by cases hk) (by kernel_rfl) (laid_met os))) ?_
  intro W base args ds gs before hval0 hW _ _ _ hL hsh _
  have hval : ∀ (j : Nat) t v, Tryd.f3.params[j]? = some t → args[j]? = some v → Value.okWide Tryd.prog W .any base t v := hval0
  have hW' := hW
  obtain ⟨p, q, hA0, hV, rfl, hfz, hnd⟩ := hW
  have hA : DataW.TrodAll enc Tryd.prog W 0 (fun _ => true) true Tryd.f3.params.toList args.toList ds p := hA0
  rw [Tryd.params3] at hA hval
  obtain ⟨v0, vs0, d0, ds0, p0, q0, hargs, rfl, rfl, h0, r0⟩ := trodAll_cons hA
  obtain ⟨v1, vs1, d1, ds1, p1, q1, rfl, rfl, rfl, h1, r1⟩ := trodAll_cons r0
  obtain ⟨v2, vs2, d2, ds2, p2, q2, rfl, rfl, rfl, h2, r2⟩ := trodAll_cons r1
  obtain ⟨v3, vs3, d3, ds3, p3, q3, rfl, rfl, rfl, h3, r3⟩ := trodAll_cons r2
  obtain ⟨rfl, rfl, rfl⟩ := trodAll_nil r3
  obtain rfl : args = #[v0, v1, v2, v3] := by cases args; simp_all
  obtain ⟨rfl, rfl⟩ := trodVars_none hV
  obtain ⟨a0, rfl, rfl, rfl, w0⟩ := open_string Tryd.underlying9 (hval 0 9 v0 rfl rfl) h0
  obtain ⟨a1, rfl, rfl, rfl, w1⟩ := open_int Tryd.underlying22 (hval 1 22 v1 rfl rfl) h1
  obtain ⟨a2, rfl, rfl, rfl, w2⟩ := open_int Tryd.underlying22 (hval 2 22 v2 rfl rfl) h2
  obtain ⟨a3, rfl, rfl, rfl, w3⟩ := open_string Tryd.underlying9 (hval 3 9 v3 rfl rfl) h3
  clear hA0 hval0
  refine (walk a0 a1 a2 a3 w0 w1 w2 w3 W (tabAt_of hL hsh)).mono fun e W' ⟨he, bel⟩ => ?_
  subst he
  exact ⟨_, rfl, _, _, _, [], _, [], hW', trodAll_mk1 (shut_bool Tryd.underlying4 _), (trodAll_cons_mk (shut_string Tryd.underlying9 w0) (trodAll_cons_mk (shut_int Tryd.underlying22 w1) (trodAll_cons_mk (shut_int Tryd.underlying22 w2) (trodAll_cons_mk (shut_string Tryd.underlying9 w3) trodAll_mk0)))), rfl, bel.frame _, fun h => by cases h⟩

theorem said : Rows.RawFirstSaid :=
  OpenClaim.holds_of_cond 3 Tryd.f3 rfl rfl rfl rfl rfl rfl rfl ⟨rfl, rfl, rfl, rfl, rfl⟩ rfl rfl rfl rfl rfl (by kernel_rfl) Tryd.func3 (by kernel_rfl)
    (of_decide_eq_true (by kernel_rfl)) (by unfold Func.isWrapper; first | (rw [if_pos (by decide +kernel)]; kernel_rfl) | (rw [if_neg (by decide +kernel)]; exact ⟨rfl, rfl⟩))
    (fun os started H enc _ F => by rw [OpenClaim.pre_eq_preRow]; exact lifted os started H enc F)
theorem plain (f : FuncId) (fn : Func) (hf : Tryd.pinned.checked.prog.funcNamed "flail/flaillaw12.RawFirst" = some f) (hfn : Tryd.pinned.checked.prog.funcs[f]? = some fn) :
    true = Tryd.pinned.checked.prog.looks [] ∧ ∀ (j : Nat) t, fn.params[j]? = some t → Tryd.pinned.checked.prog.wantsStandIn t = false := by
  obtain rfl : f = 3 := Option.some.inj ((show Tryd.prog.funcNamed "flail/flaillaw12.RawFirst" = some 3 by kernel_rfl).symm.trans hf) |>.symm
  obtain rfl : fn = Tryd.f3 := (Option.some.inj (Tryd.func3.symm.trans hfn)).symm
  refine ⟨by kernel_rfl, fun j t ht => ?_⟩
  rw [Tryd.params3] at ht
  have hm : t ∈ [9, 22] := by first | simpa using Array.mem_of_getElem? ht | (have h := Array.mem_of_getElem? ht; simp at h ⊢; grind)
  have hall : ([9, 22].all fun u => !Tryd.prog.wantsStandIn u) = true := by kernel_rfl
  exact (show Tryd.prog.wantsStandIn t = false by simpa using List.all_eq_true.1 hall t hm)
/-- the statement: the row's card -/
theorem proved : Rows.RawFirstCardSaid :=
  Claim7.holds_tied_plain_at .later [] _ _ _ _ said (fun _ h => by cases h) (by kernel_rfl) (fun _ h => by cases h) rawFirst_row_tie rfl ⟨rfl, rfl⟩ (by kernel_rfl) rfl plain (by kernel_rfl)
end Go.Proofs.YtameddkmbfcnoaaDoor.rawFirst
