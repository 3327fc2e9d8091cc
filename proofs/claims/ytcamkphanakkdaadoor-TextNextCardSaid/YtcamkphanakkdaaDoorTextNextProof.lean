/-
  The law TextNext of flail/flaillaw14 answers true for every input, and changes nothing that was there. Condition, which the card ties to the program's text: when the call begins, the package variables that the row lists hold what that text lays in them (math/bits.deBruijn32tab, math/bits.deBruijn64tab, internal/strconv.uint64pow10, strconv.ErrRange, strconv.ErrSyntax, flail/number.others).
-/
import Derived.Test.YtcamkphanakkdaaDoorRows
import Derived.Test.YtcamkphanakkdaaDoorTxtAwake
import Derived.Test.YtcamkphanakkdaaDoorCards
import Derived.Test.YtcamkphanakkdaaDoorP6
import Derived.WalkKit
import Derived.ProofKit
import Derived.ChangeOld
import Derived.Below
import Derived.OpenShut
import Derived.ShutString
namespace Go.Proofs.YtcamkphanakkdaaDoor.textNext
open Go.ChangeShapes Go.WideShapes Go.ChangeAt Go.RowKit
open Go.ChangeMaps (open_string shut_string)
set_option linter.unusedVariables false      -- a walk need not use every 'w<i>' (that an integer argument fits its kind)

theorem own : ownKnob Tryd.prog.godebug = none := by kernel_rfl

set_option maxRecDepth 100000 in
set_option maxHeartbeats 8000000 in
theorem walk (a0 : ByteArray) (a1 : Int) (w0 : a0.size ≤ maxLen) (w1 : (Lit.int .u16 a1).wf = true) (w : World) (hT : LaidAt w) :
    Calls Tryd.prog 4 #[.string a0, .int .u16 a1] w fun e w' => e = .returned (.bool true) ∧ Below w.heap.size w w' := by
  have hb1 : 0 ≤ a1 ∧ a1 ≤ 65535 := by simpa [Lit.wf, IntKind.min, IntKind.max, IntKind.signed, IntKind.bits] using w1
  obtain ⟨h10, h11⟩ := hb1
  clear w0 w1
  have HW := Lib.hid hT
  clear hT
  by_cases hlen : 300 < a0.size
  · have hc : decide ((300 : Int) < (a0.size : Int)) = true := decide_eq_true (by omega)
    clear hlen
    go_enter Tryd.func4, Tryd.ntmps4
    go_wp2_with (fail)
    refine (txtAwake_any w HW.out).mono ?_
    rintro e w1 ⟨rfl, c1⟩
    go_wp2
    go_ret
    exact ⟨rfl, c1⟩
  have hs0 : a0.size ≤ 300 := by omega
  have d0 : decide ((300 : Int) < (a0.size : Int)) = false := decide_eq_false (by omega)
  have hk0 : 0 ≤ a1 % ((a0.size : Int) + 1) := Int.emod_nonneg _ (by omega)
  have hk1 : a1 % ((a0.size : Int) + 1) < (a0.size : Int) + 1 := Int.emod_lt_of_pos _ (by omega)
  obtain ⟨k, hk⟩ : ∃ k : Nat, a1 % ((a0.size : Int) + 1) = k := ⟨(a1 % ((a0.size : Int) + 1)).toNat, by omega⟩
  have HK := Lib.hid hk
  have hkk : k ≤ 300 := by omega
  have hks : k ≤ a0.size := by omega
  have HN := fun w h => Lib.hid (txtNext_any a0 (k : Int) w (by omega) (by omega) h)
  rw [next_in a0 k hks] at HN
  have hle := next_le (a0.data.toList.drop k)
  rw [List.length_drop, ← Lib.size_eq] at hle
  obtain ⟨N, hN⟩ : ∃ N, k + nextN (a0.data.toList.drop k) = N := ⟨_, rfl⟩
  rw [hN] at HN
  have hNs : N ≤ a0.size := by omega
  have hkN : k ≤ N := by omega
  have hah : ∀ i, k ≤ i → i < N → mkB (a0.data.toList.drop i) = false := fun i h1 h2 => by
    have := next_ahead (a0.data.toList.drop k) (i - k) (by omega)
    rwa [List.drop_drop, show k + (i - k) = i by omega] at this
  have hat : N < a0.size → mkB (a0.data.toList.drop N) = true := fun h => by
    have := next_at (a0.data.toList.drop k) (by rw [List.length_drop, ← Lib.size_eq]; omega)
    rwa [List.drop_drop, hN] at this
  have hz : nextN (a0.data.toList.drop N) = 0 := by
    rcases Nat.lt_or_ge N a0.size with h | h
    · exact next_here _ (hat h)
    · rw [List.drop_eq_nil_of_le (by rw [← Lib.size_eq]; exact h)]; rfl
  have HR := fun w h => Lib.hid (txtRead_any a0 (N : Int) w (by omega) (by omega) h)
  rw [next_in a0 N hNs, hz, show txtV a0.data.toList (N : Int) = [] by
    unfold txtV
    rw [atN_in _ _ (by rw [← Lib.size_eq]; exact hNs), hz]; rfl] at HR
  have HB := fun (i : Nat) w h (hi : i ≤ 300) => Lib.hid (txtBegins_any a0 (i : Int) w (by omega) (by omega) h)
  simp only [mk_in] at HB
  have HAH := Lib.hid hah
  have HAT := Lib.hid hat
  have n1 : decide ((N : Int) < (k : Int)) = false := decide_eq_false (by omega)
  have n2 : decide ((a0.size : Int) < (N : Int)) = false := decide_eq_false (by omega)
  have n3 : decide (N < k) = false := decide_eq_false (by omega)
  have n4 : decide (a0.size < N) = false := decide_eq_false (by omega)
  clear hk hle hN hah hat hz hlen
  go_enter Tryd.func4, Tryd.ntmps4
  go_wp2_with (fail)
  refine (txtAwake_any w HW.out).mono ?_
  rintro e w1 ⟨rfl, c1⟩
  have B1 := Lib.hid c1
  clear c1
  go_wp2_with (fail)
  rw [HK.out]
  refine (HN _ (HW.out.below B1.out)).out.mono ?_
  rintro e w2 ⟨rfl, c2⟩
  have B2 := Lib.hid (B1.out.trans (c2.mono B1.out.size))
  clear c2 hk0 hk1
  go_wp2
  clear d0 n1 n2 n3 n4
  go_loopw [8] (fun v wr => ∃ i : Nat, v = .int .i64 (i : Int) ∧ Below w.heap.size w wr ∧ k ≤ i ∧ i ≤ N) (fun v _ => N - (intOf v).toNat)
  case atStart => exact ⟨k, rfl, B2.out, Nat.le_refl _, hkN⟩
  case round =>
    obtain ⟨i, rfl, hbw, hki, hi⟩ := hrel
    have HBW := Lib.hid hbw
    clear hbw
    by_cases hlt : i < N
    · have HBi := fun w h => HB i w h (by omega)
      rw [HAH.out i hki hlt] at HBi
      go_wp2_with (fail)
      refine (HBi _ (HW.out.below HBW.out)).out.mono ?_
      rintro e w3 ⟨rfl, c3⟩
      have B3 := Lib.hid (HBW.out.trans (c3.mono HBW.out.size))
      clear c3
      go_wp2
      go_roundw
      case rel => exact ⟨i + 1, by go_num, B3.out, by omega, by omega⟩
      case measure => simp [intOf]; omega
    · obtain rfl : i = N := by omega
      go_wp2_with (fail)
      refine (HR _ (HW.out.below HBW.out)).out.mono ?_
      rintro e w3 ⟨rfl, c3⟩
      have B3 := Lib.hid (HBW.out.trans (c3.mono HBW.out.size))
      clear c3
      rcases Nat.lt_or_ge i a0.size with h | h
      · have b1 : ((i : Int) == (a0.size : Int)) = false := by rw [beq_eq_false_iff_ne]; omega
        have HBi := fun w h => HB i w h (by omega)
        rw [HAT.out h] at HBi
        go_wp2_with (fail)
        refine (HBi _ (HW.out.below B3.out)).out.mono ?_
        rintro e w4 ⟨rfl, c4⟩
        have B4 := Lib.hid (B3.out.trans (c4.mono B3.out.size))
        clear c4
        go_wp2
        go_ret
        exact ⟨ret_bool (by simp), B4.out⟩
      · have b1 : ((i : Int) == (a0.size : Int)) = true := by rw [beq_iff_eq]; omega
        go_wp2
        go_ret
        exact ⟨ret_bool (by simp), B3.out⟩
  -- go_wp2
  -- go_ret
  -- exact ⟨rfl, by repeat (first | exact Grown.refl _ | apply Grown.drew | apply Grown.alloc)⟩

theorem laid_met (os : Os) : laidMet Tryd.prog Rows.textNextRow.laid ((laidWorld os).forCall (fun _ _ => 0) ⟨#[], #[.string ByteArray.empty, .int .u16 0], []⟩).memory :=
  laidMet_of_run' 8 (by kernel_rfl) (by kernel_rfl)
theorem reads (os : Os) {H : Type} (enc : TypeId × Value → H) : ∃ places, DataW.whole enc Tryd.prog ((laidWorld os).forCall (fun _ _ => 0) ⟨#[], #[.string ByteArray.empty, .int .u16 0], []⟩).memory Tryd.f4.params.toList Rows.textNextSpec.vars false (#[.string ByteArray.empty, .int .u16 0] : Array Value).toList 8 = some ([.lit (.string []), .lit (.int .u16 0)], [], places) :=
  ⟨[], by kernel_rfl⟩
set_option maxRecDepth 100000 in
theorem lifted (os : Os) (started : os.Started) (H : Type) (enc : TypeId × Value → H) (F : Stop.Interp) :
    ReturnsInHanded {} Tryd.checked os 4 .any ((OpenSpec.ofChange Rows.textNextSpec).preRow enc Tryd.prog Tryd.f4 Rows.textNextRow.domain false Rows.textNextRow.laid) (((OpenSpec.ofChange Rows.textNextSpec).at F).post enc Tryd.prog Tryd.f4 false true false false) := by
  obtain ⟨places, hx⟩ := reads os enc
  refine returnsInHanded_of_row (C := Tryd.checked) (s := OpenSpec.ofChange Rows.textNextSpec) own started (by kernel_rfl) Tryd.func4
    (witness_row_at (enc := enc) (C := Tryd.checked) false (laidWorld os) #[.string ByteArray.empty, .int .u16 0] rfl (by kernel_rfl) (by kernel_rfl) (by kernel_rfl)
      (OpenSpec.preRow_of_cond 8 hx (by kernel_rfl) (fun k hk => by cases hk) (by kernel_rfl) (laid_met os))) ?_
  intro W base args ds gs before hval0 hW _ _ _ hL hsh _
  have hval : ∀ (j : Nat) t v, Tryd.f4.params[j]? = some t → args[j]? = some v → Value.okWide Tryd.prog W .any base t v := hval0
  have hW' := hW
  obtain ⟨p, q, hA0, hV, rfl, hfz, hnd⟩ := hW
  have hA : DataW.TrodAll enc Tryd.prog W 0 (fun _ => true) true Tryd.f4.params.toList args.toList ds p := hA0
  rw [Tryd.params4] at hA hval
  obtain ⟨v0, vs0, d0, ds0, p0, q0, hargs, rfl, rfl, h0, r0⟩ := trodAll_cons hA
  obtain ⟨v1, vs1, d1, ds1, p1, q1, rfl, rfl, rfl, h1, r1⟩ := trodAll_cons r0
  obtain ⟨rfl, rfl, rfl⟩ := trodAll_nil r1
  obtain rfl : args = #[v0, v1] := by cases args; simp_all
  obtain ⟨rfl, rfl⟩ := trodVars_none hV
  obtain ⟨a0, rfl, rfl, rfl, w0⟩ := open_string Tryd.underlying9 (hval 0 9 v0 rfl rfl) h0
  obtain ⟨a1, rfl, rfl, rfl, w1⟩ := open_int Tryd.underlying29 (hval 1 29 v1 rfl rfl) h1
  clear hA0 hval0
  refine (walk a0 a1 w0 w1 W (tabAt_of hL hsh)).mono fun e W' ⟨he, bel⟩ => ?_
  subst he
  exact ⟨_, rfl, _, _, _, [], _, [], hW', trodAll_mk1 (shut_bool Tryd.underlying4 _), (trodAll_cons_mk (shut_string Tryd.underlying9 w0) (trodAll_cons_mk (shut_int Tryd.underlying29 w1) trodAll_mk0)), rfl, bel.frame _, fun h => by cases h⟩

theorem said : Rows.TextNextSaid :=
  OpenClaim.holds_of_cond 4 Tryd.f4 rfl rfl rfl rfl rfl rfl rfl ⟨rfl, rfl, rfl, rfl, rfl⟩ rfl rfl rfl rfl rfl (by kernel_rfl) Tryd.func4 (by kernel_rfl)
    (of_decide_eq_true (by kernel_rfl)) (by unfold Func.isWrapper; first | (rw [if_pos (by decide +kernel)]; kernel_rfl) | (rw [if_neg (by decide +kernel)]; exact ⟨rfl, rfl⟩))
    (fun os started H enc _ F => by rw [OpenClaim.pre_eq_preRow]; exact lifted os started H enc F)
theorem plain (f : FuncId) (fn : Func) (hf : Tryd.pinned.checked.prog.funcNamed "flail/flaillaw14.TextNext" = some f) (hfn : Tryd.pinned.checked.prog.funcs[f]? = some fn) :
    true = Tryd.pinned.checked.prog.looks [] ∧ ∀ (j : Nat) t, fn.params[j]? = some t → Tryd.pinned.checked.prog.wantsStandIn t = false := by
  obtain rfl : f = 4 := Option.some.inj ((show Tryd.prog.funcNamed "flail/flaillaw14.TextNext" = some 4 by kernel_rfl).symm.trans hf) |>.symm
  obtain rfl : fn = Tryd.f4 := (Option.some.inj (Tryd.func4.symm.trans hfn)).symm
  refine ⟨by kernel_rfl, fun j t ht => ?_⟩
  rw [Tryd.params4] at ht
  have hm : t ∈ [9, 29] := by first | simpa using Array.mem_of_getElem? ht | (have h := Array.mem_of_getElem? ht; simp at h ⊢; grind)
  have hall : ([9, 29].all fun u => !Tryd.prog.wantsStandIn u) = true := by kernel_rfl
  exact (show Tryd.prog.wantsStandIn t = false by simpa using List.all_eq_true.1 hall t hm)
/-- the statement: the row's card -/
theorem proved : Rows.TextNextCardSaid :=
  Claim7.holds_tied_plain_at .later [] _ _ _ _ said (fun _ h => by cases h) (by kernel_rfl) (fun _ h => by cases h) textNext_row_tie rfl ⟨rfl, rfl⟩ (by kernel_rfl) rfl plain (by kernel_rfl)
end Go.Proofs.YtcamkphanakkdaaDoor.textNext
