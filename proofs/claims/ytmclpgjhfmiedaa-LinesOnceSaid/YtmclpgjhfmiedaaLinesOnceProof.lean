/-
  The law LinesOnce of flail/flaillaw02 answers true for every input, and changes nothing that was there. No condition.
-/
import Derived.Test.YtmclpgjhfmiedaaRows
import Derived.Test.YtmclpgjhfmiedaaLinesLaws
import Derived.WalkKit
import Derived.ProofKit
import Derived.ChangeOld
import Derived.Below
import Derived.OpenShut
import Derived.ShutString
namespace Go.Proofs.Ytmclpgjhfmiedaa.linesOnce
open Go.ChangeShapes Go.WideShapes Go.ChangeAt Go.RowKit
open Go.ChangeMaps (open_string shut_string)
set_option linter.unusedVariables false      -- a walk need not use every 'w<i>' (that an integer argument fits its kind)

theorem own : ownKnob Try.prog.godebug = none := by kernel_rfl

set_option maxRecDepth 100000 in
set_option maxHeartbeats 1000000 in
theorem walk (a0 : ByteArray) (w0 : a0.size ≤ maxLen) (w : World) :
    Calls Try.prog 4 #[.string a0] w fun e w' => e = .returned (.bool true) ∧ Below w.heap.size w w' := by
  clear w0
  by_cases hlen : 300 < a0.size
  · go_enter Try.func4, Try.ntmps4
    go_wp2_with (go_at_call 8; refine (awake_any w).mono ?_; rintro e w1 ⟨rfl, hb1⟩)
    go_ret
    exact ⟨rfl, hb1⟩
  · have hs : a0.size ≤ 1099511627776 := by omega
    obtain ⟨A, hA⟩ : ∃ A, normS a0 = A := ⟨_, rfl⟩
    obtain ⟨B, hB⟩ : ∃ B, cleanS a0 = B := ⟨_, rfl⟩
    have HA := Lib.hid hA
    have HB := Lib.hid hB
    have EA : Hid (normS A = A) := Lib.hid (by rw [← hA, normS_twice])
    have EB : Hid (cleanS B = B) := Lib.hid (by rw [← hB, cleanS_twice])
    have sA : A.size ≤ a0.size := by rw [← hA]; exact normS_size a0
    have sB := cleanS_size a0
    rw [hB] at sB
    obtain ⟨sB1, sB2⟩ := sB
    have NA : ∀ i (h : i < A.size), ((A[i].toNat : Nat) : Int) ≠ 13 := fun i h e =>
      no_byte _ 13 A (by rw [← hA, normS_list]) (normL_no13 _) i h (u8_eq _ 13 (by decide) e)
    have NB : ∀ i (h : i < B.size), ((B[i].toNat : Nat) : Int) ≠ 0 := fun i h e =>
      no_byte _ 0 B (by rw [← hB, cleanS_list]) (cleanL_no0 _) i h (u8_eq _ 0 (by decide) e)
    have HNA := Lib.hid NA
    have HNB := Lib.hid NB
    clear hA hB NA NB
    go_enter Try.func4, Try.ntmps4
    go_wp2_with (fail)
    refine (awake_any w).mono ?_
    rintro e w1 ⟨rfl, hb1⟩
    go_wp2_with (fail)
    refine (norm_s _ _ hs).mono ?_
    rintro e w2 ⟨rfl, hb2⟩
    rw [HA.out]
    go_wp2_with (fail)
    refine (clean_s _ _ hs).mono ?_
    rintro e w3 ⟨rfl, hb3⟩
    rw [HB.out]
    have B2 := hb1.trans (hb2.mono hb1.size)
    have B3 := B2.trans (hb3.mono B2.size)
    clear hb1 hb2 hb3 B2
    go_wp2_with (fail)
    go_loopw [6] (fun v wr => ∃ i : Nat, v = .int .i64 (i : Int) ∧ i ≤ A.size ∧ w3 = wr) (fun v _ => A.size - (intOf v).toNat)
    case atStart => exact ⟨0, rfl, Nat.zero_le _, rfl⟩
    case round =>
      obtain ⟨i, rfl, hi, rfl⟩ := hrel
      by_cases hlt : i < A.size
      · have hn : (((A[i].toNat : Nat) : Int) == 13) = false := by simpa using HNA.out i hlt
        go_wp2
        go_roundw
        case rel => exact ⟨i + 1, rfl, by omega, trivial⟩
        case measure => simp [intOf]; omega
      · go_wp2_with (fail)
        go_loopw [7] (fun v wr => ∃ i : Nat, v = .int .i64 (i : Int) ∧ i ≤ B.size ∧ w3 = wr) (fun v _ => B.size - (intOf v).toNat)
        case atStart => exact ⟨0, rfl, Nat.zero_le _, rfl⟩
        case round =>
          obtain ⟨j, rfl, hj, rfl⟩ := hrel
          by_cases hltj : j < B.size
          · have hn : (((B[j].toNat : Nat) : Int) == 0) = false := by simpa using HNB.out j hltj
            go_wp2
            go_roundw
            case rel => exact ⟨j + 1, rfl, by omega, trivial⟩
            case measure => simp [intOf]; omega
          · go_wp2_with (fail)
            refine (norm_s _ _ (by omega)).mono ?_
            rintro e w4 ⟨rfl, hb4⟩
            rw [EA.out]
            go_wp2_with (fail)
            refine (clean_s _ _ (by omega)).mono ?_
            rintro e w5 ⟨rfl, hb5⟩
            rw [EB.out]
            go_wp2
            go_ret
            have B4 := B3.trans (hb4.mono B3.size)
            exact ⟨by simp, B4.trans (hb5.mono B4.size)⟩
  -- go_wp2
  -- go_ret
  -- exact ⟨rfl, by repeat (first | exact Grown.refl _ | apply Grown.drew | apply Grown.alloc)⟩

set_option maxRecDepth 100000 in
theorem lifted (os : Os) (started : os.Started) (H : Type) (enc : TypeId × Value → H) :
    ReturnsInHanded {} Try.checked os 4 .any (Rows.linesOnceSpec.pre6 enc Try.prog Try.f4 Rows.linesOnceRow.domain false) (Rows.linesOnceSpec.post enc Try.prog Try.f4 false true false false) := by
  refine returnsInHanded_of_change (C := Try.checked) own started (by kernel_rfl) Try.func4
    (ChangeSpec.witness6 (enc := enc) (C := Try.checked) false ⟨#[], #[.string ByteArray.empty], []⟩ 8 (by kernel_rfl) (by kernel_rfl) (by kernel_rfl) (by kernel_rfl)) ?_
  intro W base args ds gs before hval0 hW hcnd _
  have hval : ∀ (j : Nat) t v, Try.f4.params[j]? = some t → args[j]? = some v → Value.okWide Try.prog W .any base t v := hval0
  have hW' := hW
  obtain ⟨p, q, hA0, hV, rfl, hfz, hnd⟩ := hW
  have hA : DataW.TrodAll enc Try.prog W 0 (fun _ => true) true Try.f4.params.toList args.toList ds p := hA0
  rw [Try.params4] at hA hval
  obtain ⟨v0, vs0, d0, ds0, p0, q0, hargs, rfl, rfl, h0, r0⟩ := trodAll_cons hA
  obtain ⟨rfl, rfl, rfl⟩ := trodAll_nil r0
  obtain rfl : args = #[v0] := by cases args; simp_all
  obtain ⟨rfl, rfl⟩ := trodVars_none hV
  obtain ⟨a0, rfl, rfl, rfl, w0⟩ := open_string Try.underlying9 (hval 0 9 v0 rfl rfl) h0
  clear hA0 hval0
  refine (walk a0 w0 W).mono fun e W' ⟨he, bel⟩ => ?_
  subst he
  exact ⟨_, rfl, _, _, _, [], _, [], hW', trodAll_mk1 (shut_bool Try.underlying4 _), (trodAll_cons_mk (shut_string Try.underlying9 w0) trodAll_mk0), rfl, bel.frame _, fun h => by cases h⟩

theorem over : Rows.linesOnceRow.holds Try.pinned (OpenSpec.ofChange Rows.linesOnceSpec) :=
  OpenClaim.holds_of_wide 4 Try.f4 rfl rfl rfl rfl rfl rfl rfl ⟨rfl, rfl, rfl, rfl, rfl⟩ rfl rfl rfl rfl rfl (by kernel_rfl) Try.func4 (by kernel_rfl)
    (of_decide_eq_true (by kernel_rfl)) (by unfold Func.isWrapper; first | (rw [if_pos (by decide +kernel)]; kernel_rfl) | (rw [if_neg (by decide +kernel)]; exact ⟨rfl, rfl⟩))
    (fun os started H enc _ => lifted os started H enc)

/-- ████ THE STATEMENT ████ -/
theorem proved : Rows.LinesOnceSaid :=
  over
end Go.Proofs.Ytmclpgjhfmiedaa.linesOnce
