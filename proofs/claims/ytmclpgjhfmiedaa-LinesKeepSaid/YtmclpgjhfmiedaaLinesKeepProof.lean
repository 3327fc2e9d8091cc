/-
  The law LinesKeep of flail/flaillaw02 answers true for every input, and changes nothing that was there. No condition.
-/
import Derived.Test.YtmclpgjhfmiedaaRows
import Derived.Test.YtmclpgjhfmiedaaLinesLaws
import Derived.WalkKit
import Derived.ProofKit
import Derived.ChangeOld
import Derived.Below
import Derived.OpenShut
import Derived.ShutString
namespace Go.Proofs.Ytmclpgjhfmiedaa.linesKeep
open Go.ChangeShapes Go.WideShapes Go.ChangeAt Go.RowKit
open Go.ChangeMaps (open_string shut_string)
set_option linter.unusedVariables false      -- a walk need not use every 'w<i>' (that an integer argument fits its kind)

theorem own : ownKnob Try.prog.godebug = none := by kernel_rfl

set_option maxRecDepth 100000 in
set_option maxHeartbeats 1000000 in
theorem walk (a0 : ByteArray) (w0 : a0.size ≤ maxLen) (w : World) :
    Calls Try.prog 7 #[.string a0] w fun e w' => e = .returned (.bool true) ∧ Below w.heap.size w w' := by
  clear w0
  by_cases hlen : 300 < a0.size
  · go_enter Try.func7, Try.ntmps7
    go_wp2_with (go_at_call 8; refine (awake_any w).mono ?_; rintro e w1 ⟨rfl, hb1⟩)
    go_ret
    exact ⟨rfl, hb1⟩
  · have hs : a0.size ≤ 1099511627776 := by omega
    obtain ⟨A, hA⟩ : ∃ A, normS a0 = A := ⟨_, rfl⟩
    obtain ⟨B, hB⟩ : ∃ B, cleanS a0 = B := ⟨_, rfl⟩
    have HA := Lib.hid hA
    have HB := Lib.hid hB
    have sA : A.size ≤ a0.size := by rw [← hA]; exact normS_size a0
    have sB := cleanS_size a0
    rw [hB] at sB
    obtain ⟨sB1, sB2⟩ := sB
    have EAB : Hid (normS B = cleanS A) := Lib.hid (by rw [← hA, ← hB, clean_normS])
    have KA : Hid ((A.toList == a0.toList) = !decide ((13 : UInt8) ∈ a0.data.toList.take a0.size)) := Lib.hid (by
      rw [str_beq, List.take_of_length_le (by rw [← Lib.size_eq]; exact Nat.le_refl _), ← decide_not]
      congr 1
      rw [← normS_iff a0, hA]
      exact propext ⟨fun h => str_ext h, fun h => by rw [h]⟩)
    have KB : Hid ((B.toList == a0.toList) = !decide ((0 : UInt8) ∈ a0.data.toList.take a0.size)) := Lib.hid (by
      rw [str_beq, List.take_of_length_le (by rw [← Lib.size_eq]; exact Nat.le_refl _), ← decide_not]
      congr 1
      rw [← cleanS_iff a0, hB]
      exact propext ⟨fun h => str_ext h, fun h => by rw [h]⟩)
    clear hA hB
    go_enter Try.func7, Try.ntmps7
    go_wp2_with (fail)
    refine (awake_any w).mono ?_
    rintro e w1 ⟨rfl, hb1⟩
    go_wp2_with (fail)
    go_loopw [4, 5, 6] (fun c z v wr => ∃ (i : Nat) (cr zero : Bool), c = .bool cr ∧ z = .bool zero ∧ v = .int .i64 (i : Int) ∧ i ≤ a0.size ∧ w1 = wr ∧ decide ((13 : UInt8) ∈ a0.data.toList.take i) = cr ∧ decide ((0 : UInt8) ∈ a0.data.toList.take i) = zero) (fun _ _ v _ => a0.size - (intOf v).toNat)
    case atStart => exact ⟨0, false, false, rfl, rfl, rfl, Nat.zero_le _, rfl, rfl, rfl⟩
    case round =>
      obtain ⟨i, cr, zero, rfl, rfl, rfl, hi, rfl, hcr, hz⟩ := hrel
      have HCR := Lib.hid hcr
      have HZ := Lib.hid hz
      clear hcr hz
      by_cases hlt : i < a0.size
      · have S13 : Hid (decide ((13 : UInt8) ∈ a0.data.toList.take (i + 1)) = (cr || ((a0[i].toNat : Nat) : Int) == 13)) := Lib.hid (by rw [← HCR.out]; exact mem_take a0 i hlt 13)
        have S0 : Hid (decide ((0 : UInt8) ∈ a0.data.toList.take (i + 1)) = (zero || ((a0[i].toNat : Nat) : Int) == 0)) := Lib.hid (by rw [← HZ.out]; exact mem_take a0 i hlt 0)
        cases cr <;> cases zero
        all_goals
          go_wp2
          go_roundw
          case rel => exact ⟨i + 1, _, _, rfl, rfl, rfl, by omega, trivial, S13.out, S0.out⟩
          case measure => simp [intOf]; omega
      · have hi' : i = a0.size := by omega
        subst hi'
        have KA' := Lib.hid (KA.out.trans (by rw [HCR.out]))
        have KB' := Lib.hid (KB.out.trans (by rw [HZ.out]))
        go_wp2_with (fail)
        refine (norm_s _ _ hs).mono ?_
        rintro e w2 ⟨rfl, hb2⟩
        rw [HA.out]
        go_wp2_with (fail)
        refine (clean_s _ _ hs).mono ?_
        rintro e w3 ⟨rfl, hb3⟩
        rw [HB.out]
        go_wp2_with (fail)
        refine (clean_s _ _ hs).mono ?_
        rintro e w4 ⟨rfl, hb4⟩
        rw [HB.out]
        go_wp2_with (fail)
        refine (norm_s _ _ (by omega)).mono ?_
        rintro e w5 ⟨rfl, hb5⟩
        rw [EAB.out]
        go_wp2_with (fail)
        refine (norm_s _ _ hs).mono ?_
        rintro e w6 ⟨rfl, hb6⟩
        rw [HA.out]
        go_wp2_with (fail)
        refine (clean_s _ _ (by omega)).mono ?_
        rintro e w7 ⟨rfl, hb7⟩
        go_wp2
        go_ret
        have B2 := hb1.trans (hb2.mono hb1.size)
        have B3 := B2.trans (hb3.mono B2.size)
        have B4 := B3.trans (hb4.mono B3.size)
        have B5 := B4.trans (hb5.mono B4.size)
        have B6 := B5.trans (hb6.mono B5.size)
        exact ⟨by simp, B6.trans (hb7.mono B6.size)⟩
  -- go_wp2
  -- go_ret
  -- exact ⟨rfl, by repeat (first | exact Grown.refl _ | apply Grown.drew | apply Grown.alloc)⟩

set_option maxRecDepth 100000 in
theorem lifted (os : Os) (started : os.Started) (H : Type) (enc : TypeId × Value → H) :
    ReturnsInHanded {} Try.checked os 7 .any (Rows.linesKeepSpec.pre6 enc Try.prog Try.f7 Rows.linesKeepRow.domain false) (Rows.linesKeepSpec.post enc Try.prog Try.f7 false true false false) := by
  refine returnsInHanded_of_change (C := Try.checked) own started (by kernel_rfl) Try.func7
    (ChangeSpec.witness6 (enc := enc) (C := Try.checked) false ⟨#[], #[.string ByteArray.empty], []⟩ 8 (by kernel_rfl) (by kernel_rfl) (by kernel_rfl) (by kernel_rfl)) ?_
  intro W base args ds gs before hval0 hW hcnd _
  have hval : ∀ (j : Nat) t v, Try.f7.params[j]? = some t → args[j]? = some v → Value.okWide Try.prog W .any base t v := hval0
  have hW' := hW
  obtain ⟨p, q, hA0, hV, rfl, hfz, hnd⟩ := hW
  have hA : DataW.TrodAll enc Try.prog W 0 (fun _ => true) true Try.f7.params.toList args.toList ds p := hA0
  rw [Try.params7] at hA hval
  obtain ⟨v0, vs0, d0, ds0, p0, q0, hargs, rfl, rfl, h0, r0⟩ := trodAll_cons hA
  obtain ⟨rfl, rfl, rfl⟩ := trodAll_nil r0
  obtain rfl : args = #[v0] := by cases args; simp_all
  obtain ⟨rfl, rfl⟩ := trodVars_none hV
  obtain ⟨a0, rfl, rfl, rfl, w0⟩ := open_string Try.underlying9 (hval 0 9 v0 rfl rfl) h0
  clear hA0 hval0
  refine (walk a0 w0 W).mono fun e W' ⟨he, bel⟩ => ?_
  subst he
  exact ⟨_, rfl, _, _, _, [], _, [], hW', trodAll_mk1 (shut_bool Try.underlying4 _), (trodAll_cons_mk (shut_string Try.underlying9 w0) trodAll_mk0), rfl, bel.frame _, fun h => by cases h⟩

theorem over : Rows.linesKeepRow.holds Try.pinned (OpenSpec.ofChange Rows.linesKeepSpec) :=
  OpenClaim.holds_of_wide 7 Try.f7 rfl rfl rfl rfl rfl rfl rfl ⟨rfl, rfl, rfl, rfl, rfl⟩ rfl rfl rfl rfl rfl (by kernel_rfl) Try.func7 (by kernel_rfl)
    (of_decide_eq_true (by kernel_rfl)) (by unfold Func.isWrapper; first | (rw [if_pos (by decide +kernel)]; kernel_rfl) | (rw [if_neg (by decide +kernel)]; exact ⟨rfl, rfl⟩))
    (fun os started H enc _ => lifted os started H enc)

/-- ████ THE STATEMENT ████ -/
theorem proved : Rows.LinesKeepSaid :=
  over
end Go.Proofs.Ytmclpgjhfmiedaa.linesKeep
