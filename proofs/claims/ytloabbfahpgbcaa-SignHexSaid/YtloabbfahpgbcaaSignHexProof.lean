/-
  The law SignHex of flail/flaillaw03 answers true for every input, and changes nothing that was there. No condition.
-/
import Derived.Test.YtloabbfahpgbcaaRows
import Derived.Test.YtloabbfahpgbcaaSignLaws
import Derived.WalkKit
import Derived.ProofKit
import Derived.ChangeOld
import Derived.Below
import Derived.OpenShut
import Derived.ShutString
namespace Go.Proofs.Ytloabbfahpgbcaa.signHex
open Go.ChangeShapes Go.WideShapes Go.ChangeAt Go.RowKit
open Go.ChangeMaps (open_string shut_string)
set_option linter.unusedVariables false      -- a walk need not use every 'w<i>' (that an integer argument fits its kind)

theorem own : ownKnob Try.prog.godebug = none := by kernel_rfl

set_option maxRecDepth 100000 in
set_option maxHeartbeats 1000000 in
theorem walk (a0 : Int) (w0 : (Lit.int .u8 a0).wf = true) (w : World) :
    Calls Try.prog 6 #[.int .u8 a0] w fun e w' => e = .returned (.bool true) ∧ Below w.heap.size w w' := by
  have hb : 0 ≤ a0 ∧ a0 ≤ 255 := by simpa [Lit.wf, IntKind.min, IntKind.max, IntKind.signed, IntKind.bits] using w0
  obtain ⟨h0, h1'⟩ := hb
  have h1 : a0 < 256 := by omega
  clear w0
  by_cases hL : letterI a0 = true
  · obtain ⟨c, hc⟩ : ∃ c : UInt8, ((c.toNat : Nat) : Int) = a0 := ⟨UInt8.ofNat a0.toNat, by rw [UInt8.toNat_ofNat']; omega⟩
    have HC := Lib.hid hc
    have HL := Lib.hid hL
    obtain ⟨A, hA⟩ : ∃ A, lowS ⟨#[c]⟩ = A := ⟨_, rfl⟩
    have HA := Lib.hid hA
    have hA1 : A.size = 1 := by rw [← hA, lowS_size]; rfl
    have hz : ((A.size : Int) != 1) = false := by rw [hA1]; rfl
    have hlt : 0 < A.size := by omega
    have hle : A.size ≤ 1099511627776 := by omega
    have hle1 : (ByteArray.mk #[c]).size ≤ 1099511627776 := by show 1 ≤ 1099511627776; decide
    have hA0 : ((A[0]'hlt).toNat : Int) = lowI a0 := by
      have : A[0]'hlt = lowB c := by subst hA; exact lowS_at ⟨#[c]⟩ 0 (Nat.lt_succ_self 0) hlt
      rw [this, lowB_int, HC.out]
    have hb0 := (A[0]'hlt).toNat_lt
    obtain ⟨N, hN⟩ : ∃ N, hexI a0 = N := ⟨_, rfl⟩
    have HN := Lib.hid hN
    have HN2 : Hid (hexI (A[0]'hlt).toNat = N) := Lib.hid (by rw [hA0, ← hN, hex_low _ HL.out])
    have hAl : A.toList = [A[0]'hlt] := by
      rw [ByteArray.toList_eq]
      have := drop_at A 0 hlt
      rw [List.drop_zero, List.drop_eq_nil_of_le (by rw [← Lib.size_eq]; omega)] at this
      exact this
    have hX : Op.bytesLess A.toList [102] = decide (((A[0]'hlt).toNat : Int) < 102) := by
      rw [hAl]
      simp only [Op.bytesLess, Bool.and_false, Bool.or_false, UInt8.lt_iff_toNat_lt]
      congr 1
      exact propext ⟨fun h => by have : (A[0]'hlt).toNat < 102 := h; omega, fun h => by show (A[0]'hlt).toNat < 102; omega⟩
    have hY : (A.toList == [102]) = decide (((A[0]'hlt).toNat : Int) = 102) := by
      rw [hAl, Bool.eq_iff_iff, beq_iff_eq, decide_eq_true_eq, List.cons.injEq]
      exact ⟨fun h => by rw [h.1]; rfl, fun h => ⟨u8_eq _ 102 (by decide) h, rfl⟩⟩
    have hcs := hex_letter a0 HL.out
    rw [hN, ← hA0] at hcs
    have HH : (0 ≤ N ∧ ((decide (N < 0) || N == ((A[0]'hlt).toNat : Int) - 87) = true) ∧ (Op.bytesLess A.toList [102] || A.toList == [102]) = true) ∨ (N < 0 ∧ (Op.bytesLess A.toList [102] || A.toList == [102]) = false) := by
      rw [hX, hY]
      rcases hcs with ⟨c1, c2, c3⟩ | ⟨c1, c2⟩
      · refine .inl ⟨c2, ?_, ?_⟩
        · rw [c3]; simp
        · rw [← Bool.decide_or]; exact decide_eq_true (by omega)
      · refine .inr ⟨by omega, ?_⟩
        rw [← Bool.decide_or]; exact decide_eq_false (by omega)
    clear hcs hX hY hAl
    clear hA0 hA1 hN hA
    clear hL hc
    rcases HH with ⟨k1, k2, k3⟩ | ⟨k1, k3⟩
    all_goals
      go_enter Try.func6, Try.ntmps6
      go_wp2_with (fail)
      refine (awake_any w).mono ?_
      rintro e w1 ⟨rfl, hb1⟩
      go_wp2_with (fail)
      refine (hex _ _ h0 h1).mono ?_
      rintro e w2 ⟨rfl, rfl⟩
      rw [HN.out]
      go_wp2_with (fail)
      refine (letter _ _ h0 h1).mono ?_
      rintro e w2 ⟨rfl, rfl⟩
      rw [HL.out]
      go_wp2_with (fail)
      rw [oneByte _ _ _ HC.out]
      simp only [Result.andThen]
      rw [Oper.upon_value]
      go_wp2_with (fail)
      refine (lower _ _ hle1).mono ?_
      rintro e w3 ⟨rfl, hb3⟩
      rw [HA.out]
      go_wp2_with (fail)
      refine (hex _ _ (by omega) (by omega)).mono ?_
      rintro e w4 ⟨rfl, rfl⟩
      rw [HN2.out]
      go_wp2_with (fail)
      go_ret
      have B2 := hb1.alloc hb1.size (.cells #[.int .u8 a0] 5)
      exact ⟨ret_bool (by simp <;> omega), B2.trans (hb3.mono B2.size)⟩
  · have hl : letterI a0 = false := by simpa using hL
    have HL := Lib.hid hl
    obtain ⟨N, hN⟩ : ∃ N, hexI a0 = N := ⟨_, rfl⟩
    have HN := Lib.hid hN
    have hcs := hex_other a0 hl
    rw [hN] at hcs
    obtain ⟨D, hD⟩ : ∃ D, digitI a0 = D := ⟨_, rfl⟩
    have HD := Lib.hid hD
    obtain ⟨P, hP⟩ : ∃ P, spaceI a0 = P := ⟨_, rfl⟩
    have HP := Lib.hid hP
    have HW : Hid (P = true → wordI a0 = false) := Lib.hid (fun h => space_word a0 hl (by rw [hP, h]))
    rw [hD] at hcs
    have HH : (0 ≤ N ∧ (decide (N < 0) || N == a0 - 48) = true ∧ D = true) ∨ (N < 0 ∧ (decide (N < 0) || N == a0 - 48) = true ∧ D = false) := by
      rcases hcs with ⟨c1, c2, c3⟩ | ⟨c1, c2⟩
      · exact .inl ⟨c2, by rw [c3]; simp, c1⟩
      · exact .inr ⟨by omega, by rw [c2]; simp, c1⟩
    clear hcs hD hP hN hL hl
    cases P
    · rcases HH with ⟨k1, k2, rfl⟩ | ⟨k1, k2, rfl⟩
      all_goals
        go_enter Try.func6, Try.ntmps6
        go_wp2_with (fail)
        refine (awake_any w).mono ?_
        rintro e w1 ⟨rfl, hb1⟩
        go_wp2_with (fail)
        refine (hex _ _ h0 h1).mono ?_
        rintro e w2 ⟨rfl, rfl⟩
        rw [HN.out]
        go_wp2_with (fail)
        refine (letter _ _ h0 h1).mono ?_
        rintro e w2 ⟨rfl, rfl⟩
        rw [HL.out]
        go_wp2_with (fail)
        refine (digit _ _ h0 h1).mono ?_
        rintro e w2 ⟨rfl, rfl⟩
        rw [HD.out]
        go_wp2_with (fail)
        refine (space _ _ h0 h1).mono ?_
        rintro e w2 ⟨rfl, rfl⟩
        rw [HP.out]
        go_wp2_with (fail)
        go_ret
        exact ⟨ret_bool (by simp <;> omega), hb1⟩
    · have HW' := Lib.hid (HW.out rfl)
      clear HW
      rcases HH with ⟨k1, k2, rfl⟩ | ⟨k1, k2, rfl⟩
      all_goals
        go_enter Try.func6, Try.ntmps6
        go_wp2_with (fail)
        refine (awake_any w).mono ?_
        rintro e w1 ⟨rfl, hb1⟩
        go_wp2_with (fail)
        refine (hex _ _ h0 h1).mono ?_
        rintro e w2 ⟨rfl, rfl⟩
        rw [HN.out]
        go_wp2_with (fail)
        refine (letter _ _ h0 h1).mono ?_
        rintro e w2 ⟨rfl, rfl⟩
        rw [HL.out]
        go_wp2_with (fail)
        refine (digit _ _ h0 h1).mono ?_
        rintro e w2 ⟨rfl, rfl⟩
        rw [HD.out]
        go_wp2_with (fail)
        refine (space _ _ h0 h1).mono ?_
        rintro e w2 ⟨rfl, rfl⟩
        rw [HP.out]
        go_wp2_with (fail)
        refine (word _ _ h0 h1).mono ?_
        rintro e w2 ⟨rfl, rfl⟩
        rw [HW'.out]
        go_wp2_with (fail)
        go_ret
        exact ⟨ret_bool (by simp <;> omega), hb1⟩
  -- go_wp2
  -- go_ret
  -- exact ⟨rfl, by repeat (first | exact Grown.refl _ | apply Grown.drew | apply Grown.alloc)⟩

set_option maxRecDepth 100000 in
theorem lifted (os : Os) (started : os.Started) (H : Type) (enc : TypeId × Value → H) :
    ReturnsInHanded {} Try.checked os 6 .any (Rows.signHexSpec.pre6 enc Try.prog Try.f6 Rows.signHexRow.domain false) (Rows.signHexSpec.post enc Try.prog Try.f6 false true false false) := by
  refine returnsInHanded_of_change (C := Try.checked) own started (by kernel_rfl) Try.func6
    (ChangeSpec.witness6 (enc := enc) (C := Try.checked) false ⟨#[], #[.int .u8 0], []⟩ 8 (by kernel_rfl) (by kernel_rfl) (by kernel_rfl) (by kernel_rfl)) ?_
  intro W base args ds gs before hval0 hW hcnd _
  have hval : ∀ (j : Nat) t v, Try.f6.params[j]? = some t → args[j]? = some v → Value.okWide Try.prog W .any base t v := hval0
  have hW' := hW
  obtain ⟨p, q, hA0, hV, rfl, hfz, hnd⟩ := hW
  have hA : DataW.TrodAll enc Try.prog W 0 (fun _ => true) true Try.f6.params.toList args.toList ds p := hA0
  rw [Try.params6] at hA hval
  obtain ⟨v0, vs0, d0, ds0, p0, q0, hargs, rfl, rfl, h0, r0⟩ := trodAll_cons hA
  obtain ⟨rfl, rfl, rfl⟩ := trodAll_nil r0
  obtain rfl : args = #[v0] := by cases args; simp_all
  obtain ⟨rfl, rfl⟩ := trodVars_none hV
  obtain ⟨a0, rfl, rfl, rfl, w0⟩ := open_int Try.underlying5 (hval 0 5 v0 rfl rfl) h0
  clear hA0 hval0
  refine (walk a0 w0 W).mono fun e W' ⟨he, bel⟩ => ?_
  subst he
  exact ⟨_, rfl, _, _, _, [], _, [], hW', trodAll_mk1 (shut_bool Try.underlying4 _), (trodAll_cons_mk (shut_int Try.underlying5 w0) trodAll_mk0), rfl, bel.frame _, fun h => by cases h⟩

theorem over : Rows.signHexRow.holds Try.pinned (OpenSpec.ofChange Rows.signHexSpec) :=
  OpenClaim.holds_of_wide 6 Try.f6 rfl rfl rfl rfl rfl rfl rfl ⟨rfl, rfl, rfl, rfl, rfl⟩ rfl rfl rfl rfl rfl (by kernel_rfl) Try.func6 (by kernel_rfl)
    (of_decide_eq_true (by kernel_rfl)) (by unfold Func.isWrapper; first | (rw [if_pos (by decide +kernel)]; kernel_rfl) | (rw [if_neg (by decide +kernel)]; exact ⟨rfl, rfl⟩))
    (fun os started H enc _ => lifted os started H enc)

/-- ████ THE STATEMENT ████ -/
theorem proved : Rows.SignHexSaid :=
  over
end Go.Proofs.Ytloabbfahpgbcaa.signHex
