/-
  The law LinesJoins of flail/flaillaw02 answers true for every input, and changes nothing that was there. No condition.
-/
import Derived.Test.YtmclpgjhfmiedaaRows
import Derived.Test.YtmclpgjhfmiedaaLinesLaws
import Derived.WalkKit
import Derived.ProofKit
import Derived.ChangeOld
import Derived.Below
import Derived.OpenShut
import Derived.ShutString
namespace Go.Proofs.Ytmclpgjhfmiedaa.linesJoins
open Go.ChangeShapes Go.WideShapes Go.ChangeAt Go.RowKit
open Go.ChangeMaps (open_string shut_string)
set_option linter.unusedVariables false      -- a walk need not use every 'w<i>' (that an integer argument fits its kind)

theorem own : ownKnob Try.prog.godebug = none := by kernel_rfl

set_option maxRecDepth 100000 in
set_option maxHeartbeats 1000000 in
theorem walk (a0 : ByteArray) (a1 : ByteArray) (w0 : a0.size ≤ maxLen) (w1 : a1.size ≤ maxLen) (w : World) :
    Calls Try.prog 5 #[.string a0, .string a1] w fun e w' => e = .returned (.bool true) ∧ Below w.heap.size w w' := by
  clear w0 w1
  by_cases hlen : 300 < a0.size
  · go_enter Try.func5, Try.ntmps5
    go_wp2_with (go_at_call 8; refine (awake_any w).mono ?_; rintro e w1 ⟨rfl, hb1⟩)
    go_ret
    exact ⟨rfl, hb1⟩
  by_cases hlen1 : 300 < a1.size
  · have hle0 : a0.size ≤ 300 := by omega
    go_enter Try.func5, Try.ntmps5
    go_wp2_with (go_at_call 8; refine (awake_any w).mono ?_; rintro e w1 ⟨rfl, hb1⟩)
    go_ret
    exact ⟨rfl, hb1⟩
  have hle0 : a0.size ≤ 300 := by omega
  have hle1 : a1.size ≤ 300 := by omega
  have hs01 : (a0 ++ a1).size ≤ 1099511627776 := by simp; omega
  have hc0 := (cleanS_size a0).2
  have hc1 := (cleanS_size a1).2
  have hn0 := normS_size a0
  have hn1 := normS_size a1
  have EC : Hid (cleanS (a0 ++ a1) = cleanS a0 ++ cleanS a1) := Lib.hid (cleanS_app a0 a1)
  by_cases hmeet : ∃ (h0 : 0 < a0.size) (h1 : 0 < a1.size), ((a0[a0.size - 1].toNat : Nat) : Int) = 13 ∧ ((a1[0].toNat : Nat) : Int) = 10
  · obtain ⟨h0, h1, h13, h10⟩ := hmeet
    obtain ⟨X, hX⟩ : ∃ X, a1.extract 1 a1.size = X := ⟨_, rfl⟩
    have hsX : X.size ≤ 300 := by rw [← hX]; simp; omega
    have hnX := normS_size X
    have EN : Hid (normS (a0 ++ a1) = normS a0 ++ normS X) := Lib.hid (by rw [← hX]; exact normS_meet a0 a1 h0 h1 (u8_eq _ 13 (by decide) h13) (u8_eq _ 10 (by decide) h10))
    have HX := Lib.hid hX
    clear hX
    go_enter Try.func5, Try.ntmps5
    go_wp2_with (fail)
    refine (awake_any w).mono ?_
    rintro e w1 ⟨rfl, hb1⟩
    go_wp2_with (fail)
    refine (clean_s _ _ hs01).mono ?_
    rintro e w2 ⟨rfl, hb2⟩
    rw [EC.out]
    go_wp2_with (fail)
    refine (clean_s _ _ (by omega)).mono ?_
    rintro e w3 ⟨rfl, hb3⟩
    go_wp2_with (fail)
    refine (clean_s _ _ (by omega)).mono ?_
    rintro e w4 ⟨rfl, hb4⟩
    have B2 := hb1.trans (hb2.mono hb1.size)
    have B3 := B2.trans (hb3.mono B2.size)
    have B4 := B3.trans (hb4.mono B3.size)
    clear hb1 hb2 hb3 hb4 B2 B3
    have cA : Hid (∀ w', Below w4.heap.size w4 w' → Calls Try.prog 9 #[.string (a0 ++ a1)] w' fun e w'' => e = .returned (.string (normS a0 ++ normS X)) ∧ Below w4.heap.size w4 w'') := Lib.hid (fun w' hb => by
      refine (norm_s _ w' hs01).mono ?_
      rintro e w'' ⟨rfl, hb''⟩
      exact ⟨by rw [EN.out], hb.trans (hb''.mono hb.size)⟩)
    have cB : Hid (∀ w', Below w4.heap.size w4 w' → Calls Try.prog 9 #[.string a0] w' fun e w'' => e = .returned (.string (normS a0)) ∧ Below w4.heap.size w4 w'') := Lib.hid (fun w' hb => by
      refine (norm_s _ w' (by omega)).mono ?_
      rintro e w'' ⟨rfl, hb''⟩
      exact ⟨rfl, hb.trans (hb''.mono hb.size)⟩)
    have cX : Hid (∀ w', Below w4.heap.size w4 w' → Calls Try.prog 9 #[.string (a1.extract 1 a1.size)] w' fun e w'' => e = .returned (.string (normS X)) ∧ Below w4.heap.size w4 w'') := Lib.hid (fun w' hb => by
      refine (norm_s _ w' (by simp; omega)).mono ?_
      rintro e w'' ⟨rfl, hb''⟩
      exact ⟨by rw [HX.out], hb.trans (hb''.mono hb.size)⟩)
    have FIN : Hid (∀ w', Below w4.heap.size w4 w' → Below w.heap.size w w') := Lib.hid (fun w' h => B4.trans (h.mono B4.size))
    have hd4 : Below w4.heap.size w4 w4.drew := (Below.refl _ w4).drew
    clear B4
    have g1 : ¬ 9223372036854775807 < a0.size + a1.size := by omega
    have g2 : ¬ 9223372036854775807 < (normS a0).size + (normS X).size := by omega
    have g3 : (1 : Int) ≤ (a1.size : Int) := by omega
    go_wp2_with (fail)
    go_region_held3 (fun w' => Below w4.heap.size w4 w')
          (first | exact hd4 | assumption)
          (first
            | (go_at_call 9; (with_reducible refine (cA.out _ ‹_›).mono ?_); rintro e w' ⟨rfl, hb⟩)
            | (go_at_call 9; (with_reducible refine (cB.out _ ‹_›).mono ?_); rintro e w' ⟨rfl, hb⟩)
            | (go_at_call 9; (with_reducible refine (cX.out _ ‹_›).mono ?_); rintro e w' ⟨rfl, hb⟩))
    all_goals (go_wp2; go_ret; exact ⟨by simp, FIN.out _ ‹_›⟩)
  · have EN : Hid (normS (a0 ++ a1) = normS a0 ++ normS a1) := Lib.hid (normS_app a0 a1 (fun h0 h1 x y => hmeet ⟨h0, h1, by rw [x]; rfl, by rw [y]; rfl⟩))
    by_cases h0 : 0 < a0.size
    · by_cases h1 : 0 < a1.size
      · by_cases h13 : ((a0[a0.size - 1].toNat : Nat) : Int) = 13
        · have h10 : (((a1[0].toNat : Nat) : Int) == 10) = false := by
            rw [beq_eq_false_iff_ne]; exact fun e => hmeet ⟨h0, h1, h13, e⟩
          clear hmeet
          go_enter Try.func5, Try.ntmps5
          go_wp2_with (fail)
          refine (awake_any w).mono ?_
          rintro e w1 ⟨rfl, hb1⟩
          go_wp2_with (fail)
          refine (clean_s _ _ hs01).mono ?_
          rintro e w2 ⟨rfl, hb2⟩
          rw [EC.out]
          go_wp2_with (fail)
          refine (clean_s _ _ (by omega)).mono ?_
          rintro e w3 ⟨rfl, hb3⟩
          go_wp2_with (fail)
          refine (clean_s _ _ (by omega)).mono ?_
          rintro e w4 ⟨rfl, hb4⟩
          have B2 := hb1.trans (hb2.mono hb1.size)
          have B3 := B2.trans (hb3.mono B2.size)
          have B4 := B3.trans (hb4.mono B3.size)
          clear hb1 hb2 hb3 hb4 B2 B3
          go_wp2_with (fail)
          refine (norm_s _ _ hs01).mono ?_
          rintro e w5 ⟨rfl, hb5⟩
          rw [EN.out]
          go_wp2_with (fail)
          refine (norm_s _ _ (by omega)).mono ?_
          rintro e w6 ⟨rfl, hb6⟩
          go_wp2_with (fail)
          refine (norm_s _ _ (by omega)).mono ?_
          rintro e w7 ⟨rfl, hb7⟩
          go_wp2
          go_ret
          have B5 := B4.trans (hb5.mono B4.size)
          have B6 := B5.trans (hb6.mono B5.size)
          exact ⟨by simp, B6.trans (hb7.mono B6.size)⟩
        · have h13' : (((a0[a0.size - 1].toNat : Nat) : Int) == 13) = false := by simpa using h13
          clear hmeet
          go_enter Try.func5, Try.ntmps5
          go_wp2_with (fail)
          refine (awake_any w).mono ?_
          rintro e w1 ⟨rfl, hb1⟩
          go_wp2_with (fail)
          refine (clean_s _ _ hs01).mono ?_
          rintro e w2 ⟨rfl, hb2⟩
          rw [EC.out]
          go_wp2_with (fail)
          refine (clean_s _ _ (by omega)).mono ?_
          rintro e w3 ⟨rfl, hb3⟩
          go_wp2_with (fail)
          refine (clean_s _ _ (by omega)).mono ?_
          rintro e w4 ⟨rfl, hb4⟩
          have B2 := hb1.trans (hb2.mono hb1.size)
          have B3 := B2.trans (hb3.mono B2.size)
          have B4 := B3.trans (hb4.mono B3.size)
          clear hb1 hb2 hb3 hb4 B2 B3
          go_wp2_with (fail)
          refine (norm_s _ _ hs01).mono ?_
          rintro e w5 ⟨rfl, hb5⟩
          rw [EN.out]
          go_wp2_with (fail)
          refine (norm_s _ _ (by omega)).mono ?_
          rintro e w6 ⟨rfl, hb6⟩
          go_wp2_with (fail)
          refine (norm_s _ _ (by omega)).mono ?_
          rintro e w7 ⟨rfl, hb7⟩
          go_wp2
          go_ret
          have B5 := B4.trans (hb5.mono B4.size)
          have B6 := B5.trans (hb6.mono B5.size)
          exact ⟨by simp, B6.trans (hb7.mono B6.size)⟩
      · clear hmeet
        go_enter Try.func5, Try.ntmps5
        go_wp2_with (fail)
        refine (awake_any w).mono ?_
        rintro e w1 ⟨rfl, hb1⟩
        go_wp2_with (fail)
        refine (clean_s _ _ hs01).mono ?_
        rintro e w2 ⟨rfl, hb2⟩
        rw [EC.out]
        go_wp2_with (fail)
        refine (clean_s _ _ (by omega)).mono ?_
        rintro e w3 ⟨rfl, hb3⟩
        go_wp2_with (fail)
        refine (clean_s _ _ (by omega)).mono ?_
        rintro e w4 ⟨rfl, hb4⟩
        have B2 := hb1.trans (hb2.mono hb1.size)
        have B3 := B2.trans (hb3.mono B2.size)
        have B4 := B3.trans (hb4.mono B3.size)
        clear hb1 hb2 hb3 hb4 B2 B3
        go_wp2_with (fail)
        refine (norm_s _ _ hs01).mono ?_
        rintro e w5 ⟨rfl, hb5⟩
        rw [EN.out]
        go_wp2_with (fail)
        refine (norm_s _ _ (by omega)).mono ?_
        rintro e w6 ⟨rfl, hb6⟩
        go_wp2_with (fail)
        refine (norm_s _ _ (by omega)).mono ?_
        rintro e w7 ⟨rfl, hb7⟩
        go_wp2
        go_ret
        have B5 := B4.trans (hb5.mono B4.size)
        have B6 := B5.trans (hb6.mono B5.size)
        exact ⟨by simp, B6.trans (hb7.mono B6.size)⟩
    · clear hmeet
      go_enter Try.func5, Try.ntmps5
      go_wp2_with (fail)
      refine (awake_any w).mono ?_
      rintro e w1 ⟨rfl, hb1⟩
      go_wp2_with (fail)
      refine (clean_s _ _ hs01).mono ?_
      rintro e w2 ⟨rfl, hb2⟩
      rw [EC.out]
      go_wp2_with (fail)
      refine (clean_s _ _ (by omega)).mono ?_
      rintro e w3 ⟨rfl, hb3⟩
      go_wp2_with (fail)
      refine (clean_s _ _ (by omega)).mono ?_
      rintro e w4 ⟨rfl, hb4⟩
      have B2 := hb1.trans (hb2.mono hb1.size)
      have B3 := B2.trans (hb3.mono B2.size)
      have B4 := B3.trans (hb4.mono B3.size)
      clear hb1 hb2 hb3 hb4 B2 B3
      go_wp2_with (fail)
      refine (norm_s _ _ hs01).mono ?_
      rintro e w5 ⟨rfl, hb5⟩
      rw [EN.out]
      go_wp2_with (fail)
      refine (norm_s _ _ (by omega)).mono ?_
      rintro e w6 ⟨rfl, hb6⟩
      go_wp2_with (fail)
      refine (norm_s _ _ (by omega)).mono ?_
      rintro e w7 ⟨rfl, hb7⟩
      go_wp2
      go_ret
      have B5 := B4.trans (hb5.mono B4.size)
      have B6 := B5.trans (hb6.mono B5.size)
      exact ⟨by simp, B6.trans (hb7.mono B6.size)⟩
  -- go_wp2
  -- go_ret
  -- exact ⟨rfl, by repeat (first | exact Grown.refl _ | apply Grown.drew | apply Grown.alloc)⟩

set_option maxRecDepth 100000 in
theorem lifted (os : Os) (started : os.Started) (H : Type) (enc : TypeId × Value → H) :
    ReturnsInHanded {} Try.checked os 5 .any (Rows.linesJoinsSpec.pre6 enc Try.prog Try.f5 Rows.linesJoinsRow.domain false) (Rows.linesJoinsSpec.post enc Try.prog Try.f5 false true false false) := by
  refine returnsInHanded_of_change (C := Try.checked) own started (by kernel_rfl) Try.func5
    (ChangeSpec.witness6 (enc := enc) (C := Try.checked) false ⟨#[], #[.string ByteArray.empty, .string ByteArray.empty], []⟩ 8 (by kernel_rfl) (by kernel_rfl) (by kernel_rfl) (by kernel_rfl)) ?_
  intro W base args ds gs before hval0 hW hcnd _
  have hval : ∀ (j : Nat) t v, Try.f5.params[j]? = some t → args[j]? = some v → Value.okWide Try.prog W .any base t v := hval0
  have hW' := hW
  obtain ⟨p, q, hA0, hV, rfl, hfz, hnd⟩ := hW
  have hA : DataW.TrodAll enc Try.prog W 0 (fun _ => true) true Try.f5.params.toList args.toList ds p := hA0
  rw [Try.params5] at hA hval
  obtain ⟨v0, vs0, d0, ds0, p0, q0, hargs, rfl, rfl, h0, r0⟩ := trodAll_cons hA
  obtain ⟨v1, vs1, d1, ds1, p1, q1, rfl, rfl, rfl, h1, r1⟩ := trodAll_cons r0
  obtain ⟨rfl, rfl, rfl⟩ := trodAll_nil r1
  obtain rfl : args = #[v0, v1] := by cases args; simp_all
  obtain ⟨rfl, rfl⟩ := trodVars_none hV
  obtain ⟨a0, rfl, rfl, rfl, w0⟩ := open_string Try.underlying9 (hval 0 9 v0 rfl rfl) h0
  obtain ⟨a1, rfl, rfl, rfl, w1⟩ := open_string Try.underlying9 (hval 1 9 v1 rfl rfl) h1
  clear hA0 hval0
  refine (walk a0 a1 w0 w1 W).mono fun e W' ⟨he, bel⟩ => ?_
  subst he
  exact ⟨_, rfl, _, _, _, [], _, [], hW', trodAll_mk1 (shut_bool Try.underlying4 _), (trodAll_cons_mk (shut_string Try.underlying9 w0) (trodAll_cons_mk (shut_string Try.underlying9 w1) trodAll_mk0)), rfl, bel.frame _, fun h => by cases h⟩

theorem over : Rows.linesJoinsRow.holds Try.pinned (OpenSpec.ofChange Rows.linesJoinsSpec) :=
  OpenClaim.holds_of_wide 5 Try.f5 rfl rfl rfl rfl rfl rfl rfl ⟨rfl, rfl, rfl, rfl, rfl⟩ rfl rfl rfl rfl rfl (by kernel_rfl) Try.func5 (by kernel_rfl)
    (of_decide_eq_true (by kernel_rfl)) (by unfold Func.isWrapper; first | (rw [if_pos (by decide +kernel)]; kernel_rfl) | (rw [if_neg (by decide +kernel)]; exact ⟨rfl, rfl⟩))
    (fun os started H enc _ => lifted os started H enc)

/-- ████ THE STATEMENT ████ -/
theorem proved : Rows.LinesJoinsSaid :=
  over
end Go.Proofs.Ytmclpgjhfmiedaa.linesJoins
