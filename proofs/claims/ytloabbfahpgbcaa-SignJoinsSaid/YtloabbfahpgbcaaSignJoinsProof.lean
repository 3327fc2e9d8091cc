/-
  The law SignJoins of flail/flaillaw03 answers true for every input, and changes nothing that was there. No condition.
-/
import Derived.Test.YtloabbfahpgbcaaRows
import Derived.Test.YtloabbfahpgbcaaSignLaws
import Derived.WalkKit
import Derived.ProofKit
import Derived.ChangeOld
import Derived.Below
import Derived.OpenShut
import Derived.ShutString
namespace Go.Proofs.Ytloabbfahpgbcaa.signJoins
open Go.ChangeShapes Go.WideShapes Go.ChangeAt Go.RowKit
open Go.ChangeMaps (open_string shut_string)
set_option linter.unusedVariables false      -- a walk need not use every 'w<i>' (that an integer argument fits its kind)

theorem own : ownKnob Try.prog.godebug = none := by kernel_rfl

set_option maxRecDepth 100000 in
set_option maxHeartbeats 1000000 in
theorem walk (a0 : ByteArray) (a1 : ByteArray) (w0 : a0.size ≤ maxLen) (w1 : a1.size ≤ maxLen) (w : World) :
    Calls Try.prog 7 #[.string a0, .string a1] w fun e w' => e = .returned (.bool true) ∧ Below w.heap.size w w' := by
  clear w0 w1
  by_cases hlen : 300 < a0.size
  · go_enter Try.func7, Try.ntmps7
    go_wp2_with (go_at_call 8; refine (awake_any w).mono ?_; rintro e w1 ⟨rfl, hb1⟩)
    go_ret
    exact ⟨rfl, hb1⟩
  by_cases hlen2 : 300 < a1.size
  · have hle : a0.size ≤ 300 := by omega
    go_enter Try.func7, Try.ntmps7
    go_wp2_with (go_at_call 8; refine (awake_any w).mono ?_; rintro e w1 ⟨rfl, hb1⟩)
    go_ret
    exact ⟨rfl, hb1⟩
  have hs0 : a0.size ≤ 1099511627776 := by omega
  have hs1 : a1.size ≤ 1099511627776 := by omega
  have hs : (a0 ++ a1).size ≤ 1099511627776 := by rw [ByteArray.size_append]; omega
  have HS := Lib.hid hs
  clear hs
  obtain ⟨A, hA⟩ : ∃ A, lowS a0 = A := ⟨_, rfl⟩
  obtain ⟨B, hB⟩ : ∃ B, lowS a1 = B := ⟨_, rfl⟩
  obtain ⟨Z, hZ⟩ : ∃ Z, lowS (a0 ++ a1) = Z := ⟨_, rfl⟩
  have HA := Lib.hid hA
  have HB := Lib.hid hB
  have HZ := Lib.hid hZ
  have hA1 : A.size = a0.size := by rw [← hA, lowS_size]
  have hB1 : B.size = a1.size := by rw [← hB, lowS_size]
  have hZ1 : Z.size = a0.size + a1.size := by rw [← hZ, lowS_size, ByteArray.size_append]
  have hA2 : A.size ≤ 300 := by omega
  have hB2 : B.size ≤ 300 := by omega
  have hZ2 : Z.size ≤ 600 := by omega
  have hZ3 : a0.size ≤ Z.size := by omega
  have g1 : ¬ 9223372036854775807 < a0.size + a1.size := by omega
  have g2 : ¬ 9223372036854775807 < A.size + B.size := by omega
  have hz : ((Z.size : Int) != (a0.size : Int) + (a1.size : Int)) = false := by rw [hZ1]; simp
  have hzz : (Z.toList == (A ++ B).toList) = true := by rw [← hA, ← hB, ← hZ, lowS_app]; simp
  have ST : Hid (∀ i (h : i < a0.size) (h' : i < Z.size), letterI (a0[i].toNat : Int) = false → ((Z[i].toNat : Nat) : Int) = (a0[i].toNat : Int)) := Lib.hid (by
    subst hZ
    intro i h h' hl
    rw [low_stay a0 a1 i h h' hl])
  have EJ : Hid (begS (a0 ++ a1) (a0.size : Int) B = true) := Lib.hid (by rw [← hB, beg_join])
  clear hA hB hZ hA1 hB1 hZ1
  go_enter Try.func7, Try.ntmps7
  go_wp2_with (fail)
  refine (awake_any w).mono ?_
  rintro e w1 ⟨rfl, hb1⟩
  go_wp2_with (fail)
  refine (lower _ _ HS.out).mono ?_
  rintro e w2 ⟨rfl, hb2⟩
  rw [HZ.out]
  go_wp2_with (fail)
  refine (lower _ _ hs0).mono ?_
  rintro e w3 ⟨rfl, hb3⟩
  rw [HA.out]
  go_wp2_with (fail)
  refine (lower _ _ hs1).mono ?_
  rintro e w4 ⟨rfl, hb4⟩
  rw [HB.out]
  have B2 := hb1.trans (hb2.mono hb1.size)
  have B3 := B2.trans (hb3.mono B2.size)
  have B4 := B3.trans (hb4.mono B3.size)
  clear hb1 hb2 hb3 hb4 B2 B3
  go_wp2_with (fail)
  go_loopw [7] (fun v wr => ∃ i : Nat, v = .int .i64 (i : Int) ∧ i ≤ a0.size ∧ Below w.heap.size w wr) (fun v _ => a0.size - (intOf v).toNat)
  case atStart => exact ⟨0, rfl, Nat.zero_le _, B4⟩
  case round =>
    obtain ⟨i, rfl, hi, hbw⟩ := hrel
    by_cases hlt : i < a0.size
    · have hq := (a0[i]'hlt).toNat_lt
      have hltz : i < Z.size := by omega
      have i1 : (i : Int) < (a0.size : Int) := by omega
      have i2 : (i : Int) < (Z.size : Int) := by omega
      obtain ⟨L, hL⟩ : ∃ L, letterI (a0[i].toNat : Int) = L := ⟨_, rfl⟩
      have CL : Hid (∀ w', Calls Try.prog 11 #[.int .u8 (a0[i].toNat : Int)] w' fun e w'' => e = .returned (.bool L) ∧ w'' = w') := Lib.hid (fun w' => by rw [← hL]; exact letter _ w' (by omega) (by omega))
      cases L
      · have hst : (((Z[i].toNat : Nat) : Int) != (a0[i].toNat : Int)) = false := by simpa using ST.out i hlt hltz hL
        clear hL
        go_wp2_with (fail)
        go_quiet ((go_at_call 11; refine (CL.out _).mono ?_; rintro e w'' ⟨rfl, rfl⟩; exact ⟨rfl, _, rfl⟩))
        go_wp2
        go_roundw
        case rel => exact ⟨i + 1, rfl, by omega, hbw.trans (below_drewN _ _ _)⟩
        case measure => simp [intOf]; omega
      · clear hL
        go_wp2_with (fail)
        go_quiet ((go_at_call 11; refine (CL.out _).mono ?_; rintro e w'' ⟨rfl, rfl⟩; exact ⟨rfl, _, rfl⟩))
        go_wp2
        go_roundw
        case rel => exact ⟨i + 1, rfl, by omega, hbw.trans (below_drewN _ _ _)⟩
        case measure => simp [intOf]; omega
    · go_wp2_with (fail)
      refine (lower _ _ hs1).mono ?_
      rintro e w5 ⟨rfl, hb5⟩
      rw [HB.out]
      have g3 : (a0.size : Int) ≤ 9223372036854775807 := by omega
      have g4 : -9223372036854775808 ≤ (a0.size : Int) := by omega
      have g5 : B.size ≤ 1099511627776 := by omega
      go_wp2_with (fail)
      refine (beginsB _ _ _ _ HS.out g5 g4 g3).mono ?_
      rintro e w6 ⟨rfl, hb6⟩
      rw [EJ.out]
      go_wp2
      go_ret
      have B5 := hbw.trans (hb5.mono hbw.size)
      exact ⟨by simp, B5.trans (hb6.mono B5.size)⟩
  -- go_wp2
  -- go_ret
  -- exact ⟨rfl, by repeat (first | exact Grown.refl _ | apply Grown.drew | apply Grown.alloc)⟩

set_option maxRecDepth 100000 in
theorem lifted (os : Os) (started : os.Started) (H : Type) (enc : TypeId × Value → H) :
    ReturnsInHanded {} Try.checked os 7 .any (Rows.signJoinsSpec.pre6 enc Try.prog Try.f7 Rows.signJoinsRow.domain false) (Rows.signJoinsSpec.post enc Try.prog Try.f7 false true false false) := by
  refine returnsInHanded_of_change (C := Try.checked) own started (by kernel_rfl) Try.func7
    (ChangeSpec.witness6 (enc := enc) (C := Try.checked) false ⟨#[], #[.string ByteArray.empty, .string ByteArray.empty], []⟩ 8 (by kernel_rfl) (by kernel_rfl) (by kernel_rfl) (by kernel_rfl)) ?_
  intro W base args ds gs before hval0 hW hcnd _
  have hval : ∀ (j : Nat) t v, Try.f7.params[j]? = some t → args[j]? = some v → Value.okWide Try.prog W .any base t v := hval0
  have hW' := hW
  obtain ⟨p, q, hA0, hV, rfl, hfz, hnd⟩ := hW
  have hA : DataW.TrodAll enc Try.prog W 0 (fun _ => true) true Try.f7.params.toList args.toList ds p := hA0
  rw [Try.params7] at hA hval
  obtain ⟨v0, vs0, d0, ds0, p0, q0, hargs, rfl, rfl, h0, r0⟩ := trodAll_cons hA
  obtain ⟨v1, vs1, d1, ds1, p1, q1, rfl, rfl, rfl, h1, r1⟩ := trodAll_cons r0
  obtain ⟨rfl, rfl, rfl⟩ := trodAll_nil r1
  obtain rfl : args = #[v0, v1] := by cases args; simp_all
  obtain ⟨rfl, rfl⟩ := trodVars_none hV
  obtain ⟨a0, rfl, rfl, rfl, w0⟩ := open_string Try.underlying9 (hval 0 9 v0 rfl rfl) h0
  obtain ⟨a1, rfl, rfl, rfl, w1⟩ := open_string Try.underlying9 (hval 1 9 v1 rfl rfl) h1
  clear hA0 hval0
  refine (walk a0 a1 w0 w1 W).mono fun e W' ⟨he, bel⟩ => ?_
  subst he
  exact ⟨_, rfl, _, _, _, [], _, [], hW', trodAll_mk1 (shut_bool Try.underlying4 _), (trodAll_cons_mk (shut_string Try.underlying9 w0) (trodAll_cons_mk (shut_string Try.underlying9 w1) trodAll_mk0)), rfl, bel.frame _, fun h => by cases h⟩

theorem over : Rows.signJoinsRow.holds Try.pinned (OpenSpec.ofChange Rows.signJoinsSpec) :=
  OpenClaim.holds_of_wide 7 Try.f7 rfl rfl rfl rfl rfl rfl rfl ⟨rfl, rfl, rfl, rfl, rfl⟩ rfl rfl rfl rfl rfl (by kernel_rfl) Try.func7 (by kernel_rfl)
    (of_decide_eq_true (by kernel_rfl)) (by unfold Func.isWrapper; first | (rw [if_pos (by decide +kernel)]; kernel_rfl) | (rw [if_neg (by decide +kernel)]; exact ⟨rfl, rfl⟩))
    (fun os started H enc _ => lifted os started H enc)

/-- ████ THE STATEMENT ████ -/
theorem proved : Rows.SignJoinsSaid :=
  over
end Go.Proofs.Ytloabbfahpgbcaa.signJoins
