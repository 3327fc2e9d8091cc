/-
  The law SignOnce of flail/flaillaw03 answers true for every input, and changes nothing that was there. No condition.
-/
import Derived.Test.YtloabbfahpgbcaaRows
import Derived.Test.YtloabbfahpgbcaaSignLaws
import Derived.WalkKit
import Derived.ProofKit
import Derived.ChangeOld
import Derived.Below
import Derived.OpenShut
import Derived.ShutString
namespace Go.Proofs.Ytloabbfahpgbcaa.signOnce
open Go.ChangeShapes Go.WideShapes Go.ChangeAt Go.RowKit
open Go.ChangeMaps (open_string shut_string)
set_option linter.unusedVariables false      -- a walk need not use every 'w<i>' (that an integer argument fits its kind)

theorem own : ownKnob Try.prog.godebug = none := by kernel_rfl

set_option maxRecDepth 100000 in
set_option maxHeartbeats 1000000 in
theorem walk (a0 : ByteArray) (a1 : Int) (a2 : Int) (w0 : a0.size ≤ maxLen) (w1 : (Lit.int .u16 a1).wf = true) (w2 : (Lit.int .u16 a2).wf = true) (w : World) :
    Calls Try.prog 5 #[.string a0, .int .u16 a1, .int .u16 a2] w fun e w' => e = .returned (.bool true) ∧ Below w.heap.size w w' := by
  have hb1 : 0 ≤ a1 ∧ a1 ≤ 65535 := by simpa [Lit.wf, IntKind.min, IntKind.max, IntKind.signed, IntKind.bits] using w1
  have hb2 : 0 ≤ a2 ∧ a2 ≤ 65535 := by simpa [Lit.wf, IntKind.min, IntKind.max, IntKind.signed, IntKind.bits] using w2
  obtain ⟨h10, h11⟩ := hb1
  obtain ⟨h20, h21⟩ := hb2
  clear w0 w1 w2
  by_cases hlen : 300 < a0.size
  · go_enter Try.func5, Try.ntmps5
    go_wp2_with (go_at_call 8; refine (awake_any w).mono ?_; rintro e w1 ⟨rfl, hb1⟩)
    go_ret
    exact ⟨rfl, hb1⟩
  have hs : a0.size ≤ 1099511627776 := by omega
  have hk0 : 0 ≤ a1 % ((a0.size : Int) + 1) := Int.emod_nonneg _ (by omega)
  have hk1 : a1 % ((a0.size : Int) + 1) < (a0.size : Int) + 1 := Int.emod_lt_of_pos _ (by omega)
  obtain ⟨k, hk⟩ : ∃ k : Nat, a1 % ((a0.size : Int) + 1) = k := ⟨(a1 % ((a0.size : Int) + 1)).toNat, by omega⟩
  have hm0 : 0 ≤ a2 % ((a0.size : Int) - (k : Int) + 1) := Int.emod_nonneg _ (by omega)
  have hm1 : a2 % ((a0.size : Int) - (k : Int) + 1) < (a0.size : Int) - (k : Int) + 1 := Int.emod_lt_of_pos _ (by omega)
  obtain ⟨m, hm⟩ : ∃ m : Nat, a2 % ((a0.size : Int) - (k : Int) + 1) = m := ⟨(a2 % ((a0.size : Int) - (k : Int) + 1)).toNat, by omega⟩
  have hkm : k + m ≤ a0.size := by omega
  have HK := Lib.hid hk
  have HM := Lib.hid hm
  obtain ⟨A, hA⟩ : ∃ A, lowS a0 = A := ⟨_, rfl⟩
  have HA := Lib.hid hA
  have EA : Hid (lowS A = A) := Lib.hid (by rw [← hA, lowS_twice])
  have hsz : A.size = a0.size := by rw [← hA, lowS_size]
  have hz : ((A.size : Int) != (a0.size : Int)) = false := by rw [hsz]; simp
  have hA1 : A.size ≤ 300 := by omega
  have hA2 : k + m ≤ A.size := by omega
  have E1 := Lib.hid (beg_here a0 A k m hA hkm)
  have E2 := Lib.hid (beg_low a0 A k m hA hkm)
  have E3 := Lib.hid (beg_more a0 A k hA (by omega))
  clear hA hsz hk hm hm0 hm1
  go_enter Try.func5, Try.ntmps5
  go_wp2_with (fail)
  refine (awake_any w).mono ?_
  rintro e w1 ⟨rfl, hb1⟩
  go_wp2_with (fail)
  rw [HK.out, HM.out]
  clear hk0 hk1
  refine (lower _ _ hs).mono ?_
  rintro e w2 ⟨rfl, hb2⟩
  rw [HA.out]
  go_wp2_with (fail)
  refine (lower _ _ (by omega)).mono ?_
  rintro e w3 ⟨rfl, hb3⟩
  rw [EA.out]
  have B2 := hb1.trans (hb2.mono hb1.size)
  have B3 := B2.trans (hb3.mono B2.size)
  clear hb1 hb2 hb3 B2
  have g1 : (k : Int) ≤ 9223372036854775807 := by omega
  have g2 : -9223372036854775808 ≤ (k : Int) := by omega
  have X1 : (A.extract k (k + m)).size ≤ 1099511627776 := by rw [ByteArray.size_extract]; omega
  have X2 : (A.extract k A.size ++ ⟨#[97]⟩).size ≤ 1099511627776 := by
    rw [ByteArray.size_append, ByteArray.size_extract]
    have : (ByteArray.mk #[97]).size = 1 := rfl
    omega
  have X1 := Lib.hid X1
  have X2 := Lib.hid X2
  go_wp2_with (fail)
  refine (beginsB _ _ _ _ hs X1.out g2 g1).mono ?_
  rintro e w4 ⟨rfl, hb4⟩
  rw [E1.out]
  go_wp2_with (fail)
  refine (beginsB _ _ _ _ (by omega) X1.out g2 g1).mono ?_
  rintro e w5 ⟨rfl, hb5⟩
  rw [E2.out]
  go_wp2_with (fail)
  refine (beginsB _ _ _ _ hs X2.out g2 g1).mono ?_
  rintro e w6 ⟨rfl, hb6⟩
  rw [E3.out]
  go_wp2
  go_ret
  have B4 := B3.trans (hb4.mono B3.size)
  have B5 := B4.trans (hb5.mono B4.size)
  exact ⟨by simp, B5.trans (hb6.mono B5.size)⟩
  -- go_wp2
  -- go_ret
  -- exact ⟨rfl, by repeat (first | exact Grown.refl _ | apply Grown.drew | apply Grown.alloc)⟩

set_option maxRecDepth 100000 in
theorem lifted (os : Os) (started : os.Started) (H : Type) (enc : TypeId × Value → H) :
    ReturnsInHanded {} Try.checked os 5 .any (Rows.signOnceSpec.pre6 enc Try.prog Try.f5 Rows.signOnceRow.domain false) (Rows.signOnceSpec.post enc Try.prog Try.f5 false true false false) := by
  refine returnsInHanded_of_change (C := Try.checked) own started (by kernel_rfl) Try.func5
    (ChangeSpec.witness6 (enc := enc) (C := Try.checked) false ⟨#[], #[.string ByteArray.empty, .int .u16 0, .int .u16 0], []⟩ 8 (by kernel_rfl) (by kernel_rfl) (by kernel_rfl) (by kernel_rfl)) ?_
  intro W base args ds gs before hval0 hW hcnd _
  have hval : ∀ (j : Nat) t v, Try.f5.params[j]? = some t → args[j]? = some v → Value.okWide Try.prog W .any base t v := hval0
  have hW' := hW
  obtain ⟨p, q, hA0, hV, rfl, hfz, hnd⟩ := hW
  have hA : DataW.TrodAll enc Try.prog W 0 (fun _ => true) true Try.f5.params.toList args.toList ds p := hA0
  rw [Try.params5] at hA hval
  obtain ⟨v0, vs0, d0, ds0, p0, q0, hargs, rfl, rfl, h0, r0⟩ := trodAll_cons hA
  obtain ⟨v1, vs1, d1, ds1, p1, q1, rfl, rfl, rfl, h1, r1⟩ := trodAll_cons r0
  obtain ⟨v2, vs2, d2, ds2, p2, q2, rfl, rfl, rfl, h2, r2⟩ := trodAll_cons r1
  obtain ⟨rfl, rfl, rfl⟩ := trodAll_nil r2
  obtain rfl : args = #[v0, v1, v2] := by cases args; simp_all
  obtain ⟨rfl, rfl⟩ := trodVars_none hV
  obtain ⟨a0, rfl, rfl, rfl, w0⟩ := open_string Try.underlying9 (hval 0 9 v0 rfl rfl) h0
  obtain ⟨a1, rfl, rfl, rfl, w1⟩ := open_int Try.underlying27 (hval 1 27 v1 rfl rfl) h1
  obtain ⟨a2, rfl, rfl, rfl, w2⟩ := open_int Try.underlying27 (hval 2 27 v2 rfl rfl) h2
  clear hA0 hval0
  refine (walk a0 a1 a2 w0 w1 w2 W).mono fun e W' ⟨he, bel⟩ => ?_
  subst he
  exact ⟨_, rfl, _, _, _, [], _, [], hW', trodAll_mk1 (shut_bool Try.underlying4 _), (trodAll_cons_mk (shut_string Try.underlying9 w0) (trodAll_cons_mk (shut_int Try.underlying27 w1) (trodAll_cons_mk (shut_int Try.underlying27 w2) trodAll_mk0))), rfl, bel.frame _, fun h => by cases h⟩

theorem over : Rows.signOnceRow.holds Try.pinned (OpenSpec.ofChange Rows.signOnceSpec) :=
  OpenClaim.holds_of_wide 5 Try.f5 rfl rfl rfl rfl rfl rfl rfl ⟨rfl, rfl, rfl, rfl, rfl⟩ rfl rfl rfl rfl rfl (by kernel_rfl) Try.func5 (by kernel_rfl)
    (of_decide_eq_true (by kernel_rfl)) (by unfold Func.isWrapper; first | (rw [if_pos (by decide +kernel)]; kernel_rfl) | (rw [if_neg (by decide +kernel)]; exact ⟨rfl, rfl⟩))
    (fun os started H enc _ => lifted os started H enc)

/-- ████ THE STATEMENT ████ -/
theorem proved : Rows.SignOnceSaid :=
  over
end Go.Proofs.Ytloabbfahpgbcaa.signOnce
