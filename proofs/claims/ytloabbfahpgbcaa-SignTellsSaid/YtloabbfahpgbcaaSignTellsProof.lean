/-
  The law SignTells of flail/flaillaw03 answers true for every input, and changes nothing that was there. No condition.
-/
import Derived.Test.YtloabbfahpgbcaaRows
import Derived.Test.YtloabbfahpgbcaaSignLaws
import Derived.WalkKit
import Derived.ProofKit
import Derived.ChangeOld
import Derived.Below
import Derived.OpenShut
import Derived.ShutString
namespace Go.Proofs.Ytloabbfahpgbcaa.signTells
open Go.ChangeShapes Go.WideShapes Go.ChangeAt Go.RowKit
open Go.ChangeMaps (open_string shut_string)
set_option linter.unusedVariables false      -- a walk need not use every 'w<i>' (that an integer argument fits its kind)

theorem own : ownKnob Try.prog.godebug = none := by kernel_rfl

set_option maxRecDepth 100000 in
set_option maxHeartbeats 1000000 in
theorem walk (a0 : Int) (w0 : (Lit.int .u8 a0).wf = true) (w : World) :
    Calls Try.prog 3 #[.int .u8 a0] w fun e w' => e = .returned (.bool true) ∧ Below w.heap.size w w' := by
  have hb : 0 ≤ a0 ∧ a0 ≤ 255 := by simpa [Lit.wf, IntKind.min, IntKind.max, IntKind.signed, IntKind.bits] using w0
  obtain ⟨h0, h1'⟩ := hb
  have h1 : a0 < 256 := by omega
  clear w0
  obtain ⟨L, hL⟩ : ∃ L, letterI a0 = L := ⟨_, rfl⟩
  obtain ⟨D, hD⟩ : ∃ D, digitI a0 = D := ⟨_, rfl⟩
  have HW : Hid (wordI a0 = (L || D)) := Lib.hid (by rw [wordI, hL, hD])
  have HL := Lib.hid hL
  have HD := Lib.hid hD
  clear hL hD
  cases L
  all_goals
    go_enter Try.func3, Try.ntmps3
    go_wp2_with (fail)
    refine (awake_any w).mono ?_
    rintro e w1 ⟨rfl, hb1⟩
    go_wp2_with (fail)
    refine (space _ _ h0 h1).mono ?_
    rintro e w2 ⟨rfl, rfl⟩
    go_wp2_with (fail)
    refine (refSpace _ _).mono ?_
    rintro e w2 ⟨rfl, rfl⟩
    go_wp2_with (fail)
    refine (letter _ _ h0 h1).mono ?_
    rintro e w2 ⟨rfl, rfl⟩
    rw [HL.out]
    go_wp2_with (fail)
    refine (refLetter _ _ h0 h1).mono ?_
    rintro e w2 ⟨rfl, rfl⟩
    rw [HL.out]
    go_wp2_with (fail)
    refine (digit _ _ h0 h1).mono ?_
    rintro e w2 ⟨rfl, rfl⟩
    rw [HD.out]
    go_wp2_with (fail)
    refine (refDigit _ _ h0 h1).mono ?_
    rintro e w2 ⟨rfl, rfl⟩
    rw [HD.out]
    go_wp2_with (fail)
    refine (hex _ _ h0 h1).mono ?_
    rintro e w2 ⟨rfl, rfl⟩
    go_wp2_with (fail)
    refine (refHex _ _ h0 h1).mono ?_
    rintro e w2 ⟨rfl, rfl⟩
    go_wp2_with (fail)
    refine (word _ _ h0 h1).mono ?_
    rintro e w2 ⟨rfl, rfl⟩
    rw [HW.out]
    go_wp2_with (fail)
    refine (refLetter _ _ h0 h1).mono ?_
    rintro e w2 ⟨rfl, rfl⟩
    rw [HL.out]
  · go_wp2_with (fail)
    refine (refDigit _ _ h0 h1).mono ?_
    rintro e w2 ⟨rfl, rfl⟩
    rw [HD.out]
    go_wp2
    go_ret
    exact ⟨by simp, hb1⟩
  · go_wp2
    go_ret
    exact ⟨by simp, hb1⟩
  -- go_wp2
  -- go_ret
  -- exact ⟨rfl, by repeat (first | exact Grown.refl _ | apply Grown.drew | apply Grown.alloc)⟩

set_option maxRecDepth 100000 in
theorem lifted (os : Os) (started : os.Started) (H : Type) (enc : TypeId × Value → H) :
    ReturnsInHanded {} Try.checked os 3 .any (Rows.signTellsSpec.pre6 enc Try.prog Try.f3 Rows.signTellsRow.domain false) (Rows.signTellsSpec.post enc Try.prog Try.f3 false true false false) := by
  refine returnsInHanded_of_change (C := Try.checked) own started (by kernel_rfl) Try.func3
    (ChangeSpec.witness6 (enc := enc) (C := Try.checked) false ⟨#[], #[.int .u8 0], []⟩ 8 (by kernel_rfl) (by kernel_rfl) (by kernel_rfl) (by kernel_rfl)) ?_
  intro W base args ds gs before hval0 hW hcnd _
  have hval : ∀ (j : Nat) t v, Try.f3.params[j]? = some t → args[j]? = some v → Value.okWide Try.prog W .any base t v := hval0
  have hW' := hW
  obtain ⟨p, q, hA0, hV, rfl, hfz, hnd⟩ := hW
  have hA : DataW.TrodAll enc Try.prog W 0 (fun _ => true) true Try.f3.params.toList args.toList ds p := hA0
  rw [Try.params3] at hA hval
  obtain ⟨v0, vs0, d0, ds0, p0, q0, hargs, rfl, rfl, h0, r0⟩ := trodAll_cons hA
  obtain ⟨rfl, rfl, rfl⟩ := trodAll_nil r0
  obtain rfl : args = #[v0] := by cases args; simp_all
  obtain ⟨rfl, rfl⟩ := trodVars_none hV
  obtain ⟨a0, rfl, rfl, rfl, w0⟩ := open_int Try.underlying5 (hval 0 5 v0 rfl rfl) h0
  clear hA0 hval0
  refine (walk a0 w0 W).mono fun e W' ⟨he, bel⟩ => ?_
  subst he
  exact ⟨_, rfl, _, _, _, [], _, [], hW', trodAll_mk1 (shut_bool Try.underlying4 _), (trodAll_cons_mk (shut_int Try.underlying5 w0) trodAll_mk0), rfl, bel.frame _, fun h => by cases h⟩

theorem over : Rows.signTellsRow.holds Try.pinned (OpenSpec.ofChange Rows.signTellsSpec) :=
  OpenClaim.holds_of_wide 3 Try.f3 rfl rfl rfl rfl rfl rfl rfl ⟨rfl, rfl, rfl, rfl, rfl⟩ rfl rfl rfl rfl rfl (by kernel_rfl) Try.func3 (by kernel_rfl)
    (of_decide_eq_true (by kernel_rfl)) (by unfold Func.isWrapper; first | (rw [if_pos (by decide +kernel)]; kernel_rfl) | (rw [if_neg (by decide +kernel)]; exact ⟨rfl, rfl⟩))
    (fun os started H enc _ => lifted os started H enc)

/-- ████ THE STATEMENT ████ -/
theorem proved : Rows.SignTellsSaid :=
  over
end Go.Proofs.Ytloabbfahpgbcaa.signTells
