/-
  The law ScriptCase of flail/flaillaw13 answers true for every input, and changes nothing that was there. No condition.
-/
import Derived.Test.YthmfjnjjkcaalaaRows
import Derived.Test.YthmfjnjjkcaalaaScrAwake
import Derived.HandedShaped
import Derived.Test.YthmfjnjjkcaalaaMaxLen
import Derived.WalkKit
import Derived.ProofKit
import Derived.ChangeOld
import Derived.Below
import Derived.OpenShut
import Derived.ShutString
namespace Go.Proofs.Ythmfjnjjkcaalaa.scriptCase
open Go.ChangeShapes Go.WideShapes Go.ChangeAt Go.RowKit
open Go.ChangeMaps (open_string shut_string)
set_option linter.unusedVariables false      -- a walk need not use every 'w<i>' (that an integer argument fits its kind)

theorem own : ownKnob Try.prog.godebug = none := by kernel_rfl

set_option maxRecDepth 100000 in
set_option maxHeartbeats 8000000 in
theorem walk (a0 : ByteArray) (a1 : Int) (w0 : a0.size ≤ maxLen) (w1 : (Lit.int .u16 a1).wf = true) (w : World) (hT : ScrLaid w) :
    Calls Try.prog 8 #[.string a0, .int .u16 a1] w fun e w' => e = .returned (.bool true) ∧ Below w.heap.size w w' := by
  have hb1 : 0 ≤ a1 ∧ a1 ≤ 65535 := by simpa [Lit.wf, IntKind.min, IntKind.max, IntKind.signed, IntKind.bits] using w1
  obtain ⟨h10, h11⟩ := hb1
  clear w0 w1
  have HW := Lib.hid hT
  clear hT
  by_cases hlen : 300 < a0.size
  · have hc : decide ((300 : Int) < (a0.size : Int)) = true := decide_eq_true (by omega)
    clear hlen
    go_enter Try.func8, Try.ntmps8
    go_wp2_with (fail)
    refine (scrAwake_any w HW.out).mono ?_
    rintro e w1 ⟨rfl, c1⟩
    go_wp2
    go_ret
    exact ⟨rfl, c1⟩
  have hs0 : a0.size ≤ 300 := by omega
  have d0 : decide ((300 : Int) < (a0.size : Int)) = false := decide_eq_false (by omega)
  have hk0 : 0 ≤ a1 % ((a0.size : Int) + 1) := Int.emod_nonneg _ (by omega)
  have hk1 : a1 % ((a0.size : Int) + 1) < (a0.size : Int) + 1 := Int.emod_lt_of_pos _ (by omega)
  obtain ⟨k, hk⟩ : ∃ k : Nat, a1 % ((a0.size : Int) + 1) = k := ⟨(a1 % ((a0.size : Int) + 1)).toNat, by omega⟩
  have HK := Lib.hid hk
  have hkk : k ≤ 300 := by omega
  have hks : k ≤ a0.size := by omega
  have HL := fun w => Lib.hid (lower a0 w (by omega))
  have H1 := fun w h => Lib.hid (scrFind_any a0 (k : Int) w (by omega) (by omega) h)
  have H2 := fun w h => Lib.hid (scrFind_any (lowS a0) (k : Int) w (by rw [lowS_size]; omega) (by omega) h)
  have hlow : scrP (lowS a0).data.toList (k : Int) = scrP a0.data.toList (k : Int) := by
    rw [lowS_list, scrP_in _ k (by rw [lowL_len, ← Lib.size_eq]; exact hks), scrP_in _ k (by rw [← Lib.size_eq]; exact hks)]
    rw [show (lowL a0.data.toList).drop k = lowL (a0.data.toList.drop k) from (List.map_drop ..).symm, scr_low]
  rw [hlow] at H2
  have H3 := fun w h => Lib.hid (scrText_any a0 w (by omega) h)
  obtain ⟨P, hP⟩ : ∃ E, (scrP a0.data.toList (k : Int)).1 = E := ⟨_, rfl⟩
  obtain ⟨Q, hQ⟩ : ∃ E, (scrP a0.data.toList (k : Int)).2 = E := ⟨_, rfl⟩
  obtain ⟨T, hT⟩ : ∃ T : ByteArray, (⟨(cleanL a0.data.toList).toArray⟩ : ByteArray) = T := ⟨_, rfl⟩
  have hTs : decide ((a0.size : Int) ≤ (T.size : Int)) = true := by
    have := (cleanL_len a0.data.toList).1
    have e : T.size = (cleanL a0.data.toList).length := by rw [← hT]; rfl
    rw [← Lib.size_eq] at this
    exact decide_eq_true (by omega)
  have hTs2 : decide (a0.size ≤ T.size) = true := by
    rw [decide_eq_true_eq] at hTs ⊢; omega
  obtain ⟨LA, hLA⟩ : ∃ X, lowS a0 = X := ⟨_, rfl⟩
  rw [hP, hQ] at H1 H2
  rw [hT] at H3
  simp only [hLA] at HL H2
  clear hP hQ hT hlow hLA hk hlen
  go_enter Try.func8, Try.ntmps8
  go_wp2_with (fail)
  refine (scrAwake_any w HW.out).mono ?_
  rintro e w1 ⟨rfl, c1⟩
  have B1 := Lib.hid c1
  clear c1
  go_wp2_with (fail)
  rw [HK.out]
  refine (H1 _ (HW.out.below B1.out)).out.mono ?_
  rintro e w2 ⟨rfl, c2⟩
  have B2 := Lib.hid (B1.out.trans (c2.mono B1.out.size))
  clear c2
  go_wp2_with (fail)
  refine (HL _).out.mono ?_
  rintro e w3 ⟨rfl, c3⟩
  have B3 := Lib.hid (B2.out.trans (c3.mono B2.out.size))
  clear c3
  go_wp2_with (fail)
  refine (H2 _ (HW.out.below B3.out)).out.mono ?_
  rintro e w4 ⟨rfl, c4⟩
  have B4 := Lib.hid (B3.out.trans (c4.mono B3.out.size))
  clear c4
  go_wp2_with (fail)
  refine (H3 _ (HW.out.below B4.out)).out.mono ?_
  rintro e w5 ⟨rfl, c5⟩
  have B5 := Lib.hid (B4.out.trans (c5.mono B4.out.size))
  clear c5
  go_wp2
  go_ret
  exact ⟨ret_bool (by simp), B5.out⟩
  -- go_wp2
  -- go_ret
  -- exact ⟨rfl, by repeat (first | exact Grown.refl _ | apply Grown.drew | apply Grown.alloc)⟩

set_option maxRecDepth 100000 in
theorem lifted (os : Os) (started : os.Started) (H : Type) (enc : TypeId × Value → H) :
    ReturnsInHanded {} Try.checked os 8 .any (Rows.scriptCaseSpec.pre6 enc Try.prog Try.f8 Rows.scriptCaseRow.domain false) (Rows.scriptCaseSpec.post enc Try.prog Try.f8 false true false false) := by
  refine returnsInHanded_of_change_shaped (C := Try.checked) own started (by kernel_rfl) Try.func8
    (ChangeSpec.witness6 (enc := enc) (C := Try.checked) false ⟨#[], #[.string ByteArray.empty, .int .u16 0], []⟩ 8 (by kernel_rfl) (by kernel_rfl) (by kernel_rfl) (by kernel_rfl)) ?_
  intro W base args ds gs before hval0 hW hcnd _ hsh _
  have hval : ∀ (j : Nat) t v, Try.f8.params[j]? = some t → args[j]? = some v → Value.okWide Try.prog W .any base t v := hval0
  have hW' := hW
  obtain ⟨p, q, hA0, hV, rfl, hfz, hnd⟩ := hW
  have hA : DataW.TrodAll enc Try.prog W 0 (fun _ => true) true Try.f8.params.toList args.toList ds p := hA0
  rw [Try.params8] at hA hval
  obtain ⟨v0, vs0, d0, ds0, p0, q0, hargs, rfl, rfl, h0, r0⟩ := trodAll_cons hA
  obtain ⟨v1, vs1, d1, ds1, p1, q1, rfl, rfl, rfl, h1, r1⟩ := trodAll_cons r0
  obtain ⟨rfl, rfl, rfl⟩ := trodAll_nil r1
  obtain rfl : args = #[v0, v1] := by cases args; simp_all
  obtain ⟨rfl, rfl⟩ := trodVars_none hV
  obtain ⟨a0, rfl, rfl, rfl, w0⟩ := open_string Try.underlying9 (hval 0 9 v0 rfl rfl) h0
  obtain ⟨a1, rfl, rfl, rfl, w1⟩ := open_int Try.underlying27 (hval 1 27 v1 rfl rfl) h1
  clear hA0 hval0
  refine (walk a0 a1 w0 w1 W (maxAt_of hsh)).mono fun e W' ⟨he, bel⟩ => ?_
  subst he
  exact ⟨_, rfl, _, _, _, [], _, [], hW', trodAll_mk1 (shut_bool Try.underlying4 _), (trodAll_cons_mk (shut_string Try.underlying9 w0) (trodAll_cons_mk (shut_int Try.underlying27 w1) trodAll_mk0)), rfl, bel.frame _, fun h => by cases h⟩

theorem over : Rows.scriptCaseRow.holds Try.pinned (OpenSpec.ofChange Rows.scriptCaseSpec) :=
  OpenClaim.holds_of_wide 8 Try.f8 rfl rfl rfl rfl rfl rfl rfl ⟨rfl, rfl, rfl, rfl, rfl⟩ rfl rfl rfl rfl rfl (by kernel_rfl) Try.func8 (by kernel_rfl)
    (of_decide_eq_true (by kernel_rfl)) (by unfold Func.isWrapper; first | (rw [if_pos (by decide +kernel)]; kernel_rfl) | (rw [if_neg (by decide +kernel)]; exact ⟨rfl, rfl⟩))
    (fun os started H enc _ => lifted os started H enc)

/-- ████ THE STATEMENT ████ -/
theorem proved : Rows.ScriptCaseSaid :=
  over
end Go.Proofs.Ythmfjnjjkcaalaa.scriptCase
