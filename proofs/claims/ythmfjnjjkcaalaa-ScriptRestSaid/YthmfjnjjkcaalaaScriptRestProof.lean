/-
  The law ScriptRest of flail/flaillaw13 answers true for every input, and changes nothing that was there. No condition.
-/
import Derived.Test.YthmfjnjjkcaalaaRows
import Derived.Test.YthmfjnjjkcaalaaScrAwake
import Derived.HandedShaped
import Derived.Test.YthmfjnjjkcaalaaMaxLen
import Derived.WalkKit
import Derived.ProofKit
import Derived.ChangeOld
import Derived.Below
import Derived.OpenShut
import Derived.ShutString
namespace Go.Proofs.Ythmfjnjjkcaalaa.scriptRest
open Go.ChangeShapes Go.WideShapes Go.ChangeAt Go.RowKit
open Go.ChangeMaps (open_string shut_string)
set_option linter.unusedVariables false      -- a walk need not use every 'w<i>' (that an integer argument fits its kind)

theorem own : ownKnob Try.prog.godebug = none := by kernel_rfl

set_option maxRecDepth 100000 in
set_option maxHeartbeats 8000000 in
theorem walk (a0 : ByteArray) (a1 : ByteArray) (a2 : ByteArray) (w0 : a0.size ≤ maxLen) (w1 : a1.size ≤ maxLen) (w2 : a2.size ≤ maxLen) (w : World) (hT : ScrLaid w) :
    Calls Try.prog 7 #[.string a0, .string a1, .string a2] w fun e w' => e = .returned (.bool true) ∧ Below w.heap.size w w' := by
  clear w0 w1 w2
  have HW := Lib.hid hT
  clear hT
  by_cases hlen : 300 < a0.size ∨ 300 < a1.size ∨ 300 < a2.size
  · have hc : decide ((300 : Int) < (a0.size : Int)) = true ∨ decide ((300 : Int) < (a0.size : Int)) = false ∧ decide ((300 : Int) < (a1.size : Int)) = true ∨ decide ((300 : Int) < (a0.size : Int)) = false ∧ decide ((300 : Int) < (a1.size : Int)) = false ∧ decide ((300 : Int) < (a2.size : Int)) = true := by
      simp only [decide_eq_true_eq, decide_eq_false_iff_not]; omega
    clear hlen
    rcases hc with hc | ⟨hc, hd⟩ | ⟨hc, hd, he⟩
    all_goals
      go_enter Try.func7, Try.ntmps7
      go_wp2_with (fail)
      refine (scrAwake_any w HW.out).mono ?_
      rintro e w1 ⟨rfl, c1⟩
      go_wp2
      go_ret
      exact ⟨rfl, c1⟩
  have hs0 : a0.size ≤ 300 := by omega
  have hs1 : a1.size ≤ 300 := by omega
  have hs2 : a2.size ≤ 300 := by omega
  have d0 : decide ((300 : Int) < (a0.size : Int)) = false := decide_eq_false (by omega)
  have d1 : decide ((300 : Int) < (a1.size : Int)) = false := decide_eq_false (by omega)
  have d2 : decide ((300 : Int) < (a2.size : Int)) = false := decide_eq_false (by omega)
  have hA : (a0 ++ a1).size ≤ 1048576 := by rw [ByteArray.size_append]; omega
  have hB : (a1 ++ a2).size ≤ 1048576 := by rw [ByteArray.size_append]; omega
  have e1 : scrP (a0 ++ a1).data.toList (a0.size : Int) = (a0.size + (scrV 0 0 a1.data.toList).1, (scrV 0 0 a1.data.toList).2) := by
    rw [scrP_in _ _ (by rw [← Lib.size_eq, ByteArray.size_append]; omega), ByteArray.data_append, Array.toList_append, Lib.size_eq, List.drop_left]
  have e0 : ∀ s : ByteArray, scrP s.data.toList 0 = ((scrV 0 0 s.data.toList).1, (scrV 0 0 s.data.toList).2) := fun s => by
    have := scrP_in s.data.toList 0 (Nat.zero_le _)
    rw [List.drop_zero, Nat.zero_add] at this; exact this
  have e2 : (scrV 0 0 a1.data.toList).1 < a1.size → scrV 0 0 (a1 ++ a2).data.toList = scrV 0 0 a1.data.toList := fun h => by
    rw [ByteArray.data_append, Array.toList_append]
    exact scr_app 0 0 _ _ (Nat.zero_le _) (by rw [← Lib.size_eq]; exact h)
  have g1 := (scr_is 0 0 a1.data.toList (Nat.zero_le _)).1
  rw [← Lib.size_eq] at g1
  have H1 := fun w h => Lib.hid (scrFind_any a1 0 w (by omega) (by decide) h)
  have H2 := fun w h => Lib.hid (scrFind_any (a0 ++ a1) (a0.size : Int) w hA (by omega) h)
  have H3 := fun w h => Lib.hid (scrFind_any (a1 ++ a2) 0 w hB (by decide) h)
  rw [e0] at H1 H3
  rw [e1] at H2
  obtain ⟨N, hN⟩ : ∃ N, (scrV 0 0 a1.data.toList).1 = N := ⟨_, rfl⟩
  obtain ⟨Q, hQ⟩ : ∃ N, (scrV 0 0 a1.data.toList).2 = N := ⟨_, rfl⟩
  have p1 : ¬ 9223372036854775807 < a0.size + a1.size := by omega
  have p2 : ¬ 9223372036854775807 < a1.size + a2.size := by omega
  simp only [hN, hQ] at H1 H2
  rw [hN] at e2 g1
  have hfin : ((N : Int) == (a1.size : Int)) = true ∨ ((N : Int) == (a1.size : Int)) = false ∧ (scrV 0 0 (a1 ++ a2).data.toList).1 = N ∧ (scrV 0 0 (a1 ++ a2).data.toList).2 = Q := by
    rcases Nat.lt_or_ge N a1.size with h | h
    · exact .inr ⟨by rw [beq_eq_false_iff_ne]; omega, by rw [e2 h, hN], by rw [e2 h, hQ]⟩
    · exact .inl (by rw [beq_iff_eq]; omega)
  clear e0 e1 e2 hA hB hN hQ hlen
  rcases hfin with b1 | ⟨b1, f1, f2⟩
  · go_enter Try.func7, Try.ntmps7
    go_wp2_with (fail)
    refine (scrAwake_any w HW.out).mono ?_
    rintro e w1 ⟨rfl, c1⟩
    have B1 := Lib.hid c1
    clear c1
    go_wp2_with (fail)
    refine (H1 _ (HW.out.below B1.out)).out.mono ?_
    rintro e w2 ⟨rfl, c2⟩
    have B2 := Lib.hid (B1.out.trans (c2.mono B1.out.size))
    clear c2
    go_wp2_with (fail)
    refine (H2 _ (HW.out.below B2.out)).out.mono ?_
    rintro e w3 ⟨rfl, c3⟩
    have B3 := Lib.hid (B2.out.trans (c3.mono B2.out.size))
    clear c3
    go_wp2
    go_ret
    exact ⟨ret_bool (by simp), B3.out⟩
  · rw [f1, f2] at H3
    clear f1 f2
    go_enter Try.func7, Try.ntmps7
    go_wp2_with (fail)
    refine (scrAwake_any w HW.out).mono ?_
    rintro e w1 ⟨rfl, c1⟩
    have B1 := Lib.hid c1
    clear c1
    go_wp2_with (fail)
    refine (H1 _ (HW.out.below B1.out)).out.mono ?_
    rintro e w2 ⟨rfl, c2⟩
    have B2 := Lib.hid (B1.out.trans (c2.mono B1.out.size))
    clear c2
    go_wp2_with (fail)
    refine (H2 _ (HW.out.below B2.out)).out.mono ?_
    rintro e w3 ⟨rfl, c3⟩
    have B3 := Lib.hid (B2.out.trans (c3.mono B2.out.size))
    clear c3
    go_wp2_with (fail)
    refine (H3 _ (HW.out.below B3.out)).out.mono ?_
    rintro e w4 ⟨rfl, c4⟩
    have B4 := Lib.hid (B3.out.trans (c4.mono B3.out.size))
    clear c4
    go_wp2
    go_ret
    exact ⟨ret_bool (by simp), B4.out⟩
  -- go_wp2
  -- go_ret
  -- exact ⟨rfl, by repeat (first | exact Grown.refl _ | apply Grown.drew | apply Grown.alloc)⟩

set_option maxRecDepth 100000 in
theorem lifted (os : Os) (started : os.Started) (H : Type) (enc : TypeId × Value → H) :
    ReturnsInHanded {} Try.checked os 7 .any (Rows.scriptRestSpec.pre6 enc Try.prog Try.f7 Rows.scriptRestRow.domain false) (Rows.scriptRestSpec.post enc Try.prog Try.f7 false true false false) := by
  refine returnsInHanded_of_change_shaped (C := Try.checked) own started (by kernel_rfl) Try.func7
    (ChangeSpec.witness6 (enc := enc) (C := Try.checked) false ⟨#[], #[.string ByteArray.empty, .string ByteArray.empty, .string ByteArray.empty], []⟩ 8 (by kernel_rfl) (by kernel_rfl) (by kernel_rfl) (by kernel_rfl)) ?_
  intro W base args ds gs before hval0 hW hcnd _ hsh _
  have hval : ∀ (j : Nat) t v, Try.f7.params[j]? = some t → args[j]? = some v → Value.okWide Try.prog W .any base t v := hval0
  have hW' := hW
  obtain ⟨p, q, hA0, hV, rfl, hfz, hnd⟩ := hW
  have hA : DataW.TrodAll enc Try.prog W 0 (fun _ => true) true Try.f7.params.toList args.toList ds p := hA0
  rw [Try.params7] at hA hval
  obtain ⟨v0, vs0, d0, ds0, p0, q0, hargs, rfl, rfl, h0, r0⟩ := trodAll_cons hA
  obtain ⟨v1, vs1, d1, ds1, p1, q1, rfl, rfl, rfl, h1, r1⟩ := trodAll_cons r0
  obtain ⟨v2, vs2, d2, ds2, p2, q2, rfl, rfl, rfl, h2, r2⟩ := trodAll_cons r1
  obtain ⟨rfl, rfl, rfl⟩ := trodAll_nil r2
  obtain rfl : args = #[v0, v1, v2] := by cases args; simp_all
  obtain ⟨rfl, rfl⟩ := trodVars_none hV
  obtain ⟨a0, rfl, rfl, rfl, w0⟩ := open_string Try.underlying9 (hval 0 9 v0 rfl rfl) h0
  obtain ⟨a1, rfl, rfl, rfl, w1⟩ := open_string Try.underlying9 (hval 1 9 v1 rfl rfl) h1
  obtain ⟨a2, rfl, rfl, rfl, w2⟩ := open_string Try.underlying9 (hval 2 9 v2 rfl rfl) h2
  clear hA0 hval0
  refine (walk a0 a1 a2 w0 w1 w2 W (maxAt_of hsh)).mono fun e W' ⟨he, bel⟩ => ?_
  subst he
  exact ⟨_, rfl, _, _, _, [], _, [], hW', trodAll_mk1 (shut_bool Try.underlying4 _), (trodAll_cons_mk (shut_string Try.underlying9 w0) (trodAll_cons_mk (shut_string Try.underlying9 w1) (trodAll_cons_mk (shut_string Try.underlying9 w2) trodAll_mk0))), rfl, bel.frame _, fun h => by cases h⟩

theorem over : Rows.scriptRestRow.holds Try.pinned (OpenSpec.ofChange Rows.scriptRestSpec) :=
  OpenClaim.holds_of_wide 7 Try.f7 rfl rfl rfl rfl rfl rfl rfl ⟨rfl, rfl, rfl, rfl, rfl⟩ rfl rfl rfl rfl rfl (by kernel_rfl) Try.func7 (by kernel_rfl)
    (of_decide_eq_true (by kernel_rfl)) (by unfold Func.isWrapper; first | (rw [if_pos (by decide +kernel)]; kernel_rfl) | (rw [if_neg (by decide +kernel)]; exact ⟨rfl, rfl⟩))
    (fun os started H enc _ => lifted os started H enc)

/-- ████ THE STATEMENT ████ -/
theorem proved : Rows.ScriptRestSaid :=
  over
end Go.Proofs.Ythmfjnjjkcaalaa.scriptRest
