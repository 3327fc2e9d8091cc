/-
  The law ScriptEnds of flail/flaillaw13 answers true for every input, and changes nothing that was there. No condition.
-/
import Derived.Test.YthmfjnjjkcaalaaRows
import Derived.Test.YthmfjnjjkcaalaaScrAwake
import Derived.HandedShaped
import Derived.Test.YthmfjnjjkcaalaaMaxLen
import Derived.WalkKit
import Derived.ProofKit
import Derived.ChangeOld
import Derived.Below
import Derived.OpenShut
import Derived.ShutString
namespace Go.Proofs.Ythmfjnjjkcaalaa.scriptEnds
open Go.ChangeShapes Go.WideShapes Go.ChangeAt Go.RowKit
open Go.ChangeMaps (open_string shut_string)
set_option linter.unusedVariables false      -- a walk need not use every 'w<i>' (that an integer argument fits its kind)

theorem own : ownKnob Try.prog.godebug = none := by kernel_rfl

set_option maxRecDepth 100000 in
set_option maxHeartbeats 8000000 in
theorem walk (a0 : ByteArray) (a1 : Int) (w0 : a0.size ≤ maxLen) (w1 : (Lit.int .u16 a1).wf = true) (w : World) (hT : ScrLaid w) :
    Calls Try.prog 5 #[.string a0, .int .u16 a1] w fun e w' => e = .returned (.bool true) ∧ Below w.heap.size w w' := by
  have hb1 : 0 ≤ a1 ∧ a1 ≤ 65535 := by simpa [Lit.wf, IntKind.min, IntKind.max, IntKind.signed, IntKind.bits] using w1
  obtain ⟨h10, h11⟩ := hb1
  clear w0 w1
  have HW := Lib.hid hT
  clear hT
  by_cases hlen : 300 < a0.size
  · have hc : decide ((300 : Int) < (a0.size : Int)) = true := decide_eq_true (by omega)
    clear hlen
    go_enter Try.func5, Try.ntmps5
    go_wp2_with (fail)
    refine (scrAwake_any w HW.out).mono ?_
    rintro e w1 ⟨rfl, c1⟩
    go_wp2
    go_ret
    exact ⟨rfl, c1⟩
  have hs0 : a0.size ≤ 300 := by omega
  have d0 : decide ((300 : Int) < (a0.size : Int)) = false := decide_eq_false (by omega)
  have hk0 : 0 ≤ a1 % ((a0.size : Int) + 1) := Int.emod_nonneg _ (by omega)
  have hk1 : a1 % ((a0.size : Int) + 1) < (a0.size : Int) + 1 := Int.emod_lt_of_pos _ (by omega)
  obtain ⟨k, hk⟩ : ∃ k : Nat, a1 % ((a0.size : Int) + 1) = k := ⟨(a1 % ((a0.size : Int) + 1)).toNat, by omega⟩
  have HK := Lib.hid hk
  have hkk : k ≤ 300 := by omega
  have hks : k ≤ a0.size := by omega
  obtain ⟨g1, g2, g3⟩ := scr_is 0 0 (a0.data.toList.drop k) (Nat.zero_le _)
  have g4 := scr_find 0 (a0.data.toList.drop k)
  have hP := scrP_in a0.data.toList k (by rw [← Lib.size_eq]; exact hks)
  have hF := findV_in scL a0.data.toList k (by rw [← Lib.size_eq]; exact hks)
  rw [List.length_drop, ← Lib.size_eq] at g1 g3
  have H1 := fun w h => Lib.hid (scrFind_any a0 (k : Int) w (by omega) (by omega) h)
  rw [hP] at H1
  have H2 := fun w h => Lib.hid (show Calls Try.prog 14 #[.string a0, .int .i64 (k : Int), .string ⟨#[115, 99, 114, 105, 112, 116]⟩] w fun e w' => e = .returned (.int .i64 (findV scL a0.data.toList (k : Int) : Int)) ∧ Below w.heap.size w w' from scrRaw_any a0 (k : Int) ⟨#[115, 99, 114, 105, 112, 116]⟩ w (by omega) (by decide) (by omega) h)
  rw [hF] at H2
  have H3 := fun (n : Nat) (hn : n ≤ 300) w h => Lib.hid (show Calls Try.prog 15 #[.string a0, .int .i64 (n : Int), .string ⟨#[115, 99, 114, 105, 112, 116]⟩] w fun e w' => e = .returned (.bool (endV scL a0.data.toList (n : Int))) ∧ Below w.heap.size w w' from scrEnds_any a0 (n : Int) ⟨#[115, 99, 114, 105, 112, 116]⟩ w (by omega) (by decide) (by omega) h)
  obtain ⟨V, hV⟩ : ∃ V, (scrV 0 0 (a0.data.toList.drop k)).1 = V := ⟨_, rfl⟩
  obtain ⟨Q, hQ⟩ : ∃ V, (scrV 0 0 (a0.data.toList.drop k)).2 = V := ⟨_, rfl⟩
  obtain ⟨N, hN⟩ : ∃ N, k + V = N := ⟨_, rfl⟩
  obtain ⟨M, hM⟩ : ∃ M, k + findL scL (a0.data.toList.drop k) = M := ⟨_, rfl⟩
  simp only [hV, hQ] at H1 g1 g2 g3 g4
  rw [hN] at H1
  rw [hM] at H2
  have hNs : N ≤ a0.size := by omega
  have hMN : M ≤ N := by omega
  have hEnd : N < a0.size → endV scL a0.data.toList (N : Int) = true ∧ Q ≠ 2 := fun h => by
    have := g3 (by omega)
    rw [List.drop_drop, hN] at this
    exact ⟨by rw [endV_in]; exact this.1, this.2⟩
  have H3 := H3 N (by omega)
  have n1 : decide ((N : Int) < (M : Int)) = false := decide_eq_false (by omega)
  have n2 : decide ((a0.size : Int) < (N : Int)) = false := decide_eq_false (by omega)
  have n3 : decide ((Q : Int) < (0 : Int)) = false := decide_eq_false (by omega)
  have n4 : decide ((2 : Int) < (Q : Int)) = false := decide_eq_false (by omega)
  have n5 : decide (N < M) = false := decide_eq_false (by omega)
  have n6 : decide (a0.size < N) = false := decide_eq_false (by omega)
  clear hk g1 g3 g4 hP hF hV hQ hN hM hlen
  have hfin : ((N : Int) == (a0.size : Int)) = true ∨ ((N : Int) == (a0.size : Int)) = false ∧ endV scL a0.data.toList (N : Int) = true ∧ ((Q : Int) == 2) = false := by
    rcases Nat.lt_or_ge N a0.size with h | h
    · obtain ⟨e1, e2⟩ := hEnd h
      exact .inr ⟨by rw [beq_eq_false_iff_ne]; omega, e1, by rw [beq_eq_false_iff_ne]; omega⟩
    · exact .inl (by rw [beq_iff_eq]; omega)
  clear hEnd
  rcases hfin with b1 | ⟨b1, hE, b2⟩
  · go_enter Try.func5, Try.ntmps5
    go_wp2_with (fail)
    refine (scrAwake_any w HW.out).mono ?_
    rintro e w1 ⟨rfl, c1⟩
    have B1 := Lib.hid c1
    clear c1
    go_wp2_with (fail)
    rw [HK.out]
    refine (H1 _ (HW.out.below B1.out)).out.mono ?_
    rintro e w2 ⟨rfl, c2⟩
    have B2 := Lib.hid (B1.out.trans (c2.mono B1.out.size))
    clear c2
    go_wp2_with (fail)
    refine (H2 _ (HW.out.below B2.out)).out.mono ?_
    rintro e w3 ⟨rfl, c3⟩
    have B3 := Lib.hid (B2.out.trans (c3.mono B2.out.size))
    clear c3
    go_wp2
    go_ret
    exact ⟨ret_bool (by simp), B3.out⟩
  · rw [hE] at H3
    clear hE
    go_enter Try.func5, Try.ntmps5
    go_wp2_with (fail)
    refine (scrAwake_any w HW.out).mono ?_
    rintro e w1 ⟨rfl, c1⟩
    have B1 := Lib.hid c1
    clear c1
    go_wp2_with (fail)
    rw [HK.out]
    refine (H1 _ (HW.out.below B1.out)).out.mono ?_
    rintro e w2 ⟨rfl, c2⟩
    have B2 := Lib.hid (B1.out.trans (c2.mono B1.out.size))
    clear c2
    go_wp2_with (fail)
    refine (H2 _ (HW.out.below B2.out)).out.mono ?_
    rintro e w3 ⟨rfl, c3⟩
    have B3 := Lib.hid (B2.out.trans (c3.mono B2.out.size))
    clear c3
    go_wp2_with (fail)
    refine (H3 _ (HW.out.below B3.out)).out.mono ?_
    rintro e w4 ⟨rfl, c4⟩
    have B4 := Lib.hid (B3.out.trans (c4.mono B3.out.size))
    clear c4
    go_wp2
    go_ret
    exact ⟨ret_bool (by have := beq_eq_false_iff_ne.1 b2; simp; omega), B4.out⟩
  -- go_wp2
  -- go_ret
  -- exact ⟨rfl, by repeat (first | exact Grown.refl _ | apply Grown.drew | apply Grown.alloc)⟩

set_option maxRecDepth 100000 in
theorem lifted (os : Os) (started : os.Started) (H : Type) (enc : TypeId × Value → H) :
    ReturnsInHanded {} Try.checked os 5 .any (Rows.scriptEndsSpec.pre6 enc Try.prog Try.f5 Rows.scriptEndsRow.domain false) (Rows.scriptEndsSpec.post enc Try.prog Try.f5 false true false false) := by
  refine returnsInHanded_of_change_shaped (C := Try.checked) own started (by kernel_rfl) Try.func5
    (ChangeSpec.witness6 (enc := enc) (C := Try.checked) false ⟨#[], #[.string ByteArray.empty, .int .u16 0], []⟩ 8 (by kernel_rfl) (by kernel_rfl) (by kernel_rfl) (by kernel_rfl)) ?_
  intro W base args ds gs before hval0 hW hcnd _ hsh _
  have hval : ∀ (j : Nat) t v, Try.f5.params[j]? = some t → args[j]? = some v → Value.okWide Try.prog W .any base t v := hval0
  have hW' := hW
  obtain ⟨p, q, hA0, hV, rfl, hfz, hnd⟩ := hW
  have hA : DataW.TrodAll enc Try.prog W 0 (fun _ => true) true Try.f5.params.toList args.toList ds p := hA0
  rw [Try.params5] at hA hval
  obtain ⟨v0, vs0, d0, ds0, p0, q0, hargs, rfl, rfl, h0, r0⟩ := trodAll_cons hA
  obtain ⟨v1, vs1, d1, ds1, p1, q1, rfl, rfl, rfl, h1, r1⟩ := trodAll_cons r0
  obtain ⟨rfl, rfl, rfl⟩ := trodAll_nil r1
  obtain rfl : args = #[v0, v1] := by cases args; simp_all
  obtain ⟨rfl, rfl⟩ := trodVars_none hV
  obtain ⟨a0, rfl, rfl, rfl, w0⟩ := open_string Try.underlying9 (hval 0 9 v0 rfl rfl) h0
  obtain ⟨a1, rfl, rfl, rfl, w1⟩ := open_int Try.underlying27 (hval 1 27 v1 rfl rfl) h1
  clear hA0 hval0
  refine (walk a0 a1 w0 w1 W (maxAt_of hsh)).mono fun e W' ⟨he, bel⟩ => ?_
  subst he
  exact ⟨_, rfl, _, _, _, [], _, [], hW', trodAll_mk1 (shut_bool Try.underlying4 _), (trodAll_cons_mk (shut_string Try.underlying9 w0) (trodAll_cons_mk (shut_int Try.underlying27 w1) trodAll_mk0)), rfl, bel.frame _, fun h => by cases h⟩

theorem over : Rows.scriptEndsRow.holds Try.pinned (OpenSpec.ofChange Rows.scriptEndsSpec) :=
  OpenClaim.holds_of_wide 5 Try.f5 rfl rfl rfl rfl rfl rfl rfl ⟨rfl, rfl, rfl, rfl, rfl⟩ rfl rfl rfl rfl rfl (by kernel_rfl) Try.func5 (by kernel_rfl)
    (of_decide_eq_true (by kernel_rfl)) (by unfold Func.isWrapper; first | (rw [if_pos (by decide +kernel)]; kernel_rfl) | (rw [if_neg (by decide +kernel)]; exact ⟨rfl, rfl⟩))
    (fun os started H enc _ => lifted os started H enc)

/-- ████ THE STATEMENT ████ -/
theorem proved : Rows.ScriptEndsSaid :=
  over
end Go.Proofs.Ythmfjnjjkcaalaa.scriptEnds
