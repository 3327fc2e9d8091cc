/-
  The law SearchTells of flail/flaillaw05 answers true for every input, and changes nothing that was there. No condition.
-/
import Derived.Test.YtanlneaolnkojaaRows
import Derived.Test.YtanlneaolnkojaaRowLaws
import Derived.WalkKit
import Derived.ProofKit
import Derived.OpenShut
import Derived.ShutString
import Derived.ChangeOld
import Derived.Below
import Derived.Deep.SlicePairs
namespace Go.Proofs.Ytanlneaolnkojaa.searchTells
open Go.ChangeShapes Go.WideShapes Go.ChangeAt Go.RowKit
open Go.ChangeMaps (open_string shut_string)
set_option linter.unusedVariables false

theorem own : ownKnob Try.prog.godebug = none := by kernel_rfl
theorem laidOut : laidOutB Try.prog = true := by kernel_rfl

set_option maxRecDepth 100000 in
set_option maxHeartbeats 1000000 in
theorem walk (a0 : Option Addr) (len0 cap0 : Nat) (l0 : List Ln) (a1 : ByteArray) (a2 : ByteArray) (a3 : Int) (a4 : Int) (w : World) (w0 : IsRows w a0 len0 cap0 l0) (w1 : a1.size ≤ maxLen) (w2 : a2.size ≤ maxLen) (w3 : (Lit.int .i64 a3).wf = true) (w4 : (Lit.int .i64 a4).wf = true) :
    Calls Try.prog 3 #[.slice a0 len0 cap0, .string a1, .string a2, .int .i64 a3, .int .i64 a4] w fun e w' => e = .returned (.bool true) ∧ Below w.heap.size w w' := by
  have b3 : -9223372036854775808 ≤ a3 ∧ a3 ≤ 9223372036854775807 := by simpa [Lit.wf, IntKind.min, IntKind.max, IntKind.signed, IntKind.bits] using w3
  have b4 : -9223372036854775808 ≤ a4 ∧ a4 ≤ 9223372036854775807 := by simpa [Lit.wf, IntKind.min, IntKind.max, IntKind.signed, IntKind.bits] using w4
  have W0 := Lib.hid w0
  clear w0 w1 w2 w3 w4
  by_cases h0 : 100 < len0
  · have d0 : decide ((100 : Int) < (len0 : Int)) = true := decide_eq_true (by omega)
    go_enter Try.func3, Try.ntmps3
    go_wp2_with (fail)
    refine (awake_any _).mono ?_
    rintro e w1 ⟨rfl, hb1⟩
    go_wp2
    go_ret
    exact ⟨rfl, hb1⟩
  have d0 : decide ((100 : Int) < (len0 : Int)) = false := decide_eq_false (by omega)
  by_cases h1 : 300 < a1.size
  · have d1 : decide ((300 : Int) < (a1.size : Int)) = true := decide_eq_true (by omega)
    go_enter Try.func3, Try.ntmps3
    go_wp2_with (fail)
    refine (awake_any _).mono ?_
    rintro e w1 ⟨rfl, hb1⟩
    go_wp2
    go_ret
    exact ⟨rfl, hb1⟩
  have d1 : decide ((300 : Int) < (a1.size : Int)) = false := decide_eq_false (by omega)
  by_cases h2 : 300 < a2.size
  · have d2 : decide ((300 : Int) < (a2.size : Int)) = true := decide_eq_true (by omega)
    go_enter Try.func3, Try.ntmps3
    go_wp2_with (fail)
    refine (awake_any _).mono ?_
    rintro e w1 ⟨rfl, hb1⟩
    go_wp2
    go_ret
    exact ⟨rfl, hb1⟩
  have d2 : decide ((300 : Int) < (a2.size : Int)) = false := decide_eq_false (by omega)
  have HL := fun w h => Lib.hid (list_any a0 len0 cap0 l0 w h (by omega))
  obtain ⟨R, hR⟩ : ∃ R, pickL l0 = R := ⟨_, rfl⟩
  have hv : Valid R := by rw [← hR]; exact pickL_valid l0
  have hfl : (flatL R).length ≤ 82 * len0 := by rw [← hR, ← W0.out.1]; exact flat_pick l0
  rw [hR] at HL
  obtain ⟨t, ht⟩ : ∃ t : ByteArray, t = ⟨(flatL R).toArray⟩ := ⟨_, rfl⟩
  have htl : t.data.toList = flatL R := by rw [ht]
  have hts : t.size ≤ 1099511627776 := by rw [Lib.size_eq, htl]; omega
  unfold strV at HL
  rw [← ht] at HL
  have C1 := fun w => Lib.hid (line_any t a1 R w hts htl hv)
  have C2 := fun w => Lib.hid (refLine_any t a1 R w hts htl hv)
  have C3 := fun w => Lib.hid (longest_any t a2 a3 a4 R w hts b3 b4 htl hv)
  have C4 := fun w => Lib.hid (refLongest_any t a2 a3 a4 R w hts (by omega) b3 b4 htl hv)
  unfold strV at C1 C2
  obtain ⟨X, hX⟩ : ∃ X, (lookL R a1.data.toList).getD [] = X := ⟨_, rfl⟩
  obtain ⟨Y, hY⟩ : ∃ Y, (lookL R a1.data.toList).isSome = Y := ⟨_, rfl⟩
  obtain ⟨Z, hZ⟩ : ∃ Z, bestL R (winL a2.data.toList a3 a4) = Z := ⟨_, rfl⟩
  rw [hX, hY] at C1 C2
  rw [hZ] at C3 C4
  clear hX hY hZ ht htl hts hv hfl hR
  go_enter Try.func3, Try.ntmps3
  go_wp2_with (fail)
  refine (awake_any _).mono ?_
  rintro e w1 ⟨rfl, hb1⟩
  have s1 := hb1.size
  go_wp2_with (fail)
  refine (HL _ (W0.out.below hb1 (Nat.le_refl _))).out.mono ?_
  rintro e w2 ⟨rfl, hb2⟩
  have s2 := hb2.size
  go_wp2_with (fail)
  refine (C1 _).out.mono ?_
  rintro e w3 ⟨rfl, hb3⟩
  have s3 := hb3.size
  go_wp2_with (fail)
  refine (C2 _).out.mono ?_
  rintro e w4 ⟨rfl, hb4⟩
  have s4 := hb4.size
  go_wp2_with (fail)
  refine (C3 _).out.mono ?_
  rintro e w5 ⟨rfl, n5, rfl⟩
  go_wp2_with (fail)
  refine (C4 _).out.mono ?_
  rintro e w6 ⟨rfl, hb6⟩
  go_wp2
  go_ret
  have hB := (((hb1.trans (hb2.mono s1)).trans (hb3.mono (by omega))).trans (hb4.mono (by omega))).trans (dr_below w.heap.size w4 n5)
  exact ⟨by simp, hB.trans (hb6.mono hB.size)⟩

set_option maxRecDepth 100000 in
theorem lifted (os : Os) (started : os.Started) (H : Type) (enc : TypeId × Value → H) :
    ReturnsInHanded {} Try.checked os 3 .any (Rows.searchTellsSpec.pre6 enc Try.prog Try.f3 Rows.searchTellsRow.domain false) (Rows.searchTellsSpec.post enc Try.prog Try.f3 false true false false) := by
  refine returnsInHanded_of_change (C := Try.checked) own started (by kernel_rfl) Try.func3
    (ChangeSpec.witness6 (enc := enc) (C := Try.checked) false ⟨#[], #[.slice none 0 0, .string ⟨#[]⟩, .string ⟨#[]⟩, .int .i64 0, .int .i64 0], []⟩ 8 (by kernel_rfl) (by kernel_rfl) (by kernel_rfl) (by kernel_rfl)) ?_
  intro W base args ds gs before hval0 hW hcnd _
  have hval : ∀ (j : Nat) t v, Try.f3.params[j]? = some t → args[j]? = some v → Value.okWide Try.prog W .any base t v := hval0
  have hW' := hW
  obtain ⟨p, q, hA0, hV, rfl, hfz, hnd⟩ := hW
  have hA : DataW.TrodAll enc Try.prog W 0 (fun _ => true) true Try.f3.params.toList args.toList ds p := hA0
  rw [Try.params3] at hA hval
  obtain ⟨v0, vs0, d0, ds0, p0, q0, hargs, rfl, rfl, h0, r0⟩ := trodAll_cons hA
  obtain ⟨v1, vs1, d1, ds1, p1, q1, rfl, rfl, rfl, h1, r1⟩ := trodAll_cons r0
  obtain ⟨v2, vs2, d2, ds2, p2, q2, rfl, rfl, rfl, h2, r2⟩ := trodAll_cons r1
  obtain ⟨v3, vs3, d3, ds3, p3, q3, rfl, rfl, rfl, h3, r3⟩ := trodAll_cons r2
  obtain ⟨v4, vs4, d4, ds4, p4, q4, rfl, rfl, rfl, h4, r4⟩ := trodAll_cons r3
  obtain ⟨rfl, rfl, rfl⟩ := trodAll_nil r4
  obtain rfl : args = #[v0, v1, v2, v3, v4] := by cases args; simp_all
  obtain ⟨rfl, rfl⟩ := trodVars_none hV
  obtain ⟨a0, len0, cap0, rfl⟩ := okWide_slice Try.underlying22 (hval 0 22 v0 rfl rfl)
  have k0 := h0
  have lt0 : ∀ x ∈ p0, x.block < W.heap.size := by obtain ⟨m, hm⟩ := k0; exact DataW.trod_lt m _ _ _ hm
  obtain ⟨l0, w0⟩ : ∃ l, IsRows W a0 len0 cap0 l := by
    obtain ⟨fuel, hf⟩ := h0
    rcases Go.Deep.open_slice_pairs Try.underlying22 Try.underlying31 (by kernel_rfl) rfl rfl (by kernel_rfl) (by kernel_rfl) hf with ⟨hcs, _⟩ | ⟨x, l, c, m, n, V0, V1, D0, D1, P0, P1, hcs, _, hl, hm, hmm, _, hx⟩
    · simp [Value.cells] at hcs
      obtain ⟨rfl, rfl, rfl⟩ := hcs
      exact ⟨[], rfl, Nat.le_refl _, by simp [maxLen], fun i hi => absurd hi (by simp)⟩
    · simp [Value.cells] at hcs
      obtain ⟨rfl, rfl, rfl⟩ := hcs
      refine isRows_mk hl hm fun i hi => ?_
      have him : i < m := by rw [hmm]; split <;> omega
      obtain ⟨c0, c1, t0, t1⟩ := hx i him
      obtain ⟨s0, e0, _, _⟩ := DataW.trod_string Try.underlying9 t0
      obtain ⟨s1, e1, _, _⟩ := DataW.trod_string Try.underlying9 t1
      rw [List.cons.injEq] at e0 e1
      rw [e0.1] at c0
      rw [e1.1] at c1
      exact ⟨s0, s1, c0, c1⟩
  obtain ⟨a1, rfl, rfl, rfl, w1⟩ := open_string Try.underlying9 (hval 1 9 v1 rfl rfl) h1
  obtain ⟨a2, rfl, rfl, rfl, w2⟩ := open_string Try.underlying9 (hval 2 9 v2 rfl rfl) h2
  obtain ⟨a3, rfl, rfl, rfl, w3⟩ := open_int Try.underlying3 (hval 3 3 v3 rfl rfl) h3
  obtain ⟨a4, rfl, rfl, rfl, w4⟩ := open_int Try.underlying3 (hval 4 3 v4 rfl rfl) h4
  clear hA0 hval0
  refine (walk a0 len0 cap0 l0 a1 a2 a3 a4 W w0 w1 w2 w3 w4).mono fun e W' ⟨he, bel⟩ => ?_
  subst he
  exact ⟨_, rfl, _, _, _, [], _, [], hW', trodAll_mk1 (shut_bool Try.underlying4 _), (trodAll_cons_mk (Below.trod laidOut (by kernel_rfl) (of_decide_eq_true (by kernel_rfl)) k0 bel lt0) (trodAll_cons_mk (shut_string Try.underlying9 w1) (trodAll_cons_mk (shut_string Try.underlying9 w2) (trodAll_cons_mk (shut_int Try.underlying3 w3) (trodAll_cons_mk (shut_int Try.underlying3 w4) trodAll_mk0))))), rfl, bel.frame _, fun h => by cases h⟩

theorem over : Rows.searchTellsRow.holds Try.pinned (OpenSpec.ofChange Rows.searchTellsSpec) :=
  OpenClaim.holds_of_wide 3 Try.f3 rfl rfl rfl rfl rfl rfl rfl ⟨rfl, rfl, rfl, rfl, rfl⟩ rfl rfl rfl rfl rfl (by kernel_rfl) Try.func3 (by kernel_rfl)
    (of_decide_eq_true (by kernel_rfl)) (by unfold Func.isWrapper; first | (rw [if_pos (by decide +kernel)]; kernel_rfl) | (rw [if_neg (by decide +kernel)]; exact ⟨rfl, rfl⟩))
    (fun os started H enc _ => lifted os started H enc)

/-- the statement -/
theorem proved : Rows.SearchTellsSaid := over
end Go.Proofs.Ytanlneaolnkojaa.searchTells
