/-
  The law EscapeJoins of flail/flaillaw21 answers true for every input, and changes nothing that was there. No condition.
-/
import Derived.Test.YtbcmfcddkegcoaaRows
import Derived.Test.YtbcmfcddkegcoaaEscAwake
import Derived.Test.YtbcmfcddkegcoaaUA
import Derived.WalkKit
import Derived.ProofKit
import Derived.ChangeOld
import Derived.Below
import Derived.OpenShut
import Derived.ShutString
namespace Go.Proofs.Ytbcmfcddkegcoaa.escapeJoins
open Go.ChangeShapes Go.WideShapes Go.ChangeAt Go.RowKit
open Go.ChangeMaps (open_string shut_string)
set_option linter.unusedVariables false      -- a walk need not use every 'w<i>' (that an integer argument fits its kind)

theorem own : ownKnob Try.prog.godebug = none := by kernel_rfl

theorem str_one (a b : Txt20) (X Y : ByteArray) (hX : X.data.toList = a) (hY : Y.data.toList = b) : (⟨(a ++ b).toArray⟩ : ByteArray) = X ++ Y := str_ext (by rw [List.toList_toArray, ByteArray.data_append, Array.toList_append, hX, hY])
set_option maxRecDepth 100000 in
set_option maxHeartbeats 3000000 in
theorem walk (a0 : Int) (a1 : ByteArray) (a2 : ByteArray) (w0 : (Lit.int .u8 a0).wf = true) (w1 : a1.size ≤ maxLen) (w2 : a2.size ≤ maxLen) (w : World) :
    Calls Try.prog 6 #[.int .u8 a0, .string a1, .string a2] w fun e w' => e = .returned (.bool true) ∧ Below w.heap.size w w' := by
  have hb0 : 0 ≤ a0 ∧ a0 ≤ 255 := by simpa [Lit.wf, IntKind.min, IntKind.max, IntKind.signed, IntKind.bits] using w0
  obtain ⟨h00, h01⟩ := hb0
  clear w0 w1 w2
  obtain ⟨k, hk⟩ : ∃ k : Nat, a0 % 3 = (k : Int) := ⟨(a0 % 3).toNat, by omega⟩
  have hk2 : k ≤ 2 := by omega
  have E0 := fun w => Lib.hid (escEnc_any (k : Int) ⟨#[]⟩ w (by omega) (by decide))
  have he0 : (⟨(encD (k : Int) (ByteArray.mk #[]).data.toList).toArray⟩ : ByteArray) = ⟨#[]⟩ := by
    rw [encD_in _ _ (by omega), show (ByteArray.mk #[]).data.toList = [] from rfl, if_neg (fun e => by cases e.2)]; rfl
  rw [he0] at E0
  clear he0
  have R1 := fun w => Lib.hid (right_any a1 w)
  have R2 := fun w => Lib.hid (right_any a2 w)
  obtain ⟨v1, hv1⟩ : ∃ v, Lib.validD a1.data.toList = v := ⟨_, rfl⟩
  obtain ⟨v2, hv2⟩ : ∃ v, Lib.validD a2.data.toList = v := ⟨_, rfl⟩
  rw [hv1] at R1
  rw [hv2] at R2
  have HV1 := Lib.hid hv1
  clear hv1 hv2
  by_cases hlen : 300 < a1.size ∨ 300 < a2.size
  · have hc : decide ((300 : Int) < (a1.size : Int)) = true ∨ decide ((300 : Int) < (a1.size : Int)) = false ∧ decide ((300 : Int) < (a2.size : Int)) = true := by
      simp only [decide_eq_true_eq, decide_eq_false_iff_not]; omega
    clear hlen
    rcases hc with hc | ⟨hc, hd⟩
    all_goals
      go_enter Try.func6, Try.ntmps6
      go_wp2_with (fail)
      refine (escAwake_any w).mono ?_
      rintro e w1 ⟨rfl, c1⟩
      have B1 := Lib.hid c1
      clear c1
      go_wp2_with (fail)
      refine (E0 _).out.mono ?_
      rintro e w2 ⟨rfl, c2⟩
      go_wp2
      go_ret
      exact ⟨ret_bool (by simp), B1.out.trans (c2.mono B1.out.size)⟩
  have hs1 : a1.size ≤ 300 := by omega
  have hs2 : a2.size ≤ 300 := by omega
  have d1 : decide ((300 : Int) < (a1.size : Int)) = false := decide_eq_false (by omega)
  have d2 : decide ((300 : Int) < (a2.size : Int)) = false := decide_eq_false (by omega)
  clear hlen
  have hne : (a1.data.toList = [] ∧ a1.toList = [] ∧ a1.toList.isEmpty = true) ∨ (a1.data.toList ≠ [] ∧ ¬ a1.toList = [] ∧ a1.toList.isEmpty = false) := by
    rw [ByteArray.toList_eq]
    cases h : a1.data.toList with
    | nil => exact .inl ⟨rfl, rfl, rfl⟩
    | cons c l => exact .inr ⟨by simp, by simp, rfl⟩
  rcases hne with ⟨r0, r1, r2⟩ | ⟨r0, r1, r2⟩
  · clear r0
    go_enter Try.func6, Try.ntmps6
    go_wp2_with (fail)
    refine (escAwake_any w).mono ?_
    rintro e w1 ⟨rfl, c1⟩
    have B1 := Lib.hid c1
    clear c1
    go_wp2_with (fail)
    refine (E0 _).out.mono ?_
    rintro e w2 ⟨rfl, c2⟩
    go_wp2
    go_ret
    exact ⟨ret_bool (by simp), B1.out.trans (c2.mono B1.out.size)⟩
  cases v1
  · clear r0
    go_enter Try.func6, Try.ntmps6
    go_wp2_with (fail)
    refine (escAwake_any w).mono ?_
    rintro e w1 ⟨rfl, c1⟩
    have B1 := Lib.hid c1
    clear c1
    go_wp2_with (fail)
    refine (R1 _).out.mono ?_
    rintro e w2 ⟨rfl, c2⟩
    have B2 := Lib.hid (B1.out.trans (c2.mono B1.out.size))
    clear c2
    go_wp2_with (fail)
    refine (E0 _).out.mono ?_
    rintro e w3 ⟨rfl, c3⟩
    go_wp2
    go_ret
    exact ⟨ret_bool (by simp), B2.out.trans (c3.mono B2.out.size)⟩
  cases v2
  · clear r0
    go_enter Try.func6, Try.ntmps6
    go_wp2_with (fail)
    refine (escAwake_any w).mono ?_
    rintro e w1 ⟨rfl, c1⟩
    have B1 := Lib.hid c1
    clear c1
    go_wp2_with (fail)
    refine (R1 _).out.mono ?_
    rintro e w2 ⟨rfl, c2⟩
    have B2 := Lib.hid (B1.out.trans (c2.mono B1.out.size))
    clear c2
    go_wp2_with (fail)
    refine (R2 _).out.mono ?_
    rintro e w3 ⟨rfl, c3⟩
    have B3 := Lib.hid (B2.out.trans (c3.mono B2.out.size))
    clear c3
    go_wp2_with (fail)
    refine (E0 _).out.mono ?_
    rintro e w4 ⟨rfl, c4⟩
    go_wp2
    go_ret
    exact ⟨ret_bool (by simp), B3.out.trans (c4.mono B3.out.size)⟩
  · have hj := encD_join (k : Int) (by omega) a1.data.toList a2.data.toList r0 HV1.out
    have lX : (a1 ++ a2 : ByteArray).data.toList = a1.data.toList ++ a2.data.toList := by simp [ByteArray.data_append]
    have hx : (a1 ++ a2 : ByteArray).size ≤ 600 := by rw [ByteArray.size_append]; omega
    have H1 := fun w => Lib.hid (escEnc_any (k : Int) (a1 ++ a2) w (by omega) (by omega))
    have H2 := fun w => Lib.hid (escEnc_any (k : Int) a1 w (by omega) (by omega))
    have H3 := fun w => Lib.hid (escEnc_any 0 a2 w (by decide) (by omega))
    have q1 := encD_len (k : Int) a1.data.toList
    have q2 := encD_len 0 a2.data.toList
    obtain ⟨T, hT, lT, sT⟩ := named21 (encD (k : Int) a1.data.toList)
    obtain ⟨U, hU, lU, sU⟩ := named21 (encD 0 a2.data.toList)
    rw [lX, hj, str_one _ _ T U lT lU] at H1
    rw [hT] at H2
    rw [hU] at H3
    rw [← sT, ← Lib.size_eq] at q1
    rw [← sU, ← Lib.size_eq] at q2
    have p1 : ¬ 9223372036854775807 < a1.size + a2.size := by omega
    have p2 : ¬ 9223372036854775807 < T.size + U.size := by omega
    clear r0 hj lX hx hT lT sT hU lU sU E0
    go_enter Try.func6, Try.ntmps6
    go_wp2_with (fail)
    refine (escAwake_any w).mono ?_
    rintro e w1 ⟨rfl, c1⟩
    have B1 := Lib.hid c1
    clear c1
    go_wp2_with (fail)
    refine (R1 _).out.mono ?_
    rintro e w2 ⟨rfl, c2⟩
    have B2 := Lib.hid (B1.out.trans (c2.mono B1.out.size))
    clear c2
    go_wp2_with (fail)
    refine (R2 _).out.mono ?_
    rintro e w3 ⟨rfl, c3⟩
    have B3 := Lib.hid (B2.out.trans (c3.mono B2.out.size))
    clear c3
    go_wp2_with (fail)
    refine (H1 _).out.mono ?_
    rintro e w4 ⟨rfl, c4⟩
    have B4 := Lib.hid (B3.out.trans (c4.mono B3.out.size))
    clear c4
    go_wp2_with (fail)
    refine (H2 _).out.mono ?_
    rintro e w5 ⟨rfl, c5⟩
    have B5 := Lib.hid (B4.out.trans (c5.mono B4.out.size))
    clear c5
    go_wp2_with (fail)
    refine (H3 _).out.mono ?_
    rintro e w6 ⟨rfl, c6⟩
    have B6 := Lib.hid (B5.out.trans (c6.mono B5.out.size))
    clear c6
    go_wp2
    go_ret
    exact ⟨ret_bool (by simp), B6.out⟩
  -- go_wp2
  -- go_ret
  -- exact ⟨rfl, by repeat (first | exact Grown.refl _ | apply Grown.drew | apply Grown.alloc)⟩

set_option maxRecDepth 100000 in
theorem lifted (os : Os) (started : os.Started) (H : Type) (enc : TypeId × Value → H) :
    ReturnsInHanded {} Try.checked os 6 .any (Rows.escapeJoinsSpec.pre6 enc Try.prog Try.f6 Rows.escapeJoinsRow.domain false) (Rows.escapeJoinsSpec.post enc Try.prog Try.f6 false true false false) := by
  refine returnsInHanded_of_change (C := Try.checked) own started (by kernel_rfl) Try.func6
    (ChangeSpec.witness6 (enc := enc) (C := Try.checked) false ⟨#[], #[.int .u8 0, .string ByteArray.empty, .string ByteArray.empty], []⟩ 8 (by kernel_rfl) (by kernel_rfl) (by kernel_rfl) (by kernel_rfl)) ?_
  intro W base args ds gs before hval0 hW hcnd _
  have hval : ∀ (j : Nat) t v, Try.f6.params[j]? = some t → args[j]? = some v → Value.okWide Try.prog W .any base t v := hval0
  have hW' := hW
  obtain ⟨p, q, hA0, hV, rfl, hfz, hnd⟩ := hW
  have hA : DataW.TrodAll enc Try.prog W 0 (fun _ => true) true Try.f6.params.toList args.toList ds p := hA0
  rw [Try.params6] at hA hval
  obtain ⟨v0, vs0, d0, ds0, p0, q0, hargs, rfl, rfl, h0, r0⟩ := trodAll_cons hA
  obtain ⟨v1, vs1, d1, ds1, p1, q1, rfl, rfl, rfl, h1, r1⟩ := trodAll_cons r0
  obtain ⟨v2, vs2, d2, ds2, p2, q2, rfl, rfl, rfl, h2, r2⟩ := trodAll_cons r1
  obtain ⟨rfl, rfl, rfl⟩ := trodAll_nil r2
  obtain rfl : args = #[v0, v1, v2] := by cases args; simp_all
  obtain ⟨rfl, rfl⟩ := trodVars_none hV
  obtain ⟨a0, rfl, rfl, rfl, w0⟩ := open_int Try.underlying5 (hval 0 5 v0 rfl rfl) h0
  obtain ⟨a1, rfl, rfl, rfl, w1⟩ := open_string Try.underlying9 (hval 1 9 v1 rfl rfl) h1
  obtain ⟨a2, rfl, rfl, rfl, w2⟩ := open_string Try.underlying9 (hval 2 9 v2 rfl rfl) h2
  clear hA0 hval0
  refine (walk a0 a1 a2 w0 w1 w2 W).mono fun e W' ⟨he, bel⟩ => ?_
  subst he
  exact ⟨_, rfl, _, _, _, [], _, [], hW', trodAll_mk1 (shut_bool Try.underlying4 _), (trodAll_cons_mk (shut_int Try.underlying5 w0) (trodAll_cons_mk (shut_string Try.underlying9 w1) (trodAll_cons_mk (shut_string Try.underlying9 w2) trodAll_mk0))), rfl, bel.frame _, fun h => by cases h⟩

theorem over : Rows.escapeJoinsRow.holds Try.pinned (OpenSpec.ofChange Rows.escapeJoinsSpec) :=
  OpenClaim.holds_of_wide 6 Try.f6 rfl rfl rfl rfl rfl rfl rfl ⟨rfl, rfl, rfl, rfl, rfl⟩ rfl rfl rfl rfl rfl (by kernel_rfl) Try.func6 (by kernel_rfl)
    (of_decide_eq_true (by kernel_rfl)) (by unfold Func.isWrapper; first | (rw [if_pos (by decide +kernel)]; kernel_rfl) | (rw [if_neg (by decide +kernel)]; exact ⟨rfl, rfl⟩))
    (fun os started H enc _ => lifted os started H enc)

/-- ████ THE STATEMENT ████ -/
theorem proved : Rows.EscapeJoinsSaid :=
  over
end Go.Proofs.Ytbcmfcddkegcoaa.escapeJoins
