/-
  The law UtfBack of flail/flaillaw01 answers true for every input, and changes nothing that was there. No condition.
-/
import Derived.Test.YtafghfljbelgdaaRows
import Derived.Test.YtafghfljbelgdaaUtfLaws
import Derived.WalkKit
import Derived.ProofKit
import Derived.ChangeOld
import Derived.Below
import Derived.OpenShut
import Derived.ShutString
namespace Go.Proofs.Ytafghfljbelgdaa.utfBack
open Go.ChangeShapes Go.WideShapes Go.ChangeAt Go.RowKit
open Go.ChangeMaps (open_string shut_string)
set_option linter.unusedVariables false      -- a walk need not use every 'w<i>' (that an integer argument fits its kind)

theorem own : ownKnob Try.prog.godebug = none := by kernel_rfl

set_option maxRecDepth 100000 in
set_option maxHeartbeats 400000 in
theorem walk (a0 : Int) (a1 : Int) (w0 : (Lit.int .i64 a0).wf = true) (w1 : (Lit.int .i64 a1).wf = true) (w : World) :
    Calls Try.prog 6 #[.int .i64 a0, .int .i64 a1] w fun e w' => e = .returned (.bool true) ∧ Below w.heap.size w w' := by
  clear w0 w1
  have kc := fun (wx : World) (s : ByteArray) => run_bytes_of_string (P := Try.prog) wx 9 22 5 s Try.underlying9 Try.underlying22 Try.underlying5
  obtain ⟨A, hA, lA, sA⟩ := named (Lib.encodeRune a0)
  obtain ⟨B, hB, lB, sB⟩ := named (Lib.encodeRune a1)
  have hA4 := enc_len a0
  have hB4 := enc_len a1
  rw [← sA] at hA4
  rw [← sB] at hB4
  have HA := Lib.hid hA
  have HB := Lib.hid hB
  have HL : Hid ((A ++ B).data.toList = Lib.encodeRune a0 ++ Lib.encodeRune a1) := Lib.hid (by rw [app_list, lA, lB])
  have HLB := Lib.hid lB
  clear hA hB lA lB sA sB
  by_cases hm : a0 = 65279
  · subst hm
    have HD : Hid ((⟨(dec (A ++ B).data.toList).toArray⟩ : ByteArray) = B) := Lib.hid (list_str (by rw [HL.out, mark_dec_two, HLB.out]))
    go_enter Try.func6, Try.ntmps6
    go_wp2_with (fail)
    refine (awake_any w).mono ?_
    rintro e w1 ⟨rfl, hb1⟩
    have hs1 := hb1.size
    go_wp2_with (fail)
    refine (sign_any 65279 _).mono ?_
    rintro e w2 ⟨rfl, rfl⟩
    rw [HA.out]
    go_wp2_with (fail)
    refine (sign_any a1 _).mono ?_
    rintro e w2 ⟨rfl, rfl⟩
    rw [HB.out]
    go_wp2_with (fail)
    refine (decode_any _ _ _ (isBytes_conv w1 (A ++ B) _ _ (by simp) (by unfold maxLen; omega)) (by rw [← Lib.size_eq]; simp; omega)).mono ?_
    rintro e w3 ⟨rfl, hb3⟩
    rw [HD.out]
    go_wp2
    go_ret
    exact ⟨by simp, (below_conv hb1 hs1 _).trans (hb3.mono (by simp; omega))⟩
  · have hm' : (a0 == 65279) = false := by simpa using hm
    have HD : Hid ((⟨(dec (A ++ B).data.toList).toArray⟩ : ByteArray) = A ++ B) := Lib.hid (list_str (by rw [HL.out, two_dec a0 a1 hm]))
    have HR : Hid (Lib.validD (A ++ B).data.toList = true) := Lib.hid (by rw [HL.out, two_right])
    clear hm
    go_enter Try.func6, Try.ntmps6
    go_wp2_with (fail)
    refine (awake_any w).mono ?_
    rintro e w1 ⟨rfl, hb1⟩
    have hs1 := hb1.size
    go_wp2_with (fail)
    refine (sign_any a0 _).mono ?_
    rintro e w2 ⟨rfl, rfl⟩
    rw [HA.out]
    go_wp2_with (fail)
    refine (sign_any a1 _).mono ?_
    rintro e w2 ⟨rfl, rfl⟩
    rw [HB.out]
    go_wp2_with (fail)
    refine (decode_any _ _ _ (isBytes_conv w1 (A ++ B) _ _ (by simp) (by unfold maxLen; omega)) (by rw [← Lib.size_eq]; simp; omega)).mono ?_
    rintro e w3 ⟨rfl, hb3⟩
    rw [HD.out]
    have hs3 := hb3.size
    simp at hs3
    go_wp2_with (fail)
    refine (right_any _ _).mono ?_
    rintro e w4 ⟨rfl, hb4⟩
    rw [HR.out]
    go_wp2
    go_ret
    exact ⟨by simp; omega, ((below_conv hb1 hs1 _).trans (hb3.mono (by simp; omega))).trans (hb4.mono (by omega))⟩
  -- go_enter Try.func6, Try.ntmps6
  -- go_wp2
  -- go_ret
  -- exact ⟨rfl, by repeat (first | exact Grown.refl _ | apply Grown.drew | apply Grown.alloc)⟩

set_option maxRecDepth 100000 in
theorem lifted (os : Os) (started : os.Started) (H : Type) (enc : TypeId × Value → H) :
    ReturnsInHanded {} Try.checked os 6 .any (Rows.utfBackSpec.pre6 enc Try.prog Try.f6 Rows.utfBackRow.domain false) (Rows.utfBackSpec.post enc Try.prog Try.f6 false true false false) := by
  refine returnsInHanded_of_change (C := Try.checked) own started (by kernel_rfl) Try.func6
    (ChangeSpec.witness6 (enc := enc) (C := Try.checked) false ⟨#[], #[.int .i64 0, .int .i64 0], []⟩ 8 (by kernel_rfl) (by kernel_rfl) (by kernel_rfl) (by kernel_rfl)) ?_
  intro W base args ds gs before hval0 hW hcnd _
  have hval : ∀ (j : Nat) t v, Try.f6.params[j]? = some t → args[j]? = some v → Value.okWide Try.prog W .any base t v := hval0
  have hW' := hW
  obtain ⟨p, q, hA0, hV, rfl, hfz, hnd⟩ := hW
  have hA : DataW.TrodAll enc Try.prog W 0 (fun _ => true) true Try.f6.params.toList args.toList ds p := hA0
  rw [Try.params6] at hA hval
  obtain ⟨v0, vs0, d0, ds0, p0, q0, hargs, rfl, rfl, h0, r0⟩ := trodAll_cons hA
  obtain ⟨v1, vs1, d1, ds1, p1, q1, rfl, rfl, rfl, h1, r1⟩ := trodAll_cons r0
  obtain ⟨rfl, rfl, rfl⟩ := trodAll_nil r1
  obtain rfl : args = #[v0, v1] := by cases args; simp_all
  obtain ⟨rfl, rfl⟩ := trodVars_none hV
  obtain ⟨a0, rfl, rfl, rfl, w0⟩ := open_int Try.underlying3 (hval 0 3 v0 rfl rfl) h0
  obtain ⟨a1, rfl, rfl, rfl, w1⟩ := open_int Try.underlying3 (hval 1 3 v1 rfl rfl) h1
  clear hA0 hval0
  refine (walk a0 a1 w0 w1 W).mono fun e W' ⟨he, bel⟩ => ?_
  subst he
  exact ⟨_, rfl, _, _, _, [], _, [], hW', trodAll_mk1 (shut_bool Try.underlying4 _), (trodAll_cons_mk (shut_int Try.underlying3 w0) (trodAll_cons_mk (shut_int Try.underlying3 w1) trodAll_mk0)), rfl, bel.frame _, fun h => by cases h⟩

theorem over : Rows.utfBackRow.holds Try.pinned (OpenSpec.ofChange Rows.utfBackSpec) :=
  OpenClaim.holds_of_wide 6 Try.f6 rfl rfl rfl rfl rfl rfl rfl ⟨rfl, rfl, rfl, rfl, rfl⟩ rfl rfl rfl rfl rfl (by kernel_rfl) Try.func6 (by kernel_rfl)
    (of_decide_eq_true (by kernel_rfl)) (by unfold Func.isWrapper; first | (rw [if_pos (by decide +kernel)]; kernel_rfl) | (rw [if_neg (by decide +kernel)]; exact ⟨rfl, rfl⟩))
    (fun os started H enc _ => lifted os started H enc)

/-- ████ THE STATEMENT ████ -/
theorem proved : Rows.UtfBackSaid :=
  over
end Go.Proofs.Ytafghfljbelgdaa.utfBack
