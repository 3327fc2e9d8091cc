/-
  The law ScriptPlain of flail/flaillaw13 answers true for every input, and changes nothing that was there. No condition.
-/
import Derived.Test.YthmfjnjjkcaalaaRows
import Derived.Test.YthmfjnjjkcaalaaScrAwake
import Derived.HandedShaped
import Derived.Test.YthmfjnjjkcaalaaMaxLen
import Derived.WalkKit
import Derived.ProofKit
import Derived.ChangeOld
import Derived.Below
import Derived.OpenShut
import Derived.ShutString
namespace Go.Proofs.Ythmfjnjjkcaalaa.scriptPlain
open Go.ChangeShapes Go.WideShapes Go.ChangeAt Go.RowKit
open Go.ChangeMaps (open_string shut_string)
set_option linter.unusedVariables false      -- a walk need not use every 'w<i>' (that an integer argument fits its kind)

theorem own : ownKnob Try.prog.godebug = none := by kernel_rfl

theorem low_same (c d : UInt8) (h : d = lowB c) (hd : ¬ (97 ≤ d.toNat ∧ d.toNat ≤ 122)) : c = d := by
  have h1 := lowB_int c
  rw [← h] at h1
  rw [← UInt8.toNat_inj]
  unfold lowI at h1
  split at h1 <;> omega
theorem com_bytes (l : Txt) (h : comL.isPrefixOf (lowL l) = true) : l.take 4 = comL := by
  unfold comL at h ⊢
  match l, com_len l h with
  | c1 :: c2 :: c3 :: c4 :: t, _ =>
    simp only [lowL_cons, List.isPrefixOf_cons_cons, Bool.and_eq_true, beq_iff_eq] at h
    rw [low_same c1 60 h.1 (by decide), low_same c2 33 h.2.1 (by decide), low_same c3 45 h.2.2.1 (by decide), low_same c4 45 h.2.2.2.1 (by decide)]
    rfl
  | [], e => exact absurd e (by simp)
  | [_], e => exact absurd e (by simp)
  | [_, _], e => exact absurd e (by simp)
  | [_, _, _], e => exact absurd e (by simp)
theorem none_com (l : Txt) (i k : Nat) (h : ∀ j, j < i → (l.drop j).take 4 ≠ comL) (hi : l.length < i + 4) : scrV 0 0 (l.drop k) = (findL scL (l.drop k), 0) := by
  refine scr_plain _ fun j => ?_
  rw [List.drop_drop, Bool.eq_false_iff]
  intro e
  have e1 := com_bytes _ e
  have e2 := com_len _ e
  rw [List.length_drop] at e2
  exact h (k + j) (by omega) e1
set_option maxRecDepth 100000 in
set_option maxHeartbeats 8000000 in
theorem walk (a0 : ByteArray) (a1 : Int) (w0 : a0.size ≤ maxLen) (w1 : (Lit.int .u16 a1).wf = true) (w : World) (hT : ScrLaid w) :
    Calls Try.prog 4 #[.string a0, .int .u16 a1] w fun e w' => e = .returned (.bool true) ∧ Below w.heap.size w w' := by
  have hb1 : 0 ≤ a1 ∧ a1 ≤ 65535 := by simpa [Lit.wf, IntKind.min, IntKind.max, IntKind.signed, IntKind.bits] using w1
  obtain ⟨h10, h11⟩ := hb1
  clear w0 w1
  have HW := Lib.hid hT
  clear hT
  by_cases hlen : 300 < a0.size
  · have hc : decide ((300 : Int) < (a0.size : Int)) = true := decide_eq_true (by omega)
    clear hlen
    go_enter Try.func4, Try.ntmps4
    go_wp2_with (fail)
    refine (scrAwake_any w HW.out).mono ?_
    rintro e w1 ⟨rfl, c1⟩
    go_wp2
    go_ret
    exact ⟨rfl, c1⟩
  have hs0 : a0.size ≤ 300 := by omega
  have d0 : decide ((300 : Int) < (a0.size : Int)) = false := decide_eq_false (by omega)
  have hk0 : 0 ≤ a1 % ((a0.size : Int) + 1) := Int.emod_nonneg _ (by omega)
  have hk1 : a1 % ((a0.size : Int) + 1) < (a0.size : Int) + 1 := Int.emod_lt_of_pos _ (by omega)
  obtain ⟨k, hk⟩ : ∃ k : Nat, a1 % ((a0.size : Int) + 1) = k := ⟨(a1 % ((a0.size : Int) + 1)).toNat, by omega⟩
  have HK := Lib.hid hk
  have hkk : k ≤ 300 := by omega
  have hks : k ≤ a0.size := by omega
  have hP := scrP_in a0.data.toList k (by rw [← Lib.size_eq]; exact hks)
  have hF := findV_in scL a0.data.toList k (by rw [← Lib.size_eq]; exact hks)
  have H1 := fun w h => Lib.hid (scrFind_any a0 (k : Int) w (by omega) (by omega) h)
  rw [hP] at H1
  have H2 := fun w h => Lib.hid (show Calls Try.prog 14 #[.string a0, .int .i64 (k : Int), .string ⟨#[115, 99, 114, 105, 112, 116]⟩] w fun e w' => e = .returned (.int .i64 (findV scL a0.data.toList (k : Int) : Int)) ∧ Below w.heap.size w w' from scrRaw_any a0 (k : Int) ⟨#[115, 99, 114, 105, 112, 116]⟩ w (by omega) (by decide) (by omega) h)
  rw [hF] at H2
  have HV := fun i h hi => Lib.hid (none_com a0.data.toList i k h (by rw [← Lib.size_eq]; exact hi))
  clear hP hF hk hlen
  go_enter Try.func4, Try.ntmps4
  go_wp2_with (fail)
  refine (scrAwake_any w HW.out).mono ?_
  rintro e w1 ⟨rfl, c1⟩
  have B1 := Lib.hid c1
  clear c1
  go_wp2
  go_loopw [6] (fun v wr => ∃ i : Nat, v = .int .i64 (i : Int) ∧ Below w.heap.size w wr ∧ i ≤ 301 ∧ Hid (∀ j, j < i → (a0.data.toList.drop j).take 4 ≠ comL)) (fun v _ => a0.size - (intOf v).toNat)
  case atStart => exact ⟨0, rfl, B1.out, by omega, Lib.hid (fun j h => absurd h (Nat.not_lt_zero _))⟩
  case round =>
    obtain ⟨i, rfl, hb, hi, HN⟩ := hrel
    have HB := Lib.hid hb
    clear hb
    by_cases h4 : i + 4 ≤ a0.size
    · have he : (a0.extract i (i + 4)).data.toList = (a0.data.toList.drop i).take 4 := by
        rw [Lib.extract_data, show i + 4 - i = 4 by omega]
      have q0 : decide ((i : Int) + 4 ≤ (a0.size : Int)) = true := decide_eq_true (by omega)
      have q1 : decide (i + 4 ≤ a0.size) = true := decide_eq_true h4
      by_cases hc : (a0.data.toList.drop i).take 4 = comL
      · have hq : ((a0.extract i (i + 4)).toList == [60, 33, 45, 45]) = true := by
          rw [ByteArray.toList_eq, beq_iff_eq, he]; exact hc
        clear hc he
        go_wp2
        go_ret
        exact ⟨rfl, HB.out⟩
      · have hq : ((a0.extract i (i + 4)).toList == [60, 33, 45, 45]) = false := by
          rw [ByteArray.toList_eq, beq_eq_false_iff_ne, he]; exact hc
        have HN2 := Lib.hid (show ∀ j, j < i + 1 → (a0.data.toList.drop j).take 4 ≠ comL from fun j h => by
          rcases Nat.lt_or_eq_of_le (Nat.le_of_lt_succ h) with h | h
          · exact HN.out j h
          · subst h; exact hc)
        clear hc he
        go_wp2
        go_roundw
        case rel => exact ⟨i + 1, by go_num, HB.out, by omega, HN2⟩
        case measure => simp [intOf]; omega
    · have q0 : decide ((i : Int) + 4 ≤ (a0.size : Int)) = false := decide_eq_false (by omega)
      have q1 : decide (i + 4 ≤ a0.size) = false := decide_eq_false h4
      have hv := (HV i HN.out (by omega)).out
      simp only [hv] at H1
      clear hv HV
      go_wp2_with (fail)
      rw [HK.out]
      refine (H1 _ (HW.out.below HB.out)).out.mono ?_
      rintro e w2 ⟨rfl, c2⟩
      have B2 := Lib.hid (HB.out.trans (c2.mono HB.out.size))
      clear c2
      go_wp2_with (fail)
      refine (H2 _ (HW.out.below B2.out)).out.mono ?_
      rintro e w3 ⟨rfl, c3⟩
      have B3 := Lib.hid (B2.out.trans (c3.mono B2.out.size))
      clear c3
      go_wp2
      go_ret
      exact ⟨ret_bool (by simp), B3.out⟩
  -- go_wp2
  -- go_ret
  -- exact ⟨rfl, by repeat (first | exact Grown.refl _ | apply Grown.drew | apply Grown.alloc)⟩

set_option maxRecDepth 100000 in
theorem lifted (os : Os) (started : os.Started) (H : Type) (enc : TypeId × Value → H) :
    ReturnsInHanded {} Try.checked os 4 .any (Rows.scriptPlainSpec.pre6 enc Try.prog Try.f4 Rows.scriptPlainRow.domain false) (Rows.scriptPlainSpec.post enc Try.prog Try.f4 false true false false) := by
  refine returnsInHanded_of_change_shaped (C := Try.checked) own started (by kernel_rfl) Try.func4
    (ChangeSpec.witness6 (enc := enc) (C := Try.checked) false ⟨#[], #[.string ByteArray.empty, .int .u16 0], []⟩ 8 (by kernel_rfl) (by kernel_rfl) (by kernel_rfl) (by kernel_rfl)) ?_
  intro W base args ds gs before hval0 hW hcnd _ hsh _
  have hval : ∀ (j : Nat) t v, Try.f4.params[j]? = some t → args[j]? = some v → Value.okWide Try.prog W .any base t v := hval0
  have hW' := hW
  obtain ⟨p, q, hA0, hV, rfl, hfz, hnd⟩ := hW
  have hA : DataW.TrodAll enc Try.prog W 0 (fun _ => true) true Try.f4.params.toList args.toList ds p := hA0
  rw [Try.params4] at hA hval
  obtain ⟨v0, vs0, d0, ds0, p0, q0, hargs, rfl, rfl, h0, r0⟩ := trodAll_cons hA
  obtain ⟨v1, vs1, d1, ds1, p1, q1, rfl, rfl, rfl, h1, r1⟩ := trodAll_cons r0
  obtain ⟨rfl, rfl, rfl⟩ := trodAll_nil r1
  obtain rfl : args = #[v0, v1] := by cases args; simp_all
  obtain ⟨rfl, rfl⟩ := trodVars_none hV
  obtain ⟨a0, rfl, rfl, rfl, w0⟩ := open_string Try.underlying9 (hval 0 9 v0 rfl rfl) h0
  obtain ⟨a1, rfl, rfl, rfl, w1⟩ := open_int Try.underlying27 (hval 1 27 v1 rfl rfl) h1
  clear hA0 hval0
  refine (walk a0 a1 w0 w1 W (maxAt_of hsh)).mono fun e W' ⟨he, bel⟩ => ?_
  subst he
  exact ⟨_, rfl, _, _, _, [], _, [], hW', trodAll_mk1 (shut_bool Try.underlying4 _), (trodAll_cons_mk (shut_string Try.underlying9 w0) (trodAll_cons_mk (shut_int Try.underlying27 w1) trodAll_mk0)), rfl, bel.frame _, fun h => by cases h⟩

theorem over : Rows.scriptPlainRow.holds Try.pinned (OpenSpec.ofChange Rows.scriptPlainSpec) :=
  OpenClaim.holds_of_wide 4 Try.f4 rfl rfl rfl rfl rfl rfl rfl ⟨rfl, rfl, rfl, rfl, rfl⟩ rfl rfl rfl rfl rfl (by kernel_rfl) Try.func4 (by kernel_rfl)
    (of_decide_eq_true (by kernel_rfl)) (by unfold Func.isWrapper; first | (rw [if_pos (by decide +kernel)]; kernel_rfl) | (rw [if_neg (by decide +kernel)]; exact ⟨rfl, rfl⟩))
    (fun os started H enc _ => lifted os started H enc)

/-- ████ THE STATEMENT ████ -/
theorem proved : Rows.ScriptPlainSaid :=
  over
end Go.Proofs.Ythmfjnjjkcaalaa.scriptPlain
