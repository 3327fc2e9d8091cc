/-
  The law ScriptWithin of flail/flaillaw13 answers true for every input, and changes nothing that was there. No condition.
-/
import Derived.Test.YthmfjnjjkcaalaaRows
import Derived.Test.YthmfjnjjkcaalaaScrAwake
import Derived.HandedShaped
import Derived.Test.YthmfjnjjkcaalaaMaxLen
import Derived.WalkKit
import Derived.ProofKit
import Derived.ChangeOld
import Derived.Below
import Derived.OpenShut
import Derived.ShutString
namespace Go.Proofs.Ythmfjnjjkcaalaa.scriptWithin
open Go.ChangeShapes Go.WideShapes Go.ChangeAt Go.RowKit
open Go.ChangeMaps (open_string shut_string)
set_option linter.unusedVariables false      -- a walk need not use every 'w<i>' (that an integer argument fits its kind)

theorem own : ownKnob Try.prog.godebug = none := by kernel_rfl

theorem mem_at (X : ByteArray) (h : ∀ j (h : j < X.size), X[j] ≠ 45 ∧ X[j] ≠ 60 ∧ X[j] ≠ 62) (c : UInt8) (hc : c ∈ X.data.toList) : c ≠ 45 ∧ c ≠ 60 ∧ c ≠ 62 := by
  obtain ⟨j, hj, rfl⟩ := List.mem_iff_getElem.1 hc
  exact h j (by rw [Lib.size_eq]; exact hj)
theorem with_told (X a b : ByteArray) (hX : X.data.toList = a.data.toList ++ b.data.toList) (h : ∀ j (h : j < X.size), X[j] ≠ 45 ∧ X[j] ≠ 60 ∧ X[j] ≠ 62) :
    scrP (a ++ ⟨#[60, 33, 45, 45]⟩ ++ b ++ ⟨#[60, 115, 99, 114, 105, 112, 116, 62]⟩ ++ a).data.toList 0 = (2 * a.size + b.size + 12, 2) ∧
    scrP (a ++ ⟨#[60, 33, 45, 45]⟩ ++ b ++ ⟨#[60, 115, 99, 114, 105, 112, 116, 62]⟩ ++ a ++ ⟨#[60, 47, 115, 99, 114, 105, 112, 116, 62]⟩ ++ b ++ ⟨#[60, 47, 115, 99, 114, 105, 112, 116, 62]⟩ ++ a).data.toList 0 = (2 * a.size + 2 * b.size + 21, 1) ∧
    scrP (a ++ ⟨#[60, 33, 45, 45]⟩ ++ b ++ ⟨#[60, 115, 99, 114, 105, 112, 116, 62]⟩ ++ a ++ ⟨#[60, 47, 115, 99, 114, 105, 112, 116, 62]⟩ ++ b ++ ⟨#[45, 45, 62]⟩ ++ ⟨#[60, 47, 115, 99, 114, 105, 112, 116, 62]⟩ ++ a).data.toList 0 = (2 * a.size + 2 * b.size + 24, 0) := by
  have e0 : ∀ s : Txt, scrP s 0 = scrV 0 0 s := fun s => by
    have := scrP_in s 0 (Nat.zero_le _)
    rw [List.drop_zero, Nat.zero_add] at this; exact this
  have hm := mem_at X h
  rw [hX] at hm
  have na : 45 ∉ a.data.toList ∧ 60 ∉ a.data.toList ∧ 62 ∉ a.data.toList :=
    ⟨fun e => (hm _ (List.mem_append_left _ e)).1 rfl, fun e => (hm _ (List.mem_append_left _ e)).2.1 rfl, fun e => (hm _ (List.mem_append_left _ e)).2.2 rfl⟩
  have nb : 45 ∉ b.data.toList ∧ 60 ∉ b.data.toList ∧ 62 ∉ b.data.toList :=
    ⟨fun e => (hm _ (List.mem_append_right _ e)).1 rfl, fun e => (hm _ (List.mem_append_right _ e)).2.1 rfl, fun e => (hm _ (List.mem_append_right _ e)).2.2 rfl⟩
  have := within_told a.data.toList b.data.toList na nb
  rw [← Lib.size_eq, ← Lib.size_eq] at this
  rw [e0, e0, e0]
  simp only [ByteArray.data_append, Array.toList_append]
  exact this
set_option maxRecDepth 100000 in
set_option maxHeartbeats 8000000 in
theorem walk (a0 : ByteArray) (a1 : ByteArray) (a2 : Bool) (w0 : a0.size ≤ maxLen) (w1 : a1.size ≤ maxLen) (w : World) (hT : ScrLaid w) :
    Calls Try.prog 6 #[.string a0, .string a1, .bool a2] w fun e w' => e = .returned (.bool true) ∧ Below w.heap.size w w' := by
  clear w0 w1
  have HW := Lib.hid hT
  clear hT
  by_cases hlen : 100 < a0.size ∨ 100 < a1.size
  · have hc : decide ((100 : Int) < (a0.size : Int)) = true ∨ decide ((100 : Int) < (a0.size : Int)) = false ∧ decide ((100 : Int) < (a1.size : Int)) = true := by
      simp only [decide_eq_true_eq, decide_eq_false_iff_not]; omega
    clear hlen
    rcases hc with hc | ⟨hc, hd⟩
    all_goals
      go_enter Try.func6, Try.ntmps6
      go_wp2_with (fail)
      refine (scrAwake_any w HW.out).mono ?_
      rintro e w1 ⟨rfl, c1⟩
      go_wp2
      go_ret
      exact ⟨rfl, c1⟩
  have hs0 : a0.size ≤ 100 := by omega
  have hs1 : a1.size ≤ 100 := by omega
  have d0 : decide ((100 : Int) < (a0.size : Int)) = false := decide_eq_false (by omega)
  have d1 : decide ((100 : Int) < (a1.size : Int)) = false := decide_eq_false (by omega)
  have g1 : ¬ 9223372036854775807 < a0.size + a1.size := by omega
  obtain ⟨X, hX⟩ : ∃ X, a0 ++ a1 = X := ⟨_, rfl⟩
  have hXl : X.data.toList = a0.data.toList ++ a1.data.toList := by rw [← hX, ByteArray.data_append, Array.toList_append]
  have hXs : X.size ≤ 200 := by rw [← hX, ByteArray.size_append]; omega
  have HX := Lib.hid hX
  have HWT := fun h => Lib.hid (with_told X a0 a1 hXl h)
  clear hX hXl hlen
  go_enter Try.func6, Try.ntmps6
  go_wp2_with (fail)
  refine (scrAwake_any w HW.out).mono ?_
  rintro e w1 ⟨rfl, c1⟩
  have B1 := Lib.hid c1
  clear c1
  go_wp2
  rw [HX.out]
  go_loopw [9] (fun v wr => ∃ i : Nat, v = .int .i64 (i : Int) ∧ Below w.heap.size w wr ∧ i ≤ X.size ∧ Hid (∀ j (h : j < X.size), j < i → X[j] ≠ 45 ∧ X[j] ≠ 60 ∧ X[j] ≠ 62)) (fun v _ => X.size - (intOf v).toNat)
  case atStart => exact ⟨0, rfl, B1.out, by omega, Lib.hid (fun j h h2 => absurd h2 (Nat.not_lt_zero _))⟩
  case round =>
    obtain ⟨i, rfl, hb, hi, HN⟩ := hrel
    have HB := Lib.hid hb
    clear hb
    by_cases hlt : i < X.size
    · have hi2 : i ≤ 200 := by omega
      have hbit : ∀ (c : UInt8) (n : Int), (c.toNat : Int) = n → (((X[i].toNat : Nat) : Int) == n) = decide (X[i] = c) := fun c n h => by
        rw [Bool.eq_iff_iff, beq_iff_eq, decide_eq_true_iff, ← h, ← UInt8.toNat_inj]; omega
      have q45 := hbit 45 45 rfl
      have q60 := hbit 60 60 rfl
      have q62 := hbit 62 62 rfl
      clear hbit
      have HN2 := fun (hn : X[i] ≠ 45 ∧ X[i] ≠ 60 ∧ X[i] ≠ 62) => Lib.hid (show ∀ j (h : j < X.size), j < i + 1 → X[j] ≠ 45 ∧ X[j] ≠ 60 ∧ X[j] ≠ 62 from fun j h h2 => by
        rcases Nat.lt_or_eq_of_le (Nat.le_of_lt_succ h2) with h3 | h3
        · exact HN.out j h h3
        · subst h3; exact hn)
      clear HN HWT HX
      by_cases h45 : X[i] = 45
      · rw [decide_eq_true h45] at q45
        clear h45 q60 q62 HN2
        go_wp2
        go_ret
        exact ⟨rfl, HB.out⟩
      by_cases h60 : X[i] = 60
      · rw [decide_eq_false h45] at q45
        rw [decide_eq_true h60] at q60
        clear h45 h60 q62 HN2
        go_wp2
        go_ret
        exact ⟨rfl, HB.out⟩
      by_cases h62 : X[i] = 62
      · rw [decide_eq_false h45] at q45
        rw [decide_eq_false h60] at q60
        rw [decide_eq_true h62] at q62
        clear h45 h60 h62 HN2
        go_wp2
        go_ret
        exact ⟨rfl, HB.out⟩
      · have HN3 := HN2 ⟨h45, h60, h62⟩
        rw [decide_eq_false h45] at q45
        rw [decide_eq_false h60] at q60
        rw [decide_eq_false h62] at q62
        clear h45 h60 h62 HN2
        go_wp2
        go_roundw
        case rel => exact ⟨i + 1, by go_num, HB.out, by omega, HN3⟩
        case measure => simp [intOf]; omega
    · obtain ⟨t1, t2, t3⟩ := (HWT (fun j h => HN.out j h (by omega))).out
      have hi2 : i ≤ 200 := by omega
      clear HWT HN HX hXs
      have s1 : (a0 ++ ⟨#[60, 33, 45, 45]⟩ ++ a1 ++ ⟨#[60, 115, 99, 114, 105, 112, 116, 62]⟩ ++ a0).size ≤ 1048576 := by simp only [ByteArray.size_append]; rw [show (⟨#[60, 33, 45, 45]⟩ : ByteArray).size = 4 from rfl, show (⟨#[60, 115, 99, 114, 105, 112, 116, 62]⟩ : ByteArray).size = 8 from rfl]; omega
      have s2 : (a0 ++ ⟨#[60, 33, 45, 45]⟩ ++ a1 ++ ⟨#[60, 115, 99, 114, 105, 112, 116, 62]⟩ ++ a0 ++ ⟨#[60, 47, 115, 99, 114, 105, 112, 116, 62]⟩ ++ a1 ++ ⟨#[60, 47, 115, 99, 114, 105, 112, 116, 62]⟩ ++ a0).size ≤ 1048576 := by simp only [ByteArray.size_append]; rw [show (⟨#[60, 33, 45, 45]⟩ : ByteArray).size = 4 from rfl, show (⟨#[60, 115, 99, 114, 105, 112, 116, 62]⟩ : ByteArray).size = 8 from rfl, show (⟨#[60, 47, 115, 99, 114, 105, 112, 116, 62]⟩ : ByteArray).size = 9 from rfl]; omega
      have s3 : (a0 ++ ⟨#[60, 33, 45, 45]⟩ ++ a1 ++ ⟨#[60, 115, 99, 114, 105, 112, 116, 62]⟩ ++ a0 ++ ⟨#[60, 47, 115, 99, 114, 105, 112, 116, 62]⟩ ++ a1 ++ ⟨#[45, 45, 62]⟩ ++ ⟨#[60, 47, 115, 99, 114, 105, 112, 116, 62]⟩ ++ a0).size ≤ 1048576 := by simp only [ByteArray.size_append]; rw [show (⟨#[60, 33, 45, 45]⟩ : ByteArray).size = 4 from rfl, show (⟨#[60, 115, 99, 114, 105, 112, 116, 62]⟩ : ByteArray).size = 8 from rfl, show (⟨#[60, 47, 115, 99, 114, 105, 112, 116, 62]⟩ : ByteArray).size = 9 from rfl, show (⟨#[45, 45, 62]⟩ : ByteArray).size = 3 from rfl]; omega
      have H1 := fun w h => Lib.hid (scrFind_any _ 0 w s1 (by decide) h)
      have H2 := fun w h => Lib.hid (scrFind_any _ 0 w s2 (by decide) h)
      have H3 := fun w h => Lib.hid (scrFind_any _ 0 w s3 (by decide) h)
      rw [t1] at H1
      rw [t2] at H2
      rw [t3] at H3
      clear t1 t2 t3 s1 s2 s3
      cases a2
      · clear H3
        go_wp2_with (fail)
        refine (H2 _ (HW.out.below HB.out)).out.mono ?_
        rintro e w2 ⟨rfl, c2⟩
        have B2 := Lib.hid (HB.out.trans (c2.mono HB.out.size))
        clear c2 H2
        go_wp2_with (fail)
        refine (H1 _ (HW.out.below B2.out)).out.mono ?_
        rintro e w3 ⟨rfl, c3⟩
        have B3 := Lib.hid (B2.out.trans (c3.mono B2.out.size))
        clear c3 H1
        go_wp2
        go_ret
        exact ⟨ret_bool (by simp), B3.out⟩
      · clear H2
        go_wp2_with (fail)
        refine (H3 _ (HW.out.below HB.out)).out.mono ?_
        rintro e w2 ⟨rfl, c2⟩
        have B2 := Lib.hid (HB.out.trans (c2.mono HB.out.size))
        clear c2 H3
        go_wp2_with (fail)
        refine (H1 _ (HW.out.below B2.out)).out.mono ?_
        rintro e w3 ⟨rfl, c3⟩
        have B3 := Lib.hid (B2.out.trans (c3.mono B2.out.size))
        clear c3 H1
        go_wp2
        go_ret
        exact ⟨ret_bool (by simp), B3.out⟩
  -- go_wp2
  -- go_ret
  -- exact ⟨rfl, by repeat (first | exact Grown.refl _ | apply Grown.drew | apply Grown.alloc)⟩

set_option maxRecDepth 100000 in
theorem lifted (os : Os) (started : os.Started) (H : Type) (enc : TypeId × Value → H) :
    ReturnsInHanded {} Try.checked os 6 .any (Rows.scriptWithinSpec.pre6 enc Try.prog Try.f6 Rows.scriptWithinRow.domain false) (Rows.scriptWithinSpec.post enc Try.prog Try.f6 false true false false) := by
  refine returnsInHanded_of_change_shaped (C := Try.checked) own started (by kernel_rfl) Try.func6
    (ChangeSpec.witness6 (enc := enc) (C := Try.checked) false ⟨#[], #[.string ByteArray.empty, .string ByteArray.empty, .bool false], []⟩ 8 (by kernel_rfl) (by kernel_rfl) (by kernel_rfl) (by kernel_rfl)) ?_
  intro W base args ds gs before hval0 hW hcnd _ hsh _
  have hval : ∀ (j : Nat) t v, Try.f6.params[j]? = some t → args[j]? = some v → Value.okWide Try.prog W .any base t v := hval0
  have hW' := hW
  obtain ⟨p, q, hA0, hV, rfl, hfz, hnd⟩ := hW
  have hA : DataW.TrodAll enc Try.prog W 0 (fun _ => true) true Try.f6.params.toList args.toList ds p := hA0
  rw [Try.params6] at hA hval
  obtain ⟨v0, vs0, d0, ds0, p0, q0, hargs, rfl, rfl, h0, r0⟩ := trodAll_cons hA
  obtain ⟨v1, vs1, d1, ds1, p1, q1, rfl, rfl, rfl, h1, r1⟩ := trodAll_cons r0
  obtain ⟨v2, vs2, d2, ds2, p2, q2, rfl, rfl, rfl, h2, r2⟩ := trodAll_cons r1
  obtain ⟨rfl, rfl, rfl⟩ := trodAll_nil r2
  obtain rfl : args = #[v0, v1, v2] := by cases args; simp_all
  obtain ⟨rfl, rfl⟩ := trodVars_none hV
  obtain ⟨a0, rfl, rfl, rfl, w0⟩ := open_string Try.underlying9 (hval 0 9 v0 rfl rfl) h0
  obtain ⟨a1, rfl, rfl, rfl, w1⟩ := open_string Try.underlying9 (hval 1 9 v1 rfl rfl) h1
  obtain ⟨a2, rfl, rfl, rfl⟩ := open_bool Try.underlying4 (hval 2 4 v2 rfl rfl) h2
  clear hA0 hval0
  refine (walk a0 a1 a2 w0 w1 W (maxAt_of hsh)).mono fun e W' ⟨he, bel⟩ => ?_
  subst he
  exact ⟨_, rfl, _, _, _, [], _, [], hW', trodAll_mk1 (shut_bool Try.underlying4 _), (trodAll_cons_mk (shut_string Try.underlying9 w0) (trodAll_cons_mk (shut_string Try.underlying9 w1) (trodAll_cons_mk (shut_bool Try.underlying4 _) trodAll_mk0))), rfl, bel.frame _, fun h => by cases h⟩

theorem over : Rows.scriptWithinRow.holds Try.pinned (OpenSpec.ofChange Rows.scriptWithinSpec) :=
  OpenClaim.holds_of_wide 6 Try.f6 rfl rfl rfl rfl rfl rfl rfl ⟨rfl, rfl, rfl, rfl, rfl⟩ rfl rfl rfl rfl rfl (by kernel_rfl) Try.func6 (by kernel_rfl)
    (of_decide_eq_true (by kernel_rfl)) (by unfold Func.isWrapper; first | (rw [if_pos (by decide +kernel)]; kernel_rfl) | (rw [if_neg (by decide +kernel)]; exact ⟨rfl, rfl⟩))
    (fun os started H enc _ => lifted os started H enc)

/-- ████ THE STATEMENT ████ -/
theorem proved : Rows.ScriptWithinSaid :=
  over
end Go.Proofs.Ythmfjnjjkcaalaa.scriptWithin
