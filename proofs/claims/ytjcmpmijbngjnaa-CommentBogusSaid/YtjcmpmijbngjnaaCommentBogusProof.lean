/-
  The law CommentBogus of flail/flaillaw10 answers true for every input, and changes nothing that was there. No condition.
-/
import Derived.Test.YtjcmpmijbngjnaaRows
import Derived.Test.YtjcmpmijbngjnaaComAwake
import Derived.WalkKit
import Derived.ProofKit
import Derived.ChangeOld
import Derived.Below
import Derived.OpenShut
import Derived.ShutString
namespace Go.Proofs.Ytjcmpmijbngjnaa.commentBogus
open Go.ChangeShapes Go.WideShapes Go.ChangeAt Go.RowKit
open Go.ChangeMaps (open_string shut_string)
set_option linter.unusedVariables false      -- a walk need not use every 'w<i>' (that an integer argument fits its kind)

theorem own : ownKnob Try.prog.godebug = none := by kernel_rfl

theorem opt_at (s : ByteArray) (i : Nat) (h : i < s.size) : s.data.toList[i]? = some s[i] := by
  rw [List.getElem?_eq_getElem (by rw [← Lib.size_eq]; exact h)]; rfl
/-- what is asked of each byte -/
def PlainAt (l : Txt) (i : Nat) : Prop := l[i]? ≠ some 62 ∧ l[i]? ≠ some 0
theorem plains (l : Txt) (h : ∀ i, i < l.length → PlainAt l i) : 62 ∉ l ∧ 0 ∉ l := by
  have lt : ∀ (i : Nat) (c : UInt8), l[i]? = some c → i < l.length := fun i c e => (List.getElem?_eq_some_iff.1 e).1
  refine ⟨fun e => ?_, fun e => ?_⟩
  · obtain ⟨i, hi⟩ := List.mem_iff_getElem?.1 e
    exact (h _ (lt _ _ hi)).1 hi
  · obtain ⟨i, hi⟩ := List.mem_iff_getElem?.1 e
    exact (h _ (lt _ _ hi)).2 hi
set_option maxRecDepth 100000 in
set_option maxHeartbeats 8000000 in
theorem walk (a0 : ByteArray) (a1 : ByteArray) (w0 : a0.size ≤ maxLen) (w1 : a1.size ≤ maxLen) (w : World) :
    Calls Try.prog 5 #[.string a0, .string a1] w fun e w' => e = .returned (.bool true) ∧ Below w.heap.size w w' := by
  clear w0 w1
  have HW := Lib.hid (laid_here w)
  skip
  by_cases hlen : 300 < a0.size ∨ 300 < a1.size
  · have hc : decide ((300 : Int) < (a0.size : Int)) = true ∨ decide ((300 : Int) < (a0.size : Int)) = false ∧ decide ((300 : Int) < (a1.size : Int)) = true := by
      simp only [decide_eq_true_eq, decide_eq_false_iff_not]; omega
    clear hlen
    rcases hc with hc | ⟨hc, hd⟩
    all_goals
      go_enter Try.func5, Try.ntmps5
      go_wp2_with (fail)
      refine (comAwake_any w HW.out).mono ?_
      rintro e w1 ⟨rfl, c1⟩
      go_wp2
      go_ret
      exact ⟨rfl, c1⟩
  have hs0 : a0.size ≤ 300 := by omega
  have hs1 : a1.size ≤ 300 := by omega
  have d0 : decide ((300 : Int) < (a0.size : Int)) = false := decide_eq_false (by omega)
  have d1 : decide ((300 : Int) < (a1.size : Int)) = false := decide_eq_false (by omega)
  clear hlen
  go_enter Try.func5, Try.ntmps5
  go_wp2_with (fail)
  refine (comAwake_any w HW.out).mono ?_
  rintro e w1 ⟨rfl, c1⟩
  go_wp2
  clear d0 d1
  go_loopw [6] (fun v wr => ∃ i : Nat, v = .int .i64 (i : Int) ∧ w1 = wr ∧ i ≤ a0.size ∧ Hid (∀ j, j < i → PlainAt a0.data.toList j)) (fun v _ => a0.size - (intOf v).toNat)
  case atStart => exact ⟨0, rfl, rfl, Nat.zero_le _, Lib.hid fun j h => absurd h (by omega)⟩
  case round =>
    obtain ⟨i, rfl, rfl, hi, HI⟩ := hrel
    by_cases hlt : i < a0.size
    · have ho := opt_at a0 i hlt
      have HO := Lib.hid ho
      clear ho
      by_cases c62 : a0[i] = 62
      · have b62 : (((a0[i].toNat : Nat) : Int) == 62) = true := by rw [c62]; rfl
        clear c62
        go_wp2
        go_ret
        exact ⟨rfl, c1⟩
      have b62 : (((a0[i].toNat : Nat) : Int) == 62) = false := by
        rw [beq_eq_false_iff_ne]; exact fun h => c62 (u8_eq _ 62 (by decide) h)
      by_cases c0 : a0[i] = 0
      · have b0 : (((a0[i].toNat : Nat) : Int) == 0) = true := by rw [c0]; rfl
        clear c62 c0
        go_wp2
        go_ret
        exact ⟨rfl, c1⟩
      have b0 : (((a0[i].toNat : Nat) : Int) == 0) = false := by
        rw [beq_eq_false_iff_ne]; exact fun h => c0 (u8_eq _ 0 (by decide) h)
      have hn : ∀ j, j < i + 1 → PlainAt a0.data.toList j := fun j hj => by
        rcases Nat.lt_or_eq_of_le (Nat.le_of_lt_succ hj) with h1 | rfl
        · exact HI.out j h1
        · exact ⟨by rw [HO.out]; exact fun e => c62 (Option.some.inj e), by rw [HO.out]; exact fun e => c0 (Option.some.inj e)⟩
      have HN := Lib.hid hn
      clear hn c62 c0
      go_wp2
      go_roundw
      case rel => exact ⟨i + 1, by go_num, trivial, by omega, HN⟩
      case measure => simp [intOf]; omega
    · obtain rfl : i = a0.size := by omega
      have hO := plains a0.data.toList (fun j hj => HI.out j (by rw [Lib.size_eq]; exact hj))
      obtain ⟨t1, t2, t3⟩ := told_bogus a0.data.toList a1.data.toList hO.1 hO.2
      rw [← Lib.size_eq] at t1 t2 t3
      have q : ∀ n m : Nat, ((n + m : Nat) : Int) = (n : Int) + (m : Int) := fun n m => Int.natCast_add n m
      rw [q] at t1 t2 t3
      have z : ∀ (P Q : ByteArray), (P ++ a0 ++ Q ++ a1 : ByteArray).data.toList = P.data.toList ++ a0.data.toList ++ Q.data.toList ++ a1.data.toList := fun P Q => by
        simp only [ByteArray.data_append, Array.toList_append]
      have z2 : ∀ P : ByteArray, (P ++ a0 : ByteArray).data.toList = P.data.toList ++ a0.data.toList := fun P => by
        simp only [ByteArray.data_append, Array.toList_append]
      have HV1 : Hid (comV (⟨#[60, 63]⟩ ++ a0 ++ ⟨#[62]⟩ ++ a1 : ByteArray).data.toList 0 = (⟨3, [], (⟨#[63]⟩ ++ a0 : ByteArray).data.toList, [], false⟩, (a0.size : Int) + 3, true)) := Lib.hid (by rw [z, z2]; exact t1)
      have HV2 : Hid (comV (⟨#[60, 33, 91]⟩ ++ a0 ++ ⟨#[62]⟩ ++ a1 : ByteArray).data.toList 0 = (⟨3, [], (⟨#[91]⟩ ++ a0 : ByteArray).data.toList, [], false⟩, (a0.size : Int) + 4, true)) := Lib.hid (by rw [z, z2]; exact t2)
      have HV3 : Hid (comV (⟨#[60, 47, 49]⟩ ++ a0 : ByteArray).data.toList 0 = (⟨3, [], (⟨#[49]⟩ ++ a0 : ByteArray).data.toList, [], false⟩, (a0.size : Int) + 3, true)) := Lib.hid (by rw [z2, z2]; exact t3)
      have HR1 := fun w h => Lib.hid (com_any (⟨#[60, 63]⟩ ++ a0 ++ ⟨#[62]⟩ ++ a1) 0 w (by simp only [ByteArray.size_append]; have h1 : (⟨#[60, 63]⟩ : ByteArray).size = 2 := rfl; have h2 : (⟨#[62]⟩ : ByteArray).size = 1 := rfl; omega) (by decide) h)
      have HR2 := fun w h => Lib.hid (com_any (⟨#[60, 33, 91]⟩ ++ a0 ++ ⟨#[62]⟩ ++ a1) 0 w (by simp only [ByteArray.size_append]; have h1 : (⟨#[60, 33, 91]⟩ : ByteArray).size = 3 := rfl; have h2 : (⟨#[62]⟩ : ByteArray).size = 1 := rfl; omega) (by decide) h)
      have HR3 := fun w h => Lib.hid (com_any (⟨#[60, 47, 49]⟩ ++ a0) 0 w (by simp only [ByteArray.size_append]; have h1 : (⟨#[60, 47, 49]⟩ : ByteArray).size = 3 := rfl; omega) (by decide) h)
      have y1 : ∀ (P Q : ByteArray), P.size ≤ 4 → Q.size ≤ 4 → ¬ 9223372036854775807 < P.size + a0.size ∧ ¬ 9223372036854775807 < (P ++ a0).size + Q.size ∧ ¬ 9223372036854775807 < (P ++ a0 ++ Q).size + a1.size := fun P Q hP hQ => by
        simp only [ByteArray.size_append]; omega
      obtain ⟨g1, g2, g3⟩ := y1 ⟨#[60, 63]⟩ ⟨#[62]⟩ (by decide) (by decide)
      obtain ⟨g4, g5, g6⟩ := y1 ⟨#[60, 33, 91]⟩ ⟨#[62]⟩ (by decide) (by decide)
      obtain ⟨g7, -, -⟩ := y1 ⟨#[60, 47, 49]⟩ ⟨#[62]⟩ (by decide) (by decide)
      obtain ⟨g8, -, -⟩ := y1 ⟨#[63]⟩ ⟨#[62]⟩ (by decide) (by decide)
      obtain ⟨g9, -, -⟩ := y1 ⟨#[91]⟩ ⟨#[62]⟩ (by decide) (by decide)
      obtain ⟨g10, -, -⟩ := y1 ⟨#[49]⟩ ⟨#[62]⟩ (by decide) (by decide)
      clear t1 t2 t3 hO q z z2 y1
      obtain ⟨X1, hX1⟩ : ∃ X : ByteArray, ⟨#[63]⟩ ++ a0 = X := ⟨_, rfl⟩
      obtain ⟨X2, hX2⟩ : ∃ X : ByteArray, ⟨#[91]⟩ ++ a0 = X := ⟨_, rfl⟩
      obtain ⟨X3, hX3⟩ : ∃ X : ByteArray, ⟨#[49]⟩ ++ a0 = X := ⟨_, rfl⟩
      rw [hX1] at HV1
      rw [hX2] at HV2
      rw [hX3] at HV3
      go_wp2_with (fail)
      refine (HR1 _ (HW.out.below c1)).out.mono ?_
      rintro e w2 ⟨t, ad1, len1, cap1, n, ok, rfl, -, hv, b2⟩
      rw [HV1.out] at hv
      simp only [Prod.mk.injEq] at hv
      obtain ⟨rfl, rfl, rfl⟩ := hv
      have C2 := Lib.hid (c1.trans (b2.mono c1.size))
      clear b2
      unfold tokA
      go_wp2_with (fail)
      have B3 := Lib.hid (below_new C2.out (.cells #[.int .i64 3, .string ⟨#[]⟩, .string ⟨X1.data.toList.toArray⟩, .slice ad1 len1 cap1, .bool false] 25))
      refine (HR2 _ (HW.out.below B3.out)).out.mono ?_
      rintro e w3 ⟨t, ad2, len2, cap2, n, ok, rfl, -, hv, b3⟩
      rw [HV2.out] at hv
      simp only [Prod.mk.injEq] at hv
      obtain ⟨rfl, rfl, rfl⟩ := hv
      have T1 := Lib.hid ((tokAt_new w2 ⟨3, [], X1.data.toList, [], false⟩ ad1 len1 cap1 25).below b3 (by simp))
      have C3 := Lib.hid (B3.out.trans (b3.mono B3.out.size))
      have hlt2 : w2.heap.size < w3.heap.size := by have := b3.size; simp at this; omega
      clear b3
      unfold tokA
      go_wp2_with (fail)
      have B4 := Lib.hid (below_new C3.out (.cells #[.int .i64 3, .string ⟨#[]⟩, .string ⟨X2.data.toList.toArray⟩, .slice ad2 len2 cap2, .bool false] 25))
      refine (HR3 _ (HW.out.below B4.out)).out.mono ?_
      rintro e w4 ⟨t, ad3, len3, cap3, n, ok, rfl, -, hv, b4⟩
      rw [HV3.out] at hv
      simp only [Prod.mk.injEq] at hv
      obtain ⟨rfl, rfl, rfl⟩ := hv
      have D4 := Lib.hid (((Below.refl w3.heap.size w3).alloc (Nat.le_refl _) _).trans (b4.mono (by simp)))
      have T2 := Lib.hid ((tokAt_new w3 ⟨3, [], X2.data.toList, [], false⟩ ad2 len2 cap2 25).below b4 (by simp))
      have T1 := Lib.hid (T1.out.below D4.out hlt2)
      have C4 := Lib.hid (B4.out.trans (b4.mono B4.out.size))
      have hlt3 : w3.heap.size < w4.heap.size := by have := b4.size; simp at this; omega
      clear b4 D4
      have E4 := Lib.hid ((Below.refl w4.heap.size w4).alloc (Nat.le_refl _) (.cells #[.int .i64 3, .string ⟨#[]⟩, .string ⟨X3.data.toList.toArray⟩, .slice ad3 len3 cap3, .bool false] 25))
      obtain ⟨-, -, x2, -, -⟩ := T1.out.below E4.out (by omega)
      obtain ⟨-, -, y2, -, -⟩ := T2.out.below E4.out hlt3
      unfold tokA
      go_wp2
      go_ret
      exact ⟨ret_bool (by simp), below_new C4.out _⟩
  -- go_wp2
  -- go_ret
  -- exact ⟨rfl, by repeat (first | exact Grown.refl _ | apply Grown.drew | apply Grown.alloc)⟩

set_option maxRecDepth 100000 in
theorem lifted (os : Os) (started : os.Started) (H : Type) (enc : TypeId × Value → H) :
    ReturnsInHanded {} Try.checked os 5 .any (Rows.commentBogusSpec.pre6 enc Try.prog Try.f5 Rows.commentBogusRow.domain false) (Rows.commentBogusSpec.post enc Try.prog Try.f5 false true false false) := by
  refine returnsInHanded_of_change (C := Try.checked) own started (by kernel_rfl) Try.func5
    (ChangeSpec.witness6 (enc := enc) (C := Try.checked) false ⟨#[], #[.string ByteArray.empty, .string ByteArray.empty], []⟩ 8 (by kernel_rfl) (by kernel_rfl) (by kernel_rfl) (by kernel_rfl)) ?_
  intro W base args ds gs before hval0 hW hcnd _
  have hval : ∀ (j : Nat) t v, Try.f5.params[j]? = some t → args[j]? = some v → Value.okWide Try.prog W .any base t v := hval0
  have hW' := hW
  obtain ⟨p, q, hA0, hV, rfl, hfz, hnd⟩ := hW
  have hA : DataW.TrodAll enc Try.prog W 0 (fun _ => true) true Try.f5.params.toList args.toList ds p := hA0
  rw [Try.params5] at hA hval
  obtain ⟨v0, vs0, d0, ds0, p0, q0, hargs, rfl, rfl, h0, r0⟩ := trodAll_cons hA
  obtain ⟨v1, vs1, d1, ds1, p1, q1, rfl, rfl, rfl, h1, r1⟩ := trodAll_cons r0
  obtain ⟨rfl, rfl, rfl⟩ := trodAll_nil r1
  obtain rfl : args = #[v0, v1] := by cases args; simp_all
  obtain ⟨rfl, rfl⟩ := trodVars_none hV
  obtain ⟨a0, rfl, rfl, rfl, w0⟩ := open_string Try.underlying9 (hval 0 9 v0 rfl rfl) h0
  obtain ⟨a1, rfl, rfl, rfl, w1⟩ := open_string Try.underlying9 (hval 1 9 v1 rfl rfl) h1
  clear hA0 hval0
  refine (walk a0 a1 w0 w1 W).mono fun e W' ⟨he, bel⟩ => ?_
  subst he
  exact ⟨_, rfl, _, _, _, [], _, [], hW', trodAll_mk1 (shut_bool Try.underlying4 _), (trodAll_cons_mk (shut_string Try.underlying9 w0) (trodAll_cons_mk (shut_string Try.underlying9 w1) trodAll_mk0)), rfl, bel.frame _, fun h => by cases h⟩

theorem over : Rows.commentBogusRow.holds Try.pinned (OpenSpec.ofChange Rows.commentBogusSpec) :=
  OpenClaim.holds_of_wide 5 Try.f5 rfl rfl rfl rfl rfl rfl rfl ⟨rfl, rfl, rfl, rfl, rfl⟩ rfl rfl rfl rfl rfl (by kernel_rfl) Try.func5 (by kernel_rfl)
    (of_decide_eq_true (by kernel_rfl)) (by unfold Func.isWrapper; first | (rw [if_pos (by decide +kernel)]; kernel_rfl) | (rw [if_neg (by decide +kernel)]; exact ⟨rfl, rfl⟩))
    (fun os started H enc _ => lifted os started H enc)

/-- ████ THE STATEMENT ████ -/
theorem proved : Rows.CommentBogusSaid :=
  over
end Go.Proofs.Ytjcmpmijbngjnaa.commentBogus
