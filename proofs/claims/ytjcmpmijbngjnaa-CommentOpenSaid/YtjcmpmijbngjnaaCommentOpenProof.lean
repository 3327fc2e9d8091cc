/-
  The law CommentOpen of flail/flaillaw10 answers true for every input, and changes nothing that was there. No condition.
-/
import Derived.Test.YtjcmpmijbngjnaaRows
import Derived.Test.YtjcmpmijbngjnaaComAwake
import Derived.WalkKit
import Derived.ProofKit
import Derived.ChangeOld
import Derived.Below
import Derived.OpenShut
import Derived.ShutString
namespace Go.Proofs.Ytjcmpmijbngjnaa.commentOpen
open Go.ChangeShapes Go.WideShapes Go.ChangeAt Go.RowKit
open Go.ChangeMaps (open_string shut_string)
set_option linter.unusedVariables false      -- a walk need not use every 'w<i>' (that an integer argument fits its kind)

theorem own : ownKnob Try.prog.godebug = none := by kernel_rfl

theorem opt_at (s : ByteArray) (i : Nat) (h : i < s.size) : s.data.toList[i]? = some s[i] := by
  rw [List.getElem?_eq_getElem (by rw [← Lib.size_eq]; exact h)]; rfl
/-- what is asked of each byte -/
def PlainAt (l : Txt) (i : Nat) : Prop := l[i]? ≠ some 62 ∧ l[i]? ≠ some 45 ∧ l[i]? ≠ some 0
theorem plains (l : Txt) (h : ∀ i, i < l.length → PlainAt l i) : 62 ∉ l ∧ 45 ∉ l ∧ 0 ∉ l := by
  have lt : ∀ (i : Nat) (c : UInt8), l[i]? = some c → i < l.length := fun i c e => (List.getElem?_eq_some_iff.1 e).1
  refine ⟨fun e => ?_, fun e => ?_, fun e => ?_⟩
  · obtain ⟨i, hi⟩ := List.mem_iff_getElem?.1 e
    exact (h _ (lt _ _ hi)).1 hi
  · obtain ⟨i, hi⟩ := List.mem_iff_getElem?.1 e
    exact (h _ (lt _ _ hi)).2.1 hi
  · obtain ⟨i, hi⟩ := List.mem_iff_getElem?.1 e
    exact (h _ (lt _ _ hi)).2.2 hi
set_option maxRecDepth 100000 in
set_option maxHeartbeats 8000000 in
theorem walk (a0 : ByteArray) (w0 : a0.size ≤ maxLen) (w : World) :
    Calls Try.prog 7 #[.string a0] w fun e w' => e = .returned (.bool true) ∧ Below w.heap.size w w' := by
  clear w0
  have HW := Lib.hid (laid_here w)
  skip
  by_cases hlen : 300 < a0.size
  · have hc : decide ((300 : Int) < (a0.size : Int)) = true := decide_eq_true (by omega)
    clear hlen
    go_enter Try.func7, Try.ntmps7
    go_wp2_with (fail)
    refine (comAwake_any w HW.out).mono ?_
    rintro e w1 ⟨rfl, c1⟩
    go_wp2
    go_ret
    exact ⟨rfl, c1⟩
  have hs0 : a0.size ≤ 300 := by omega
  have d0 : decide ((300 : Int) < (a0.size : Int)) = false := decide_eq_false (by omega)
  clear hlen
  go_enter Try.func7, Try.ntmps7
  go_wp2_with (fail)
  refine (comAwake_any w HW.out).mono ?_
  rintro e w1 ⟨rfl, c1⟩
  go_wp2
  clear d0
  go_loopw [4] (fun v wr => ∃ i : Nat, v = .int .i64 (i : Int) ∧ w1 = wr ∧ i ≤ a0.size ∧ Hid (∀ j, j < i → PlainAt a0.data.toList j)) (fun v _ => a0.size - (intOf v).toNat)
  case atStart => exact ⟨0, rfl, rfl, Nat.zero_le _, Lib.hid fun j h => absurd h (by omega)⟩
  case round =>
    obtain ⟨i, rfl, rfl, hi, HI⟩ := hrel
    by_cases hlt : i < a0.size
    · have ho := opt_at a0 i hlt
      have HO := Lib.hid ho
      clear ho
      by_cases c62 : a0[i] = 62
      · have b62 : (((a0[i].toNat : Nat) : Int) == 62) = true := by rw [c62]; rfl
        clear c62
        go_wp2
        go_ret
        exact ⟨rfl, c1⟩
      have b62 : (((a0[i].toNat : Nat) : Int) == 62) = false := by
        rw [beq_eq_false_iff_ne]; exact fun h => c62 (u8_eq _ 62 (by decide) h)
      by_cases c45 : a0[i] = 45
      · have b45 : (((a0[i].toNat : Nat) : Int) == 45) = true := by rw [c45]; rfl
        clear c62 c45
        go_wp2
        go_ret
        exact ⟨rfl, c1⟩
      have b45 : (((a0[i].toNat : Nat) : Int) == 45) = false := by
        rw [beq_eq_false_iff_ne]; exact fun h => c45 (u8_eq _ 45 (by decide) h)
      by_cases c33 : a0[i] = 33
      · have b33 : (((a0[i].toNat : Nat) : Int) == 33) = true := by rw [c33]; rfl
        clear c62 c45 c33
        go_wp2
        go_ret
        exact ⟨rfl, c1⟩
      have b33 : (((a0[i].toNat : Nat) : Int) == 33) = false := by
        rw [beq_eq_false_iff_ne]; exact fun h => c33 (u8_eq _ 33 (by decide) h)
      by_cases c0 : a0[i] = 0
      · have b0 : (((a0[i].toNat : Nat) : Int) == 0) = true := by rw [c0]; rfl
        clear c62 c45 c33 c0
        go_wp2
        go_ret
        exact ⟨rfl, c1⟩
      have b0 : (((a0[i].toNat : Nat) : Int) == 0) = false := by
        rw [beq_eq_false_iff_ne]; exact fun h => c0 (u8_eq _ 0 (by decide) h)
      have hn : ∀ j, j < i + 1 → PlainAt a0.data.toList j := fun j hj => by
        rcases Nat.lt_or_eq_of_le (Nat.le_of_lt_succ hj) with h1 | rfl
        · exact HI.out j h1
        · exact ⟨by rw [HO.out]; exact fun e => c62 (Option.some.inj e), by rw [HO.out]; exact fun e => c45 (Option.some.inj e), by rw [HO.out]; exact fun e => c0 (Option.some.inj e)⟩
      have HN := Lib.hid hn
      clear hn c62 c45 c33 c0
      go_wp2
      go_roundw
      case rel => exact ⟨i + 1, by go_num, trivial, by omega, HN⟩
      case measure => simp [intOf]; omega
    · obtain rfl : i = a0.size := by omega
      obtain ⟨o1, o2, o3⟩ := plains a0.data.toList (fun j hj => HI.out j (by rw [Lib.size_eq]; exact hj))
      obtain ⟨t1, t2, t3, t4⟩ := told_open a0.data.toList o1 o2 o3
      rw [← Lib.size_eq] at t1 t2 t3 t4
      have q : ∀ n m : Nat, ((n + m : Nat) : Int) = (n : Int) + (m : Int) := fun n m => Int.natCast_add n m
      rw [q] at t1 t2 t3 t4
      have z : ∀ (P Q : ByteArray), (P ++ a0 ++ Q : ByteArray).data.toList = P.data.toList ++ a0.data.toList ++ Q.data.toList := fun P Q => by
        simp only [ByteArray.data_append, Array.toList_append]
      have z2 : ∀ P : ByteArray, (P ++ a0 : ByteArray).data.toList = P.data.toList ++ a0.data.toList := fun P => by
        simp only [ByteArray.data_append, Array.toList_append]
      have z3 : ∀ P : ByteArray, (a0 ++ P : ByteArray).data.toList = a0.data.toList ++ P.data.toList := fun P => by
        simp only [ByteArray.data_append, Array.toList_append]
      have HV1 : Hid (comV (⟨#[60, 33, 45, 45]⟩ ++ a0 : ByteArray).data.toList 0 = (⟨3, [], a0.data.toList, [], false⟩, (a0.size : Int) + 4, true)) := Lib.hid (by rw [z2]; exact t1)
      have HV2 : Hid (comV (⟨#[60, 33, 45, 45]⟩ ++ a0 ++ ⟨#[45, 45, 33]⟩ : ByteArray).data.toList 0 = (⟨3, [], a0.data.toList, [], false⟩, (a0.size : Int) + 7, true)) := Lib.hid (by rw [z]; exact t2)
      have HV3 : Hid (comV (⟨#[60, 33, 45, 45, 32]⟩ ++ a0 : ByteArray).data.toList 0 = (⟨3, [], (⟨#[32]⟩ ++ a0 : ByteArray).data.toList, [], false⟩, (a0.size : Int) + 5, true)) := Lib.hid (by rw [z2, z2]; exact t3)
      have HV4 : Hid (comV (⟨#[60, 33]⟩ ++ a0 ++ ⟨#[45]⟩ : ByteArray).data.toList 0 = (⟨3, [], (a0 ++ ⟨#[45]⟩ : ByteArray).data.toList, [], false⟩, (a0.size : Int) + 3, true) ∨ comV (⟨#[60, 33]⟩ ++ a0 ++ ⟨#[45]⟩ : ByteArray).data.toList 0 = (zeroT, 0, false)) := Lib.hid (by rw [z, z3]; exact t4)
      have y0 : ∀ (P Q : ByteArray), P.size ≤ 5 → Q.size ≤ 5 → (P ++ a0).size ≤ 1048576 ∧ (P ++ a0 ++ Q).size ≤ 1048576 := fun P Q hP hQ => by
        simp only [ByteArray.size_append]; omega
      have HR1 := fun w h => Lib.hid (com_any (⟨#[60, 33, 45, 45]⟩ ++ a0) 0 w (y0 _ ⟨#[]⟩ (by decide) (by decide)).1 (by decide) h)
      have HR2 := fun w h => Lib.hid (com_any (⟨#[60, 33, 45, 45]⟩ ++ a0 ++ ⟨#[45, 45, 33]⟩) 0 w (y0 _ _ (by decide) (by decide)).2 (by decide) h)
      have HR3 := fun w h => Lib.hid (com_any (⟨#[60, 33, 45, 45, 32]⟩ ++ a0) 0 w (y0 _ ⟨#[]⟩ (by decide) (by decide)).1 (by decide) h)
      have HR4 := fun w h => Lib.hid (com_any (⟨#[60, 33]⟩ ++ a0 ++ ⟨#[45]⟩) 0 w (y0 _ _ (by decide) (by decide)).2 (by decide) h)
      have y1 : ∀ (P Q : ByteArray), P.size ≤ 5 → Q.size ≤ 5 → ¬ 9223372036854775807 < P.size + a0.size ∧ ¬ 9223372036854775807 < (P ++ a0).size + Q.size ∧ ¬ 9223372036854775807 < a0.size + P.size := fun P Q hP hQ => by
        simp only [ByteArray.size_append]; omega
      obtain ⟨g1, g2, -⟩ := y1 ⟨#[60, 33, 45, 45]⟩ ⟨#[45, 45, 33]⟩ (by decide) (by decide)
      obtain ⟨g4, -, -⟩ := y1 ⟨#[60, 33, 45, 45, 32]⟩ ⟨#[62]⟩ (by decide) (by decide)
      obtain ⟨g7, g6, -⟩ := y1 ⟨#[60, 33]⟩ ⟨#[45]⟩ (by decide) (by decide)
      obtain ⟨g8, -, -⟩ := y1 ⟨#[32]⟩ ⟨#[62]⟩ (by decide) (by decide)
      obtain ⟨-, -, g9⟩ := y1 ⟨#[45]⟩ ⟨#[62]⟩ (by decide) (by decide)
      clear t1 t2 t3 t4 o1 o2 o3 q z z2 z3 y0 y1
      obtain ⟨X3, hX3⟩ : ∃ X : ByteArray, ⟨#[32]⟩ ++ a0 = X := ⟨_, rfl⟩
      obtain ⟨X4, hX4⟩ : ∃ X : ByteArray, a0 ++ ⟨#[45]⟩ = X := ⟨_, rfl⟩
      rw [hX3] at HV3
      rw [hX4] at HV4
      go_wp2_with (fail)
      refine (HR1 _ (HW.out.below c1)).out.mono ?_
      rintro e w2 ⟨t, ad1, len1, cap1, n, ok, rfl, -, hv, b2⟩
      rw [HV1.out] at hv
      simp only [Prod.mk.injEq] at hv
      obtain ⟨rfl, rfl, rfl⟩ := hv
      have C2 := Lib.hid (c1.trans (b2.mono c1.size))
      clear b2
      unfold tokA
      go_wp2_with (fail)
      have B3 := Lib.hid (below_new C2.out (.cells #[.int .i64 3, .string ⟨#[]⟩, .string ⟨a0.data.toList.toArray⟩, .slice ad1 len1 cap1, .bool false] 25))
      refine (HR2 _ (HW.out.below B3.out)).out.mono ?_
      rintro e w3 ⟨t, ad2, len2, cap2, n, ok, rfl, -, hv, b3⟩
      rw [HV2.out] at hv
      simp only [Prod.mk.injEq] at hv
      obtain ⟨rfl, rfl, rfl⟩ := hv
      have T1 := Lib.hid ((tokAt_new w2 ⟨3, [], a0.data.toList, [], false⟩ ad1 len1 cap1 25).below b3 (by simp))
      have C3 := Lib.hid (B3.out.trans (b3.mono B3.out.size))
      have hlt2 : w2.heap.size < w3.heap.size := by have := b3.size; simp at this; omega
      clear b3
      unfold tokA
      go_wp2_with (fail)
      have B4 := Lib.hid (below_new C3.out (.cells #[.int .i64 3, .string ⟨#[]⟩, .string ⟨a0.data.toList.toArray⟩, .slice ad2 len2 cap2, .bool false] 25))
      refine (HR3 _ (HW.out.below B4.out)).out.mono ?_
      rintro e w4 ⟨t, ad3, len3, cap3, n, ok, rfl, -, hv, b4⟩
      rw [HV3.out] at hv
      simp only [Prod.mk.injEq] at hv
      obtain ⟨rfl, rfl, rfl⟩ := hv
      have D4 := Lib.hid (((Below.refl w3.heap.size w3).alloc (Nat.le_refl _) _).trans (b4.mono (by simp)))
      have T2 := Lib.hid ((tokAt_new w3 ⟨3, [], a0.data.toList, [], false⟩ ad2 len2 cap2 25).below b4 (by simp))
      have T1 := Lib.hid (T1.out.below D4.out hlt2)
      have C4 := Lib.hid (B4.out.trans (b4.mono B4.out.size))
      have hlt3 : w3.heap.size < w4.heap.size := by have := b4.size; simp at this; omega
      clear b4 D4
      unfold tokA
      go_wp2_with (fail)
      have B5 := Lib.hid (below_new C4.out (.cells #[.int .i64 3, .string ⟨#[]⟩, .string ⟨X3.data.toList.toArray⟩, .slice ad3 len3 cap3, .bool false] 25))
      refine (HR4 _ (HW.out.below B5.out)).out.mono ?_
      rintro e w5 ⟨t, ad4, len4, cap4, n, ok, rfl, -, hv, b5⟩
      have D5 := Lib.hid (((Below.refl w4.heap.size w4).alloc (Nat.le_refl _) _).trans (b5.mono (by simp)))
      have T3 := Lib.hid ((tokAt_new w4 ⟨3, [], X3.data.toList, [], false⟩ ad3 len3 cap3 25).below b5 (by simp))
      have T1 := Lib.hid (T1.out.below D5.out (by omega))
      have T2 := Lib.hid (T2.out.below D5.out hlt3)
      have C5 := Lib.hid (B5.out.trans (b5.mono B5.out.size))
      have hlt4 : w4.heap.size < w5.heap.size := by have := b5.size; simp at this; omega
      clear b5 D5
      rcases HV4.out with h4 | h4
      · rw [h4] at hv
        simp only [Prod.mk.injEq] at hv
        obtain ⟨rfl, rfl, rfl⟩ := hv
        have E5 := Lib.hid ((Below.refl w5.heap.size w5).alloc (Nat.le_refl _) (.cells #[.int .i64 3, .string ⟨#[]⟩, .string ⟨X4.data.toList.toArray⟩, .slice ad4 len4 cap4, .bool false] 25))
        obtain ⟨-, -, x2, -, -⟩ := T1.out.below E5.out (by omega)
        obtain ⟨-, -, y2, -, -⟩ := T2.out.below E5.out (by omega)
        obtain ⟨-, -, z2, -, -⟩ := T3.out.below E5.out hlt4
        clear h4
        unfold tokA
        go_wp2
        go_ret
        exact ⟨ret_bool (by simp), below_new C5.out _⟩
      · rw [h4] at hv
        simp only [Prod.mk.injEq] at hv
        obtain ⟨rfl, rfl, rfl⟩ := hv
        have E5 := Lib.hid ((Below.refl w5.heap.size w5).alloc (Nat.le_refl _) (.cells #[.int .i64 0, .string ⟨#[]⟩, .string ⟨#[]⟩, .slice ad4 len4 cap4, .bool false] 25))
        obtain ⟨-, -, x2, -, -⟩ := T1.out.below E5.out (by omega)
        obtain ⟨-, -, y2, -, -⟩ := T2.out.below E5.out (by omega)
        obtain ⟨-, -, z2, -, -⟩ := T3.out.below E5.out hlt4
        clear h4
        unfold tokA zeroT
        go_wp2
        all_goals go_ret
        all_goals exact ⟨ret_bool (by simp), below_new C5.out _⟩
  -- go_wp2
  -- go_ret
  -- exact ⟨rfl, by repeat (first | exact Grown.refl _ | apply Grown.drew | apply Grown.alloc)⟩

set_option maxRecDepth 100000 in
theorem lifted (os : Os) (started : os.Started) (H : Type) (enc : TypeId × Value → H) :
    ReturnsInHanded {} Try.checked os 7 .any (Rows.commentOpenSpec.pre6 enc Try.prog Try.f7 Rows.commentOpenRow.domain false) (Rows.commentOpenSpec.post enc Try.prog Try.f7 false true false false) := by
  refine returnsInHanded_of_change (C := Try.checked) own started (by kernel_rfl) Try.func7
    (ChangeSpec.witness6 (enc := enc) (C := Try.checked) false ⟨#[], #[.string ByteArray.empty], []⟩ 8 (by kernel_rfl) (by kernel_rfl) (by kernel_rfl) (by kernel_rfl)) ?_
  intro W base args ds gs before hval0 hW hcnd _
  have hval : ∀ (j : Nat) t v, Try.f7.params[j]? = some t → args[j]? = some v → Value.okWide Try.prog W .any base t v := hval0
  have hW' := hW
  obtain ⟨p, q, hA0, hV, rfl, hfz, hnd⟩ := hW
  have hA : DataW.TrodAll enc Try.prog W 0 (fun _ => true) true Try.f7.params.toList args.toList ds p := hA0
  rw [Try.params7] at hA hval
  obtain ⟨v0, vs0, d0, ds0, p0, q0, hargs, rfl, rfl, h0, r0⟩ := trodAll_cons hA
  obtain ⟨rfl, rfl, rfl⟩ := trodAll_nil r0
  obtain rfl : args = #[v0] := by cases args; simp_all
  obtain ⟨rfl, rfl⟩ := trodVars_none hV
  obtain ⟨a0, rfl, rfl, rfl, w0⟩ := open_string Try.underlying9 (hval 0 9 v0 rfl rfl) h0
  clear hA0 hval0
  refine (walk a0 w0 W).mono fun e W' ⟨he, bel⟩ => ?_
  subst he
  exact ⟨_, rfl, _, _, _, [], _, [], hW', trodAll_mk1 (shut_bool Try.underlying4 _), (trodAll_cons_mk (shut_string Try.underlying9 w0) trodAll_mk0), rfl, bel.frame _, fun h => by cases h⟩

theorem over : Rows.commentOpenRow.holds Try.pinned (OpenSpec.ofChange Rows.commentOpenSpec) :=
  OpenClaim.holds_of_wide 7 Try.f7 rfl rfl rfl rfl rfl rfl rfl ⟨rfl, rfl, rfl, rfl, rfl⟩ rfl rfl rfl rfl rfl (by kernel_rfl) Try.func7 (by kernel_rfl)
    (of_decide_eq_true (by kernel_rfl)) (by unfold Func.isWrapper; first | (rw [if_pos (by decide +kernel)]; kernel_rfl) | (rw [if_neg (by decide +kernel)]; exact ⟨rfl, rfl⟩))
    (fun os started H enc _ => lifted os started H enc)

/-- ████ THE STATEMENT ████ -/
theorem proved : Rows.CommentOpenSaid :=
  over
end Go.Proofs.Ytjcmpmijbngjnaa.commentOpen
