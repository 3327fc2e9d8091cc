/-
  The law CommentEnds of flail/flaillaw10 answers true for every input, and changes nothing that was there. No condition.
-/
import Derived.Test.YtjcmpmijbngjnaaRows
import Derived.Test.YtjcmpmijbngjnaaComAwake
import Derived.WalkKit
import Derived.ProofKit
import Derived.ChangeOld
import Derived.Below
import Derived.OpenShut
import Derived.ShutString
namespace Go.Proofs.Ytjcmpmijbngjnaa.commentEnds
open Go.ChangeShapes Go.WideShapes Go.ChangeAt Go.RowKit
open Go.ChangeMaps (open_string shut_string)
set_option linter.unusedVariables false      -- a walk need not use every 'w<i>' (that an integer argument fits its kind)

theorem own : ownKnob Try.prog.godebug = none := by kernel_rfl

theorem opt_at (s : ByteArray) (i : Nat) (h : i < s.size) : s.data.toList[i]? = some s[i] := by
  rw [List.getElem?_eq_getElem (by rw [← Lib.size_eq]; exact h)]; rfl
/-- what is asked of each byte -/
structure EdgeOk (l : Txt) (i : Nat) : Prop where
  zero : l[i]? ≠ some 0
  edge : i = 0 ∨ i + 1 = l.length → l[i]? ≠ some 45
  first : i = 0 → l[i]? ≠ some 62
  two : ∀ j, i = j + 1 → l[i]? = some 45 → l[j]? ≠ some 45
theorem edges (l : Txt) (h : ∀ i, i < l.length → EdgeOk l i) : OpenT l ∧ 0 ∉ l := by
  have lt : ∀ (i : Nat) (c : UInt8), l[i]? = some c → i < l.length := fun i c e => (List.getElem?_eq_some_iff.1 e).1
  refine ⟨⟨fun i h1 h2 => ?_, fun e => ?_, fun e => ?_, fun e => ?_⟩, fun e => ?_⟩
  · exact (h (i + 1) (lt _ _ h2)).two i rfl h2 h1
  · rw [List.getLast?_eq_getElem?] at e
    have := lt _ _ e
    exact (h _ this).edge (.inr (by omega)) e
  · rw [List.head?_eq_getElem?] at e
    exact (h _ (lt _ _ e)).edge (.inl rfl) e
  · rw [List.head?_eq_getElem?] at e
    exact (h _ (lt _ _ e)).first rfl e
  · obtain ⟨i, hi⟩ := List.mem_iff_getElem?.1 e
    exact (h _ (lt _ _ hi)).zero hi
set_option maxRecDepth 100000 in
set_option maxHeartbeats 8000000 in
theorem walk (a0 : ByteArray) (a1 : ByteArray) (a2 : Bool) (w0 : a0.size ≤ maxLen) (w1 : a1.size ≤ maxLen) (w : World) :
    Calls Try.prog 4 #[.string a0, .string a1, .bool a2] w fun e w' => e = .returned (.bool true) ∧ Below w.heap.size w w' := by
  clear w0 w1
  have HW := Lib.hid (laid_here w)
  skip
  by_cases hlen : 300 < a0.size ∨ 300 < a1.size
  · have hc : decide ((300 : Int) < (a0.size : Int)) = true ∨ decide ((300 : Int) < (a0.size : Int)) = false ∧ decide ((300 : Int) < (a1.size : Int)) = true := by
      simp only [decide_eq_true_eq, decide_eq_false_iff_not]; omega
    clear hlen
    rcases hc with hc | ⟨hc, hd⟩
    all_goals
      go_enter Try.func4, Try.ntmps4
      go_wp2_with (fail)
      refine (comAwake_any w HW.out).mono ?_
      rintro e w1 ⟨rfl, c1⟩
      go_wp2
      go_ret
      exact ⟨rfl, c1⟩
  have hs0 : a0.size ≤ 300 := by omega
  have hs1 : a1.size ≤ 300 := by omega
  have d0 : decide ((300 : Int) < (a0.size : Int)) = false := decide_eq_false (by omega)
  have d1 : decide ((300 : Int) < (a1.size : Int)) = false := decide_eq_false (by omega)
  clear hlen
  go_enter Try.func4, Try.ntmps4
  go_wp2_with (fail)
  refine (comAwake_any w HW.out).mono ?_
  rintro e w1 ⟨rfl, c1⟩
  go_wp2
  clear d0 d1
  go_loopw [8] (fun v wr => ∃ i : Nat, v = .int .i64 (i : Int) ∧ w1 = wr ∧ i ≤ a0.size ∧ Hid (∀ j, j < i → EdgeOk a0.data.toList j)) (fun v _ => a0.size - (intOf v).toNat)
  case atStart => exact ⟨0, rfl, rfl, Nat.zero_le _, Lib.hid fun j h => absurd h (by omega)⟩
  case round =>
    obtain ⟨i, rfl, rfl, hi, HI⟩ := hrel
    by_cases hlt : i < a0.size
    · have ho := opt_at a0 i hlt
      have HO := Lib.hid ho
      clear ho
      have hnx : EdgeOk a0.data.toList i → ∀ j, j < i + 1 → EdgeOk a0.data.toList j := fun h j hj => by
        rcases Nat.lt_or_eq_of_le (Nat.le_of_lt_succ hj) with h1 | rfl
        · exact HI.out j h1
        · exact h
      have HNX := Lib.hid hnx
      clear hnx
      by_cases c0 : a0[i] = 0
      · have b0 : (((a0[i].toNat : Nat) : Int) == 0) = true := by rw [c0]; rfl
        clear c0
        cases hb1 : ((i : Int) == 0) <;> cases hb2 : ((i : Int) == (a0.size : Int) - 1)
        all_goals
          go_wp2
          go_ret
          exact ⟨rfl, c1⟩
      have b0 : (((a0[i].toNat : Nat) : Int) == 0) = false := by
        rw [beq_eq_false_iff_ne]; exact fun h => c0 (u8_eq _ 0 (by decide) h)
      by_cases hi0 : i = 0
      · subst hi0
        by_cases c45 : a0[0] = 45
        · have b45 : (((a0[0].toNat : Nat) : Int) == 45) = true := by rw [c45]; rfl
          clear c0 c45
          go_wp2
          go_ret
          exact ⟨rfl, c1⟩
        have b45 : (((a0[0].toNat : Nat) : Int) == 45) = false := by
          rw [beq_eq_false_iff_ne]; exact fun h => c45 (u8_eq _ 45 (by decide) h)
        by_cases c62 : a0[0] = 62
        · have b62 : (((a0[0].toNat : Nat) : Int) == 62) = true := by rw [c62]; rfl
          clear c0 c45 c62
          go_wp2
          go_ret
          exact ⟨rfl, c1⟩
        have b62 : (((a0[0].toNat : Nat) : Int) == 62) = false := by
          rw [beq_eq_false_iff_ne]; exact fun h => c62 (u8_eq _ 62 (by decide) h)
        have HN := Lib.hid (HNX.out ⟨by rw [HO.out]; exact fun e => c0 (Option.some.inj e), fun _ => by rw [HO.out]; exact fun e => c45 (Option.some.inj e), fun _ => by rw [HO.out]; exact fun e => c62 (Option.some.inj e), fun j hj => by omega⟩)
        clear c0 c45 c62
        go_wp2
        go_roundw
        case rel => exact ⟨0 + 1, by go_num, trivial, by omega, HN⟩
        case measure => simp [intOf]; omega
      · obtain ⟨j, hj⟩ : ∃ j, i = j + 1 := ⟨i - 1, by omega⟩
        have HJ := Lib.hid hj
        have hj1 : (i : Int) - 1 = (j : Int) := by omega
        have hjlt : j < a0.size := by omega
        have e0 : ((i : Int) == 0) = false := by rw [beq_eq_false_iff_ne]; omega
        have e1 : decide ((0 : Int) < (i : Int)) = true := decide_eq_true (by omega)
        have hoj := opt_at a0 j hjlt
        have HOJ := Lib.hid hoj
        clear hoj hj hi0
        by_cases c45 : a0[i] = 45
        · have b45 : (((a0[i].toNat : Nat) : Int) == 45) = true := by rw [c45]; rfl
          by_cases hl : i + 1 = a0.size
          · have e2 : ((i : Int) == (a0.size : Int) - 1) = true := by rw [beq_iff_eq]; omega
            clear c0 c45 hl
            go_wp2
            go_ret
            exact ⟨rfl, c1⟩
          have e2 : ((i : Int) == (a0.size : Int) - 1) = false := by rw [beq_eq_false_iff_ne]; omega
          by_cases cj : a0[j] = 45
          · have bj : (((a0[j].toNat : Nat) : Int) == 45) = true := by rw [cj]; rfl
            clear c0 c45 cj hl
            go_wp2
            go_ret
            exact ⟨rfl, c1⟩
          have bj : (((a0[j].toNat : Nat) : Int) == 45) = false := by
            rw [beq_eq_false_iff_ne]; exact fun h => cj (u8_eq _ 45 (by decide) h)
          have HN := Lib.hid (HNX.out ⟨by rw [HO.out]; exact fun e => c0 (Option.some.inj e), fun h => by rw [← Lib.size_eq] at h; have := HJ.out; omega, fun h => by have := HJ.out; omega, fun k hk _ => by
            have : k = j := by have := HJ.out; omega
            subst this; rw [HOJ.out]; exact fun e => cj (Option.some.inj e)⟩)
          clear c0 c45 cj hl
          go_wp2
          go_roundw
          case rel => exact ⟨i + 1, by go_num, trivial, by omega, HN⟩
          case measure => simp [intOf]; omega
        · have b45 : (((a0[i].toNat : Nat) : Int) == 45) = false := by
            rw [beq_eq_false_iff_ne]; exact fun h => c45 (u8_eq _ 45 (by decide) h)
          have HN := Lib.hid (HNX.out ⟨by rw [HO.out]; exact fun e => c0 (Option.some.inj e), fun _ => by rw [HO.out]; exact fun e => c45 (Option.some.inj e), fun h => by have := HJ.out; omega, fun k hk h => by rw [HO.out] at h; exact (c45 (Option.some.inj h)).elim⟩)
          clear c0 c45
          cases hb2 : ((i : Int) == (a0.size : Int) - 1)
          all_goals
            go_wp2
            go_roundw
            case rel => exact ⟨i + 1, by go_num, trivial, by omega, HN⟩
            case measure => simp [intOf]; omega
    · obtain rfl : i = a0.size := by omega
      have hO := edges a0.data.toList (fun j hj => HI.out j (by rw [Lib.size_eq]; exact hj))
      have hso : a0.size ≤ 300 := hs0
      have e1 : ∀ E : ByteArray, (⟨#[60, 33, 45, 45]⟩ ++ a0 ++ E ++ a1 : ByteArray).data.toList = [60, 33, 45, 45] ++ a0.data.toList ++ E.data.toList ++ a1.data.toList := fun E => by
        simp only [ByteArray.data_append, Array.toList_append]
      have e2 : (⟨#[60, 33, 45, 45]⟩ ++ a0 : ByteArray).data.toList = [60, 33, 45, 45] ++ a0.data.toList := by
        simp only [ByteArray.data_append, Array.toList_append]
      have z1 : ∀ E : ByteArray, (⟨#[60, 33, 45, 45]⟩ ++ a0 ++ E : ByteArray).size = 4 + a0.size + E.size := fun E => by
        rw [ByteArray.size_append, ByteArray.size_append]; rfl
      have HX : Hid (∀ (E : ByteArray) (k : Nat), (E.data.toList = [45, 45, 62] ∧ k = 3 ∨ E.data.toList = [45, 45, 33, 62] ∧ k = 4) →
          comV (⟨#[60, 33, 45, 45]⟩ ++ a0 ++ E ++ a1 : ByteArray).data.toList 0 = (⟨3, [], a0.data.toList, [], false⟩, (((⟨#[60, 33, 45, 45]⟩ ++ a0 ++ E : ByteArray).size : Nat) : Int), true) ∧
          comV (⟨#[60, 33, 45, 45]⟩ ++ a0 : ByteArray).data.toList 0 = (⟨3, [], a0.data.toList, [], false⟩, (a0.size : Int) + 4, true)) := Lib.hid (fun E k h => by
        obtain ⟨t1, t2⟩ := told_ends a0.data.toList a1.data.toList E.data.toList k hO.1 hO.2 h
        rw [e1, e2, t1, t2, z1]
        have hk : E.size = k := by
          rw [Lib.size_eq]
          rcases h with ⟨h, rfl⟩ | ⟨h, rfl⟩ <;> (rw [h]; rfl)
        rw [hk, ← Lib.size_eq]
        exact ⟨by simp only [Prod.mk.injEq, true_and, and_true]; omega, by simp only [Prod.mk.injEq, true_and, and_true]; omega⟩)
      have HR1 := fun E h1 w h => Lib.hid (com_any (⟨#[60, 33, 45, 45]⟩ ++ a0 ++ E ++ a1) 0 w (by rw [ByteArray.size_append, z1]; have : E.size ≤ 4 := h1; omega) (by decide) h)
      have HR2 := fun w h => Lib.hid (com_any (⟨#[60, 33, 45, 45]⟩ ++ a0) 0 w (by rw [ByteArray.size_append]; have : (⟨#[60, 33, 45, 45]⟩ : ByteArray).size = 4 := rfl; omega) (by decide) h)
      obtain ⟨P, hP⟩ : ∃ P : ByteArray, ⟨#[60, 33, 45, 45]⟩ = P := ⟨_, rfl⟩
      have hPs : P.size = 4 := by rw [← hP]; rfl
      clear hO e1 e2 z1
      have g0 : ∀ E : ByteArray, E.size ≤ 4 → ¬ 9223372036854775807 < (⟨#[60, 33, 45, 45]⟩ : ByteArray).size + a0.size ∧ ¬ 9223372036854775807 < (⟨#[60, 33, 45, 45]⟩ ++ a0 : ByteArray).size + E.size ∧ ¬ 9223372036854775807 < (⟨#[60, 33, 45, 45]⟩ ++ a0 ++ E : ByteArray).size + a1.size := fun E hE => by
        rw [hP]; simp only [ByteArray.size_append]; omega
      clear hP hPs P
      cases a2
      · have hv := HX.out ⟨#[45, 45, 62]⟩ 3 (.inl ⟨rfl, rfl⟩)
        have HV1 := Lib.hid hv.1
        have HV2 := Lib.hid hv.2
        have HR1 := HR1 ⟨#[45, 45, 62]⟩ (by decide)
        obtain ⟨g1, g2, g3⟩ := g0 ⟨#[45, 45, 62]⟩ (by decide)
        clear hv HX g0
        go_wp2_with (fail)
        refine (HR1 _ (HW.out.below c1)).out.mono ?_
        rintro e w2 ⟨t, ad1, len1, cap1, n, ok, rfl, -, hv, b2⟩
        rw [HV1.out] at hv
        simp only [Prod.mk.injEq] at hv
        obtain ⟨rfl, rfl, rfl⟩ := hv
        have C2 := Lib.hid (c1.trans (b2.mono c1.size))
        clear b2
        unfold tokA
        go_wp2_with (fail)
        have B3 := Lib.hid (below_new C2.out (.cells #[.int .i64 3, .string ⟨#[]⟩, .string ⟨a0.data.toList.toArray⟩, .slice ad1 len1 cap1, .bool false] 25))
        refine (HR2 _ (HW.out.below B3.out)).out.mono ?_
        rintro e w3 ⟨t, ad2, len2, cap2, n, ok, rfl, -, hv, b3⟩
        rw [HV2.out] at hv
        simp only [Prod.mk.injEq] at hv
        obtain ⟨rfl, rfl, rfl⟩ := hv
        have T2 := Lib.hid ((tokAt_new w2 ⟨3, [], a0.data.toList, [], false⟩ ad1 len1 cap1 25).below b3 (by simp))
        have B4 := Lib.hid (B3.out.trans (b3.mono B3.out.size))
        have hlt2 : w2.heap.size < w3.heap.size := by have := b3.size; simp at this; omega
        clear b3
        obtain ⟨-, -, x2, -, -⟩ := T2.out.below ((Below.refl w3.heap.size w3).alloc (Nat.le_refl _) (.cells #[.int .i64 3, .string ⟨#[]⟩, .string ⟨a0.data.toList.toArray⟩, .slice ad2 len2 cap2, .bool false] 25)) hlt2
        unfold tokA
        go_wp2
        go_ret
        have B5 := below_new B4.out (.cells #[.int .i64 3, .string ⟨#[]⟩, .string ⟨a0.data.toList.toArray⟩, .slice ad2 len2 cap2, .bool false] 25)
        exact ⟨ret_bool (by simp), B5⟩
      · have hv := HX.out ⟨#[45, 45, 33, 62]⟩ 4 (.inr ⟨rfl, rfl⟩)
        have HV1 := Lib.hid hv.1
        have HV2 := Lib.hid hv.2
        have HR1 := HR1 ⟨#[45, 45, 33, 62]⟩ (by decide)
        obtain ⟨g1, g2, g3⟩ := g0 ⟨#[45, 45, 33, 62]⟩ (by decide)
        clear hv HX g0
        go_wp2_with (fail)
        refine (HR1 _ (HW.out.below c1)).out.mono ?_
        rintro e w2 ⟨t, ad1, len1, cap1, n, ok, rfl, -, hv, b2⟩
        rw [HV1.out] at hv
        simp only [Prod.mk.injEq] at hv
        obtain ⟨rfl, rfl, rfl⟩ := hv
        have C2 := Lib.hid (c1.trans (b2.mono c1.size))
        clear b2
        unfold tokA
        go_wp2_with (fail)
        have B3 := Lib.hid (below_new C2.out (.cells #[.int .i64 3, .string ⟨#[]⟩, .string ⟨a0.data.toList.toArray⟩, .slice ad1 len1 cap1, .bool false] 25))
        refine (HR2 _ (HW.out.below B3.out)).out.mono ?_
        rintro e w3 ⟨t, ad2, len2, cap2, n, ok, rfl, -, hv, b3⟩
        rw [HV2.out] at hv
        simp only [Prod.mk.injEq] at hv
        obtain ⟨rfl, rfl, rfl⟩ := hv
        have T2 := Lib.hid ((tokAt_new w2 ⟨3, [], a0.data.toList, [], false⟩ ad1 len1 cap1 25).below b3 (by simp))
        have B4 := Lib.hid (B3.out.trans (b3.mono B3.out.size))
        have hlt2 : w2.heap.size < w3.heap.size := by have := b3.size; simp at this; omega
        clear b3
        obtain ⟨-, -, x2, -, -⟩ := T2.out.below ((Below.refl w3.heap.size w3).alloc (Nat.le_refl _) (.cells #[.int .i64 3, .string ⟨#[]⟩, .string ⟨a0.data.toList.toArray⟩, .slice ad2 len2 cap2, .bool false] 25)) hlt2
        unfold tokA
        go_wp2
        go_ret
        have B5 := below_new B4.out (.cells #[.int .i64 3, .string ⟨#[]⟩, .string ⟨a0.data.toList.toArray⟩, .slice ad2 len2 cap2, .bool false] 25)
        exact ⟨ret_bool (by simp), B5⟩
  -- go_wp2
  -- go_ret
  -- exact ⟨rfl, by repeat (first | exact Grown.refl _ | apply Grown.drew | apply Grown.alloc)⟩

set_option maxRecDepth 100000 in
theorem lifted (os : Os) (started : os.Started) (H : Type) (enc : TypeId × Value → H) :
    ReturnsInHanded {} Try.checked os 4 .any (Rows.commentEndsSpec.pre6 enc Try.prog Try.f4 Rows.commentEndsRow.domain false) (Rows.commentEndsSpec.post enc Try.prog Try.f4 false true false false) := by
  refine returnsInHanded_of_change (C := Try.checked) own started (by kernel_rfl) Try.func4
    (ChangeSpec.witness6 (enc := enc) (C := Try.checked) false ⟨#[], #[.string ByteArray.empty, .string ByteArray.empty, .bool false], []⟩ 8 (by kernel_rfl) (by kernel_rfl) (by kernel_rfl) (by kernel_rfl)) ?_
  intro W base args ds gs before hval0 hW hcnd _
  have hval : ∀ (j : Nat) t v, Try.f4.params[j]? = some t → args[j]? = some v → Value.okWide Try.prog W .any base t v := hval0
  have hW' := hW
  obtain ⟨p, q, hA0, hV, rfl, hfz, hnd⟩ := hW
  have hA : DataW.TrodAll enc Try.prog W 0 (fun _ => true) true Try.f4.params.toList args.toList ds p := hA0
  rw [Try.params4] at hA hval
  obtain ⟨v0, vs0, d0, ds0, p0, q0, hargs, rfl, rfl, h0, r0⟩ := trodAll_cons hA
  obtain ⟨v1, vs1, d1, ds1, p1, q1, rfl, rfl, rfl, h1, r1⟩ := trodAll_cons r0
  obtain ⟨v2, vs2, d2, ds2, p2, q2, rfl, rfl, rfl, h2, r2⟩ := trodAll_cons r1
  obtain ⟨rfl, rfl, rfl⟩ := trodAll_nil r2
  obtain rfl : args = #[v0, v1, v2] := by cases args; simp_all
  obtain ⟨rfl, rfl⟩ := trodVars_none hV
  obtain ⟨a0, rfl, rfl, rfl, w0⟩ := open_string Try.underlying9 (hval 0 9 v0 rfl rfl) h0
  obtain ⟨a1, rfl, rfl, rfl, w1⟩ := open_string Try.underlying9 (hval 1 9 v1 rfl rfl) h1
  obtain ⟨a2, rfl, rfl, rfl⟩ := open_bool Try.underlying4 (hval 2 4 v2 rfl rfl) h2
  clear hA0 hval0
  refine (walk a0 a1 a2 w0 w1 W).mono fun e W' ⟨he, bel⟩ => ?_
  subst he
  exact ⟨_, rfl, _, _, _, [], _, [], hW', trodAll_mk1 (shut_bool Try.underlying4 _), (trodAll_cons_mk (shut_string Try.underlying9 w0) (trodAll_cons_mk (shut_string Try.underlying9 w1) (trodAll_cons_mk (shut_bool Try.underlying4 _) trodAll_mk0))), rfl, bel.frame _, fun h => by cases h⟩

theorem over : Rows.commentEndsRow.holds Try.pinned (OpenSpec.ofChange Rows.commentEndsSpec) :=
  OpenClaim.holds_of_wide 4 Try.f4 rfl rfl rfl rfl rfl rfl rfl ⟨rfl, rfl, rfl, rfl, rfl⟩ rfl rfl rfl rfl rfl (by kernel_rfl) Try.func4 (by kernel_rfl)
    (of_decide_eq_true (by kernel_rfl)) (by unfold Func.isWrapper; first | (rw [if_pos (by decide +kernel)]; kernel_rfl) | (rw [if_neg (by decide +kernel)]; exact ⟨rfl, rfl⟩))
    (fun os started H enc _ => lifted os started H enc)

/-- ████ THE STATEMENT ████ -/
theorem proved : Rows.CommentEndsSaid :=
  over
end Go.Proofs.Ytjcmpmijbngjnaa.commentEnds
