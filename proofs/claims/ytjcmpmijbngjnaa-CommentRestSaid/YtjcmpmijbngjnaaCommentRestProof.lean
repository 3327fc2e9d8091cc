/-
  The law CommentRest of flail/flaillaw10 answers true for every input, and changes nothing that was there. No condition.
-/
import Derived.Test.YtjcmpmijbngjnaaRows
import Derived.Test.YtjcmpmijbngjnaaComAwake
import Derived.WalkKit
import Derived.ProofKit
import Derived.ChangeOld
import Derived.Below
import Derived.OpenShut
import Derived.ShutString
namespace Go.Proofs.Ytjcmpmijbngjnaa.commentRest
open Go.ChangeShapes Go.WideShapes Go.ChangeAt Go.RowKit
open Go.ChangeMaps (open_string shut_string)
set_option linter.unusedVariables false      -- a walk need not use every 'w<i>' (that an integer argument fits its kind)

theorem own : ownKnob Try.prog.godebug = none := by kernel_rfl

theorem no_zero (l : Txt) (X : ByteArray) (hX : (⟨(cleanL l).toArray⟩ : ByteArray) = X) (i : Nat) (h : i < X.size) : (((X[i].toNat : Nat) : Int) == 0) = false := by
  rw [beq_eq_false_iff_ne]
  intro e
  have e0 : X[i] = 0 := u8_eq _ 0 (by decide) e
  have hm : X[i] ∈ X.data.toList := Array.mem_toList_iff.2 (Array.getElem_mem h)
  rw [e0, ← hX, List.toList_toArray] at hm
  exact cleanL_no0 l hm
set_option maxRecDepth 100000 in
set_option maxHeartbeats 8000000 in
theorem walk (a0 : ByteArray) (a1 : ByteArray) (w0 : a0.size ≤ maxLen) (w1 : a1.size ≤ maxLen) (w : World) :
    Calls Try.prog 6 #[.string a0, .string a1] w fun e w' => e = .returned (.bool true) ∧ Below w.heap.size w w' := by
  clear w0 w1
  have HW := Lib.hid (laid_here w)
  skip
  by_cases hlen : 300 < a0.size ∨ 300 < a1.size
  · have hc : decide ((300 : Int) < (a0.size : Int)) = true ∨ decide ((300 : Int) < (a0.size : Int)) = false ∧ decide ((300 : Int) < (a1.size : Int)) = true := by
      simp only [decide_eq_true_eq, decide_eq_false_iff_not]; omega
    clear hlen
    rcases hc with hc | ⟨hc, hd⟩
    all_goals
      go_enter Try.func6, Try.ntmps6
      go_wp2_with (fail)
      refine (comAwake_any w HW.out).mono ?_
      rintro e w1 ⟨rfl, c1⟩
      go_wp2
      go_ret
      exact ⟨rfl, c1⟩
  have hs0 : a0.size ≤ 300 := by omega
  have hs1 : a1.size ≤ 300 := by omega
  have d0 : decide ((300 : Int) < (a0.size : Int)) = false := decide_eq_false (by omega)
  have d1 : decide ((300 : Int) < (a1.size : Int)) = false := decide_eq_false (by omega)
  clear hlen
  have HR1 := fun w h => Lib.hid (com_any a0 0 w (by omega) (by decide) h)
  cases hb : begC a0.data.toList
  · have hv0 : comV a0.data.toList 0 = (zeroT, 0, false) := com_no _ 0 (by
      unfold cbegV
      rw [show (0 : Int).toNat = 0 from rfl, List.drop_zero, hb, Bool.and_false])
    have HV := Lib.hid hv0
    clear hv0 hb
    go_enter Try.func6, Try.ntmps6
    go_wp2_with (fail)
    refine (comAwake_any w HW.out).mono ?_
    rintro e w1 ⟨rfl, c1⟩
    go_wp2_with (fail)
    refine (HR1 _ (HW.out.below c1)).out.mono ?_
    rintro e w2 ⟨t, ad1, len1, cap1, n, ok, rfl, hr, hv, b2⟩
    rw [HV.out] at hv
    simp only [Prod.mk.injEq] at hv
    obtain ⟨rfl, rfl, rfl⟩ := hv
    have C2 := Lib.hid (c1.trans (b2.mono c1.size))
    have K2 := Lib.hid hr
    clear b2 hr
    unfold tokA
    go_wp2_with (fail)
    have B3 := Lib.hid (below_new C2.out (.cells #[.int .i64 0, .string ⟨#[]⟩, .string ⟨#[]⟩, .slice ad1 len1 cap1, .bool false] 25))
    refine (refSame9_any zeroT zeroT _ _ _ _ _ _ _ (K2.out.below ((Below.refl _ w2).alloc (Nat.le_refl _) _) (Nat.le_refl _)) (isRows_none _)).mono ?_
    rintro e w3 ⟨rfl, b3⟩
    go_wp2
    go_ret
    exact ⟨ret_bool (by simp), B3.out.trans (b3.mono B3.out.size)⟩
  · obtain ⟨r1, r2, r3, r4⟩ := told_rest a0.data.toList a1.data.toList hb
    obtain ⟨x, n, hR⟩ : ∃ x n, comR a0.data.toList = (x, n) := ⟨_, _, rfl⟩
    have hv := com_zero _ x n hb hR
    rw [hR] at r1 r2 r3 r4
    simp only at r1 r2 r3 r4
    rw [← Lib.size_eq] at r2 r3 r4
    have HV := Lib.hid hv
    obtain ⟨X, hX⟩ : ∃ X : ByteArray, ⟨(cleanL x).toArray⟩ = X := ⟨_, rfl⟩
    have hXs : X.size ≤ 1048576 := by
      rw [Lib.size_eq, ← hX, List.toList_toArray]
      have := (cleanL_len x).2
      omega
    have hz := no_zero x X hX
    have hXl : X.data.toList = cleanL x := by rw [← hX, List.toList_toArray]
    have hct : comT x = ⟨3, [], X.data.toList, [], false⟩ := by unfold comT; rw [hXl]
    rw [hct] at HV
    have hnc : n = a0.size ∨ n < a0.size ∧ ∃ j : Nat, ∃ hj : j < a0.size, (n : Int) - 1 = (j : Int) ∧ a0[j] = 62 ∧ comV (a0.extract 0 n ++ a1).data.toList 0 = (⟨3, [], X.data.toList, [], false⟩, (n : Int), true) := by
      by_cases h : n = a0.size
      · exact .inl h
      · obtain ⟨q1, q2, q3⟩ := r4 h
        refine .inr ⟨by omega, n - 1, by omega, by omega, ?_, ?_⟩
        · rw [List.getD_eq_getElem?_getD, List.getElem?_eq_getElem (by rw [← Lib.size_eq]; omega)] at q1
          exact q1
        · have e : (a0.extract 0 n ++ a1).data.toList = a0.data.toList.take n ++ a1.data.toList := by
            rw [ByteArray.data_append, Array.toList_append, Lib.extract_data, List.drop_zero, Nat.sub_zero]
          rw [e, com_zero _ x n q2 q3, hct]
    have HNC := Lib.hid hnc
    clear hv hR hb r3 r4 hct hXl hX hnc
    go_enter Try.func6, Try.ntmps6
    go_wp2_with (fail)
    refine (comAwake_any w HW.out).mono ?_
    rintro e w1 ⟨rfl, c1⟩
    go_wp2_with (fail)
    refine (HR1 _ (HW.out.below c1)).out.mono ?_
    rintro e w2 ⟨t, ad1, len1, cap1, n', ok, rfl, hr, hv, b2⟩
    rw [HV.out] at hv
    simp only [Prod.mk.injEq] at hv
    obtain ⟨rfl, rfl, rfl⟩ := hv
    have C2 := Lib.hid (c1.trans (b2.mono c1.size))
    have K2 := Lib.hid hr
    clear b2 hr d0 d1
    unfold tokA
    go_wp2
    go_loopw [9] (fun v wr => ∃ i : Nat, v = .int .i64 (i : Int) ∧ w2.alloc (.cells #[.int .i64 3, .string ⟨#[]⟩, .string X, .slice ad1 len1 cap1, .bool false] 25) = wr ∧ i ≤ X.size) (fun v _ => X.size - (intOf v).toNat)
    case atStart => exact ⟨0, rfl, rfl, Nat.zero_le _⟩
    case round =>
      obtain ⟨i, rfl, rfl, hi⟩ := hrel
      by_cases hlt : i < X.size
      · have b0 := hz i hlt
        clear hz
        go_wp2
        go_roundw
        case rel => exact ⟨i + 1, by go_num, by first | rfl | trivial, by omega⟩
        case measure => simp [intOf]; omega
      · obtain rfl : i = X.size := by omega
        clear hz
        have n0 : decide ((n : Int) < 2) = false := decide_eq_false (by omega)
        have n1 : decide ((a0.size : Int) < (n : Int)) = false := decide_eq_false (by omega)
        rcases HNC.out with hn | ⟨hn, j, hj, hj1, hj2, hv2⟩
        · have hb : ((n : Int) == (a0.size : Int)) = true := by rw [hn]; exact beq_self_eq_true _
          have HN := Lib.hid hn
          clear hn
          go_wp2
          go_ret
          exact ⟨rfl, below_new C2.out _⟩
        · have hb : ((n : Int) == (a0.size : Int)) = false := by rw [beq_eq_false_iff_ne]; omega
          have HV2 := Lib.hid hv2
          have HR2 := fun w h => Lib.hid (com_any (a0.extract 0 n ++ a1) 0 w (by rw [ByteArray.size_append, ByteArray.size_extract]; omega) (by decide) h)
          have g1 : ¬ 9223372036854775807 < (a0.extract 0 n).size + a1.size := by rw [ByteArray.size_extract]; omega
          have b62 : (((a0[j].toNat : Nat) : Int) == 62) = true := by rw [hj2]; rfl
          clear hv2 hj2
          have B3 := Lib.hid (below_new C2.out (.cells #[.int .i64 3, .string ⟨#[]⟩, .string X, .slice ad1 len1 cap1, .bool false] 25))
          go_wp2_with (fail)
          refine (HR2 _ (HW.out.below B3.out)).out.mono ?_
          rintro e w3 ⟨t, ad2, len2, cap2, n', ok, rfl, hr, hv, b3⟩
          rw [HV2.out] at hv
          simp only [Prod.mk.injEq] at hv
          obtain ⟨rfl, rfl, rfl⟩ := hv
          have K3 := Lib.hid hr
          clear hr
          have T2 := Lib.hid ((tokAt_new w2 ⟨3, [], X.data.toList, [], false⟩ ad1 len1 cap1 25).below b3 (by simp))
          have D3 := Lib.hid (((Below.refl w2.heap.size w2).alloc (Nat.le_refl _) (.cells #[.int .i64 3, .string ⟨#[]⟩, .string X, .slice ad1 len1 cap1, .bool false] 25)).trans (b3.mono (by simp)))
          have B4 := Lib.hid (B3.out.trans (b3.mono B3.out.size))
          have hlt2 : w2.heap.size < w3.heap.size := by have := b3.size; simp at this; omega
          clear b3
          obtain ⟨x0, x1, x2, x3, x4⟩ := T2.out.below ((Below.refl w3.heap.size w3).alloc (Nat.le_refl _) (.cells #[.int .i64 3, .string ⟨#[]⟩, .string X, .slice ad2 len2 cap2, .bool false] 25)) hlt2
          unfold tokA
          go_wp2_with (fail)
          refine (refSame9_any ⟨3, [], X.data.toList, [], false⟩ ⟨3, [], X.data.toList, [], false⟩ _ _ _ _ _ _ _ ((K2.out.below D3.out (Nat.le_refl _)).below ((Below.refl _ w3).alloc (Nat.le_refl _) _) (Nat.le_refl _)) (K3.out.below ((Below.refl _ w3).alloc (Nat.le_refl _) _) (Nat.le_refl _))).mono ?_
          rintro e w4 ⟨rfl, b4⟩
          have D4 := Lib.hid (((Below.refl w3.heap.size w3).alloc (Nat.le_refl _) _).trans (b4.mono (by simp)))
          have B5 := Lib.hid (B4.out.trans (D4.out.mono B4.out.size))
          clear x0 x1 x2 x3 x4
          go_wp2
          go_ret
          exact ⟨ret_bool (by simp), B5.out⟩
  -- go_wp2
  -- go_ret
  -- exact ⟨rfl, by repeat (first | exact Grown.refl _ | apply Grown.drew | apply Grown.alloc)⟩

set_option maxRecDepth 100000 in
theorem lifted (os : Os) (started : os.Started) (H : Type) (enc : TypeId × Value → H) :
    ReturnsInHanded {} Try.checked os 6 .any (Rows.commentRestSpec.pre6 enc Try.prog Try.f6 Rows.commentRestRow.domain false) (Rows.commentRestSpec.post enc Try.prog Try.f6 false true false false) := by
  refine returnsInHanded_of_change (C := Try.checked) own started (by kernel_rfl) Try.func6
    (ChangeSpec.witness6 (enc := enc) (C := Try.checked) false ⟨#[], #[.string ByteArray.empty, .string ByteArray.empty], []⟩ 8 (by kernel_rfl) (by kernel_rfl) (by kernel_rfl) (by kernel_rfl)) ?_
  intro W base args ds gs before hval0 hW hcnd _
  have hval : ∀ (j : Nat) t v, Try.f6.params[j]? = some t → args[j]? = some v → Value.okWide Try.prog W .any base t v := hval0
  have hW' := hW
  obtain ⟨p, q, hA0, hV, rfl, hfz, hnd⟩ := hW
  have hA : DataW.TrodAll enc Try.prog W 0 (fun _ => true) true Try.f6.params.toList args.toList ds p := hA0
  rw [Try.params6] at hA hval
  obtain ⟨v0, vs0, d0, ds0, p0, q0, hargs, rfl, rfl, h0, r0⟩ := trodAll_cons hA
  obtain ⟨v1, vs1, d1, ds1, p1, q1, rfl, rfl, rfl, h1, r1⟩ := trodAll_cons r0
  obtain ⟨rfl, rfl, rfl⟩ := trodAll_nil r1
  obtain rfl : args = #[v0, v1] := by cases args; simp_all
  obtain ⟨rfl, rfl⟩ := trodVars_none hV
  obtain ⟨a0, rfl, rfl, rfl, w0⟩ := open_string Try.underlying9 (hval 0 9 v0 rfl rfl) h0
  obtain ⟨a1, rfl, rfl, rfl, w1⟩ := open_string Try.underlying9 (hval 1 9 v1 rfl rfl) h1
  clear hA0 hval0
  refine (walk a0 a1 w0 w1 W).mono fun e W' ⟨he, bel⟩ => ?_
  subst he
  exact ⟨_, rfl, _, _, _, [], _, [], hW', trodAll_mk1 (shut_bool Try.underlying4 _), (trodAll_cons_mk (shut_string Try.underlying9 w0) (trodAll_cons_mk (shut_string Try.underlying9 w1) trodAll_mk0)), rfl, bel.frame _, fun h => by cases h⟩

theorem over : Rows.commentRestRow.holds Try.pinned (OpenSpec.ofChange Rows.commentRestSpec) :=
  OpenClaim.holds_of_wide 6 Try.f6 rfl rfl rfl rfl rfl rfl rfl ⟨rfl, rfl, rfl, rfl, rfl⟩ rfl rfl rfl rfl rfl (by kernel_rfl) Try.func6 (by kernel_rfl)
    (of_decide_eq_true (by kernel_rfl)) (by unfold Func.isWrapper; first | (rw [if_pos (by decide +kernel)]; kernel_rfl) | (rw [if_neg (by decide +kernel)]; exact ⟨rfl, rfl⟩))
    (fun os started H enc _ => lifted os started H enc)

/-- ████ THE STATEMENT ████ -/
theorem proved : Rows.CommentRestSaid :=
  over
end Go.Proofs.Ytjcmpmijbngjnaa.commentRest
