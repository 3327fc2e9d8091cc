/-
  The law DoctypeRest of flail/flaillaw11 answers true for every input, and changes nothing that was there. No condition.
-/
import Derived.Test.YtbceopiipigljaaRows
import Derived.Test.YtbceopiipigljaaDtAwake
import Derived.WalkKit
import Derived.ProofKit
import Derived.ChangeOld
import Derived.Below
import Derived.OpenShut
import Derived.ShutString
namespace Go.Proofs.Ytbceopiipigljaa.doctypeRest
open Go.ChangeShapes Go.WideShapes Go.ChangeAt Go.RowKit
open Go.ChangeMaps (open_string shut_string)
set_option linter.unusedVariables false      -- a walk need not use every 'w<i>' (that an integer argument fits its kind)

theorem own : ownKnob Try.prog.godebug = none := by kernel_rfl

theorem clean_no62 : ∀ l : Txt, 62 ∉ l → 62 ∉ cleanL l
  | [], _ => by simp [cleanL]
  | c :: l, h => by
    rw [List.mem_cons, not_or] at h
    have ih := clean_no62 l h.2
    have e := cleanL_app [c] l
    rw [List.singleton_append] at e
    rw [e, List.mem_append, not_or]
    refine ⟨?_, ih⟩
    by_cases hc : c = 0
    · subst hc; decide
    · rw [cleanL_same [c] (by simpa using Ne.symm hc)]
      simpa using h.1
theorem tw_cut (p : UInt8 → Bool) : ∀ (l r : Txt) (c : UInt8), p c = false → (l ++ c :: r).takeWhile p = l.takeWhile p
  | [], r, c, h => by rw [List.nil_append, List.takeWhile_cons, h]; rfl
  | d :: l, r, c, h => by
    rw [List.cons_append, List.takeWhile_cons, List.takeWhile_cons, tw_cut p l r c h]
theorem rest_told (s m : Txt) : dctV ([60, 33, 100, 111, 99, 84, 89, 80, 69] ++ s ++ [62] ++ m) 0 = (dctT (s.takeWhile (· != 62)), (((s.takeWhile (· != 62)).length : Nat) : Int) + 10, true) := by
  have e : [60, 33, 100, 111, 99, 84, 89, 80, 69] ++ s ++ [62] ++ m = [60, 33, 100, 111, 99, 84, 89, 80, 69] ++ (s ++ 62 :: m) := by simp
  have hb : begD ([60, 33, 100, 111, 99, 84, 89, 80, 69] ++ (s ++ 62 :: m)) = true := by
    unfold begD
    rw [lowL_app, List.isPrefixOf_iff_prefix]
    exact ⟨lowL (s ++ 62 :: m), rfl⟩
  have hd : ([60, 33, 100, 111, 99, 84, 89, 80, 69] ++ (s ++ 62 :: m)).drop (0 + 9) = s ++ 62 :: m := rfl
  have h := dct_in _ 0 (by rw [List.drop_zero]; exact hb)
  have hk : seekP (· != 62) ([60, 33, 100, 111, 99, 84, 89, 80, 69] ++ (s ++ 62 :: m)) (0 + 9) = 9 + (s.takeWhile (· != 62)).length := by
    unfold seekP
    rw [hd, tw_cut _ _ _ _ (by decide)]
  rw [hk, hd, tw_cut _ _ _ _ (by decide)] at h
  have hl := (List.takeWhile_sublist (l := s) (· != 62)).length_le
  rw [if_pos (by simp only [List.length_append, List.length_cons, List.length_nil]; omega)] at h
  rw [e, show (0 : Int) = ((0 : Nat) : Int) from rfl, h]
  simp only [Prod.mk.injEq, true_and, and_true]
  omega
theorem not_in (X : ByteArray) (c : UInt8) (n : Nat) (hn : n < 256) (hc : c = UInt8.ofNat n) (h : c ∉ X.data.toList) (i : Nat) (hi : i < X.size) : (((X[i].toNat : Nat) : Int) == (n : Int)) = false := by
  rw [beq_eq_false_iff_ne]
  intro e
  have e0 : X[i] = c := hc ▸ u8_eq _ n hn e
  exact h (e0 ▸ Array.mem_toList_iff.2 (Array.getElem_mem hi))
set_option maxRecDepth 100000 in
set_option maxHeartbeats 8000000 in
theorem walk (a0 : ByteArray) (a1 : ByteArray) (w0 : a0.size ≤ maxLen) (w1 : a1.size ≤ maxLen) (w : World) :
    Calls Try.prog 7 #[.string a0, .string a1] w fun e w' => e = .returned (.bool true) ∧ Below w.heap.size w w' := by
  clear w0 w1
  have HW := Lib.hid (dtLaid_here w)
  skip
  by_cases hlen : 300 < a0.size ∨ 300 < a1.size
  · have hc : decide ((300 : Int) < (a0.size : Int)) = true ∨ decide ((300 : Int) < (a0.size : Int)) = false ∧ decide ((300 : Int) < (a1.size : Int)) = true := by
      simp only [decide_eq_true_eq, decide_eq_false_iff_not]; omega
    clear hlen
    rcases hc with hc | ⟨hc, hd⟩
    all_goals
      go_enter Try.func7, Try.ntmps7
      go_wp2_with (fail)
      refine (dtAwake_any w HW.out).mono ?_
      rintro e w1 ⟨rfl, c1⟩
      go_wp2
      go_ret
      exact ⟨rfl, c1⟩
  have hs0 : a0.size ≤ 300 := by omega
  have hs1 : a1.size ≤ 300 := by omega
  have d0 : decide ((300 : Int) < (a0.size : Int)) = false := decide_eq_false (by omega)
  have d1 : decide ((300 : Int) < (a1.size : Int)) = false := decide_eq_false (by omega)
  clear hlen
  have hv := rest_told a0.data.toList a1.data.toList
  have hz : (⟨#[60, 33, 100, 111, 99, 84, 89, 80, 69]⟩ ++ a0 ++ ⟨#[62]⟩ ++ a1 : ByteArray).data.toList = [60, 33, 100, 111, 99, 84, 89, 80, 69] ++ a0.data.toList ++ [62] ++ a1.data.toList := by
    simp only [ByteArray.data_append, Array.toList_append]
  rw [← hz] at hv
  have h9 : (⟨#[60, 33, 100, 111, 99, 84, 89, 80, 69]⟩ : ByteArray).size = 9 := rfl
  have h1 : (⟨#[62]⟩ : ByteArray).size = 1 := rfl
  have HR1 := fun w h => Lib.hid (dct_any (⟨#[60, 33, 100, 111, 99, 84, 89, 80, 69]⟩ ++ a0 ++ ⟨#[62]⟩ ++ a1) 0 w (by simp only [ByteArray.size_append]; omega) (by decide) h)
  have g1 : ¬ 9223372036854775807 < (⟨#[60, 33, 100, 111, 99, 84, 89, 80, 69]⟩ : ByteArray).size + a0.size := by omega
  have g2 : ¬ 9223372036854775807 < (⟨#[60, 33, 100, 111, 99, 84, 89, 80, 69]⟩ ++ a0 : ByteArray).size + (⟨#[62]⟩ : ByteArray).size := by simp only [ByteArray.size_append]; omega
  have g3 : ¬ 9223372036854775807 < (⟨#[60, 33, 100, 111, 99, 84, 89, 80, 69]⟩ ++ a0 ++ ⟨#[62]⟩ : ByteArray).size + a1.size := by simp only [ByteArray.size_append]; omega
  have hE0 : seekP (· != 62) a0.data.toList 0 = (a0.data.toList.takeWhile (· != 62)).length := by unfold seekP; rw [List.drop_zero, Nat.zero_add]
  obtain ⟨E, hE⟩ : ∃ E, (a0.data.toList.takeWhile (· != 62)).length = E := ⟨_, rfl⟩
  have hEl := (List.takeWhile_sublist (l := a0.data.toList) (· != 62)).length_le
  rw [← Lib.size_eq, hE] at hEl
  obtain ⟨X, hX⟩ : ∃ X : ByteArray, ⟨(cleanL (a0.data.toList.takeWhile (· != 62))).toArray⟩ = X := ⟨_, rfl⟩
  have hXl : X.data.toList = cleanL (a0.data.toList.takeWhile (· != 62)) := by rw [← hX, List.toList_toArray]
  have hXs : X.size ≤ 1048576 := by
    rw [Lib.size_eq, hXl]
    have := (cleanL_len (a0.data.toList.takeWhile (· != 62))).2
    omega
  have n62 : 62 ∉ X.data.toList := by
    rw [hXl]
    refine clean_no62 _ fun h => ?_
    have := List.all_eq_true.1 (List.all_takeWhile (l := a0.data.toList) (p := (· != 62))) _ h
    simp at this
  have n0 : 0 ∉ X.data.toList := by rw [hXl]; exact cleanL_no0 _
  have H62 := Lib.hid (not_in X 62 62 (by decide) rfl n62)
  have H0 := Lib.hid (not_in X 0 0 (by decide) rfl n0)
  rw [hE] at hv hE0
  have hv2 : dctV (⟨#[60, 33, 100, 111, 99, 84, 89, 80, 69]⟩ ++ a0 ++ ⟨#[62]⟩ ++ a1 : ByteArray).data.toList 0 = (⟨4, [], X.data.toList, [], false⟩, (E : Int) + 10, true) := by
    rw [hv]; unfold dctT; rw [hXl]
  have HV := Lib.hid hv2
  have HE0 := Lib.hid hE0
  clear hv hv2 hz h9 h1 hE hE0 hX hXl n62 n0
  go_enter Try.func7, Try.ntmps7
  go_wp2_with (fail)
  refine (dtAwake_any w HW.out).mono ?_
  rintro e w1 ⟨rfl, c1⟩
  go_wp2_with (fail)
  refine (HR1 _ (HW.out.below c1)).out.mono ?_
  rintro e w2 ⟨t, ad1, len1, cap1, n', ok, rfl, hr, hv, b2⟩
  rw [HV.out] at hv
  simp only [Prod.mk.injEq] at hv
  obtain ⟨rfl, rfl, rfl⟩ := hv
  obtain rfl : len1 = 0 := hr.1.symm
  have C2 := Lib.hid (c1.trans (b2.mono c1.size))
  clear b2 hr d0 d1
  unfold tokA
  go_wp2
  go_loopw [9] (fun v wr => ∃ i : Nat, v = .int .i64 (i : Int) ∧ w2.alloc (.cells #[.int .i64 4, .string ⟨#[]⟩, .string X, .slice ad1 0 cap1, .bool false] 25) = wr ∧ i ≤ a0.size ∧ Hid (seekP (· != 62) a0.data.toList i = E)) (fun v _ => a0.size - (intOf v).toNat)
  case atStart => exact ⟨0, rfl, rfl, Nat.zero_le _, HE0⟩
  case round =>
    obtain ⟨i, rfl, rfl, hi, HI⟩ := hrel
    by_cases hgo : ∃ h : i < a0.size, a0[i] ≠ 62
    · obtain ⟨hlt, hne⟩ := hgo
      have b62 : (((a0[i].toNat : Nat) : Int) == 62) = false := by
        rw [beq_eq_false_iff_ne]; exact fun h => hne (u8_eq _ 62 (by decide) h)
      have HN := Lib.hid ((seek_yes (· != 62) a0 i hlt (by simpa using hne)).symm.trans HI.out)
      clear hne
      go_wp2
      go_roundw
      case rel => exact ⟨i + 1, by go_num, by first | rfl | trivial, by omega, HN⟩
      case measure => simp [intOf]; omega
    · have hstop : ¬ i < a0.size ∨ ∃ h : i < a0.size, (((a0[i].toNat : Nat) : Int) == 62) = true := by
        by_cases h : i < a0.size
        · refine .inr ⟨h, ?_⟩
          have : a0[i] = 62 := Decidable.byContradiction fun e => hgo ⟨h, e⟩
          rw [this]; rfl
        · exact .inl h
      have hiE : i = E := by
        rcases hstop with h | ⟨h, hb⟩
        · exact (seek_end (· != 62) a0 i (by omega)).symm.trans HI.out
        · have : a0[i] = 62 := u8_eq _ 62 (by decide) (by simpa using hb)
          exact (seek_no (· != 62) a0 i h (by rw [this]; rfl)).symm.trans HI.out
      have HIE := Lib.hid hiE
      clear hgo hiE
      rcases hstop with hlt | ⟨hlt, hb⟩
      all_goals
        go_wp2
        go_loopw [10] (fun v wr => ∃ j : Nat, v = .int .i64 (j : Int) ∧ w2.alloc (.cells #[.int .i64 4, .string ⟨#[]⟩, .string X, .slice ad1 0 cap1, .bool false] 25) = wr ∧ j ≤ X.size) (fun v _ => X.size - (intOf v).toNat)
        case atStart => exact ⟨0, rfl, rfl, Nat.zero_le _⟩
        case round =>
          obtain ⟨j, rfl, rfl, hj⟩ := hrel
          by_cases hlj : j < X.size
          · have k62 : (((X[j].toNat : Nat) : Int) == 62) = false := H62.out j hlj
            have k0 : (((X[j].toNat : Nat) : Int) == 0) = false := H0.out j hlj
            go_wp2
            go_roundw
            case rel => exact ⟨j + 1, by go_num, by first | rfl | trivial, by omega⟩
            case measure => simp [intOf]; omega
          · have hx : j = X.size := by omega
            subst hx
            have hb2 : ((E : Int) + 10 == (i : Int) + 10) = true := by rw [HIE.out]; exact beq_self_eq_true _
            go_wp2
            go_ret
            exact ⟨ret_bool (by first | rfl | simp | (rw [HIE.out]; simp)), below_new C2.out _⟩
  -- go_wp2
  -- go_ret
  -- exact ⟨rfl, by repeat (first | exact Grown.refl _ | apply Grown.drew | apply Grown.alloc)⟩

set_option maxRecDepth 100000 in
theorem lifted (os : Os) (started : os.Started) (H : Type) (enc : TypeId × Value → H) :
    ReturnsInHanded {} Try.checked os 7 .any (Rows.doctypeRestSpec.pre6 enc Try.prog Try.f7 Rows.doctypeRestRow.domain false) (Rows.doctypeRestSpec.post enc Try.prog Try.f7 false true false false) := by
  refine returnsInHanded_of_change (C := Try.checked) own started (by kernel_rfl) Try.func7
    (ChangeSpec.witness6 (enc := enc) (C := Try.checked) false ⟨#[], #[.string ByteArray.empty, .string ByteArray.empty], []⟩ 8 (by kernel_rfl) (by kernel_rfl) (by kernel_rfl) (by kernel_rfl)) ?_
  intro W base args ds gs before hval0 hW hcnd _
  have hval : ∀ (j : Nat) t v, Try.f7.params[j]? = some t → args[j]? = some v → Value.okWide Try.prog W .any base t v := hval0
  have hW' := hW
  obtain ⟨p, q, hA0, hV, rfl, hfz, hnd⟩ := hW
  have hA : DataW.TrodAll enc Try.prog W 0 (fun _ => true) true Try.f7.params.toList args.toList ds p := hA0
  rw [Try.params7] at hA hval
  obtain ⟨v0, vs0, d0, ds0, p0, q0, hargs, rfl, rfl, h0, r0⟩ := trodAll_cons hA
  obtain ⟨v1, vs1, d1, ds1, p1, q1, rfl, rfl, rfl, h1, r1⟩ := trodAll_cons r0
  obtain ⟨rfl, rfl, rfl⟩ := trodAll_nil r1
  obtain rfl : args = #[v0, v1] := by cases args; simp_all
  obtain ⟨rfl, rfl⟩ := trodVars_none hV
  obtain ⟨a0, rfl, rfl, rfl, w0⟩ := open_string Try.underlying9 (hval 0 9 v0 rfl rfl) h0
  obtain ⟨a1, rfl, rfl, rfl, w1⟩ := open_string Try.underlying9 (hval 1 9 v1 rfl rfl) h1
  clear hA0 hval0
  refine (walk a0 a1 w0 w1 W).mono fun e W' ⟨he, bel⟩ => ?_
  subst he
  exact ⟨_, rfl, _, _, _, [], _, [], hW', trodAll_mk1 (shut_bool Try.underlying4 _), (trodAll_cons_mk (shut_string Try.underlying9 w0) (trodAll_cons_mk (shut_string Try.underlying9 w1) trodAll_mk0)), rfl, bel.frame _, fun h => by cases h⟩

theorem over : Rows.doctypeRestRow.holds Try.pinned (OpenSpec.ofChange Rows.doctypeRestSpec) :=
  OpenClaim.holds_of_wide 7 Try.f7 rfl rfl rfl rfl rfl rfl rfl ⟨rfl, rfl, rfl, rfl, rfl⟩ rfl rfl rfl rfl rfl (by kernel_rfl) Try.func7 (by kernel_rfl)
    (of_decide_eq_true (by kernel_rfl)) (by unfold Func.isWrapper; first | (rw [if_pos (by decide +kernel)]; kernel_rfl) | (rw [if_neg (by decide +kernel)]; exact ⟨rfl, rfl⟩))
    (fun os started H enc _ => lifted os started H enc)

/-- ████ THE STATEMENT ████ -/
theorem proved : Rows.DoctypeRestSaid :=
  over
end Go.Proofs.Ytbceopiipigljaa.doctypeRest
