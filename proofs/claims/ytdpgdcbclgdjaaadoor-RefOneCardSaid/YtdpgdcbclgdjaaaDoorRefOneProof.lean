/-
  The law RefOne of flail/flaillaw07 answers true for every input, and changes nothing that was there. Condition, which the card ties to the program's text: when the call begins, the package variables that the row lists hold what that text lays in them (math/bits.deBruijn32tab, math/bits.deBruijn64tab, internal/strconv.uint64pow10, strconv.ErrRange, strconv.ErrSyntax, flail/number.others).
-/
import Derived.Test.YtdpgdcbclgdjaaaDoorRows
import Derived.Test.YtdpgdcbclgdjaaaDoorRefLaws
import Derived.Test.YtdpgdcbclgdjaaaDoorCards
import Derived.Test.YtdpgdcbclgdjaaaDoorRefLaid
import Derived.WalkKit
import Derived.ProofKit
import Derived.ChangeOld
import Derived.Below
import Derived.OpenShut
import Derived.ShutString
namespace Go.Proofs.YtdpgdcbclgdjaaaDoor.refOne
open Go.ChangeShapes Go.WideShapes Go.ChangeAt Go.RowKit
open Go.ChangeMaps (open_string shut_string)
set_option linter.unusedVariables false      -- a walk need not use every 'w<i>' (that an integer argument fits its kind)

theorem own : ownKnob Tryd.prog.godebug = none := by kernel_rfl

theorem one_read (s : ByteArray) (attr : Bool) (w : World) (hs : s.size ≤ 300) (h : LaidAt w) :
    Calls Tryd.prog 10 #[.string (⟨#[38]⟩ ++ s), .int .i64 0, .bool attr] w fun e w' => e = .returned (.tuple #[.string ⟨(refT s.data.toList attr).toArray⟩, .int .i64 ((1 + refM s.data.toList : Nat) : Int)]) ∧ Below w.heap.size w w' := by
  have one : (ByteArray.mk #[38]).size = 1 := rfl
  have := readL_s (⟨#[38]⟩ ++ s) 0 s.data.toList attr w (by rw [ByteArray.size_append, one]; omega) (by rw [List.drop_zero, app_list]; rfl) h
  rw [Nat.zero_add] at this
  exact this
theorem two_read (a s : ByteArray) (attr : Bool) (w : World) (ha : a.size ≤ 300) (hs : s.size ≤ 300) (h : LaidAt w) :
    Calls Tryd.prog 10 #[.string (a ++ ⟨#[38]⟩ ++ s), .int .i64 (a.size : Int), .bool attr] w fun e w' => e = .returned (.tuple #[.string ⟨(refT s.data.toList attr).toArray⟩, .int .i64 ((a.size : Int) + ((1 + refM s.data.toList : Nat) : Int))]) ∧ Below w.heap.size w w' := by
  have one : (ByteArray.mk #[38]).size = 1 := rfl
  have := readL_s (a ++ ⟨#[38]⟩ ++ s) a.size s.data.toList attr w (by rw [ByteArray.size_append, ByteArray.size_append, one]; omega) (by
    rw [app_list, app_list, List.append_assoc, Lib.size_eq a, List.drop_left]; rfl) h
  rw [show ((a.size + 1 + refM s.data.toList : Nat) : Int) = (a.size : Int) + ((1 + refM s.data.toList : Nat) : Int) by omega] at this
  exact this
set_option maxRecDepth 100000 in
set_option maxHeartbeats 1000000 in
theorem walk (a0 : ByteArray) (a1 : ByteArray) (a2 : Bool) (w0 : a0.size ≤ maxLen) (w1 : a1.size ≤ maxLen) (w : World) (hT : LaidAt w) :
    Calls Tryd.prog 7 #[.string a0, .string a1, .bool a2] w fun e w' => e = .returned (.bool true) ∧ Below w.heap.size w w' := by
  clear w0 w1
  have HW := Lib.hid hT
  clear hT
  by_cases h0 : 300 < a0.size
  · have d0 : decide ((300 : Int) < (a0.size : Int)) = true := decide_eq_true (by omega)
    go_enter Tryd.func7, Tryd.ntmps7
    go_wp2_with (fail)
    refine (awakeL w HW.out).mono ?_
    rintro e w1 ⟨rfl, c1⟩
    go_wp2
    go_ret
    exact ⟨rfl, c1⟩
  have d0 : decide ((300 : Int) < (a0.size : Int)) = false := decide_eq_false (by omega)
  by_cases h1 : 300 < a1.size
  · have d1 : decide ((300 : Int) < (a1.size : Int)) = true := decide_eq_true (by omega)
    go_enter Tryd.func7, Tryd.ntmps7
    go_wp2_with (fail)
    refine (awakeL w HW.out).mono ?_
    rintro e w1 ⟨rfl, c1⟩
    go_wp2
    go_ret
    exact ⟨rfl, c1⟩
  have d1 : decide ((300 : Int) < (a1.size : Int)) = false := decide_eq_false (by omega)
  have H1 := fun w h => Lib.hid (one_read a1 a2 w (by omega) h)
  have H2 := fun w h => Lib.hid (two_read a0 a1 a2 w (by omega) (by omega) h)
  have hM := refM_le a1.data.toList
  rw [← Lib.size_eq] at hM
  have hL := (refT_len a1.data.toList a2).1
  have g0 : a0.size + 1 + a1.size ≤ 601 := by omega
  have HJ : a1.size = 0 ∨ (∃ h : 0 < a1.size, a1[0] ≠ 35 ∧ wordN a1[0] = false) → refM a1.data.toList = 0 ∧ refT a1.data.toList a2 = [38] := by
    intro h
    refine just_amp _ _ ?_
    rcases h with h | ⟨h, h2, h3⟩
    · left; exact List.length_eq_zero_iff.1 (by rw [← Lib.size_eq]; exact h)
    · right
      have e := drop_at a1 0 h
      rw [List.drop_zero] at e
      exact ⟨a1[0], _, e, h2, h3⟩
  by_cases hz : a1.size = 0
  · obtain ⟨j1, j2⟩ := HJ (.inl hz)
    rw [j1, j2] at H1 H2
    have hz2 : decide ((0 : Int) < (a1.size : Int)) = false := decide_eq_false (by omega)
    have hz3 : (a1.size : Int) = 0 := by omega
    clear HJ hM hL j1 j2 hz h0 h1
    go_enter Tryd.func7, Tryd.ntmps7
    go_wp2_with (fail)
    refine (awakeL w HW.out).mono ?_
    rintro e w1 ⟨rfl, c1⟩
    go_wp2_with (fail)
    refine (H1 _ (HW.out.below c1)).out.mono ?_
    rintro e w2 ⟨rfl, b2⟩
    have c2 := c1.trans (b2.mono c1.size)
    go_wp2_with (fail)
    refine (H2 _ (HW.out.below c2)).out.mono ?_
    rintro e w3 ⟨rfl, b3⟩
    have c3 := c2.trans (b3.mono c2.size)
    go_wp2
    go_ret
    exact ⟨ret_bool (by simp), c3⟩
  have hp : 0 < a1.size := Nat.pos_of_ne_zero hz
  by_cases h35 : (((a1[0].toNat : Nat) : Int) == 35) = true
  · obtain ⟨T, hT⟩ : ∃ T : ByteArray, ⟨(refT a1.data.toList a2).toArray⟩ = T := ⟨_, rfl⟩
    have hTl : T.data.toList = refT a1.data.toList a2 := by rw [← hT, List.toList_toArray]
    have hTe : T.toList.isEmpty = false := by rw [ByteArray.toList_eq, hTl, List.isEmpty_eq_false_iff, ← List.length_pos_iff]; omega
    obtain ⟨m, hm⟩ : ∃ m, 1 + refM a1.data.toList = m := ⟨_, rfl⟩
    rw [hT, hm] at H1 H2
    have m1 : 1 ≤ m := by omega
    have m2 : m ≤ a1.size + 1 := by omega
    clear HJ hT hTl hm hM hL hz h0 h1
    go_enter Tryd.func7, Tryd.ntmps7
    go_wp2_with (fail)
    refine (awakeL w HW.out).mono ?_
    rintro e w1 ⟨rfl, c1⟩
    go_wp2_with (fail)
    refine (H1 _ (HW.out.below c1)).out.mono ?_
    rintro e w2 ⟨rfl, b2⟩
    have c2 := c1.trans (b2.mono c1.size)
    go_wp2_with (fail)
    refine (H2 _ (HW.out.below c2)).out.mono ?_
    rintro e w3 ⟨rfl, b3⟩
    have c3 := c2.trans (b3.mono c2.size)
    go_wp2
    go_ret
    exact ⟨ret_bool (by simp), c3⟩
  rw [Bool.not_eq_true] at h35
  rcases classes ((a1[0].toNat : Nat) : Int) with ⟨k1, k2, k3, k4, k5⟩ | ⟨k1, k2, k3, k4, k5⟩ | ⟨k1, k2, k3, k4, k5⟩ | ⟨k1, k2, k3, k4, k5⟩ | ⟨k1, k2, k3, k4, k5⟩ | ⟨k1, k2, k3, k4, k5⟩ | ⟨k1, k2, k3, k4, k5⟩
  · have hw : wordN a1[0] = false := by
      rw [← wordN_int]
      unfold wordI letterI digitI
      rw [decide_eq_false (by omega), decide_eq_false (by omega)]; rfl
    obtain ⟨j1, j2⟩ := HJ (.inr ⟨hp, fun e => by rw [e] at h35; exact absurd h35 (by decide), hw⟩)
    rw [j1, j2] at H1 H2
    clear HJ hM hL j1 j2 hz h0 h1 hw
    go_enter Tryd.func7, Tryd.ntmps7
    go_wp2_with (fail)
    refine (awakeL w HW.out).mono ?_
    rintro e w1 ⟨rfl, c1⟩
    go_wp2_with (fail)
    refine (H1 _ (HW.out.below c1)).out.mono ?_
    rintro e w2 ⟨rfl, b2⟩
    have c2 := c1.trans (b2.mono c1.size)
    go_wp2_with (fail)
    refine (H2 _ (HW.out.below c2)).out.mono ?_
    rintro e w3 ⟨rfl, b3⟩
    have c3 := c2.trans (b3.mono c2.size)
    go_wp2
    go_ret
    exact ⟨ret_bool (by simp), c3⟩
  · obtain ⟨T, hT⟩ : ∃ T : ByteArray, ⟨(refT a1.data.toList a2).toArray⟩ = T := ⟨_, rfl⟩
    have hTl : T.data.toList = refT a1.data.toList a2 := by rw [← hT, List.toList_toArray]
    have hTe : T.toList.isEmpty = false := by rw [ByteArray.toList_eq, hTl, List.isEmpty_eq_false_iff, ← List.length_pos_iff]; omega
    obtain ⟨m, hm⟩ : ∃ m, 1 + refM a1.data.toList = m := ⟨_, rfl⟩
    rw [hT, hm] at H1 H2
    have m1 : 1 ≤ m := by omega
    have m2 : m ≤ a1.size + 1 := by omega
    clear HJ hT hTl hm hM hL hz h0 h1
    go_enter Tryd.func7, Tryd.ntmps7
    go_wp2_with (fail)
    refine (awakeL w HW.out).mono ?_
    rintro e w1 ⟨rfl, c1⟩
    go_wp2_with (fail)
    refine (H1 _ (HW.out.below c1)).out.mono ?_
    rintro e w2 ⟨rfl, b2⟩
    have c2 := c1.trans (b2.mono c1.size)
    go_wp2_with (fail)
    refine (H2 _ (HW.out.below c2)).out.mono ?_
    rintro e w3 ⟨rfl, b3⟩
    have c3 := c2.trans (b3.mono c2.size)
    go_wp2
    go_ret
    exact ⟨ret_bool (by simp), c3⟩
  · have hw : wordN a1[0] = false := by
      rw [← wordN_int]
      unfold wordI letterI digitI
      rw [decide_eq_false (by omega), decide_eq_false (by omega)]; rfl
    obtain ⟨j1, j2⟩ := HJ (.inr ⟨hp, fun e => by rw [e] at h35; exact absurd h35 (by decide), hw⟩)
    rw [j1, j2] at H1 H2
    clear HJ hM hL j1 j2 hz h0 h1 hw
    go_enter Tryd.func7, Tryd.ntmps7
    go_wp2_with (fail)
    refine (awakeL w HW.out).mono ?_
    rintro e w1 ⟨rfl, c1⟩
    go_wp2_with (fail)
    refine (H1 _ (HW.out.below c1)).out.mono ?_
    rintro e w2 ⟨rfl, b2⟩
    have c2 := c1.trans (b2.mono c1.size)
    go_wp2_with (fail)
    refine (H2 _ (HW.out.below c2)).out.mono ?_
    rintro e w3 ⟨rfl, b3⟩
    have c3 := c2.trans (b3.mono c2.size)
    go_wp2
    go_ret
    exact ⟨ret_bool (by simp), c3⟩
  · obtain ⟨T, hT⟩ : ∃ T : ByteArray, ⟨(refT a1.data.toList a2).toArray⟩ = T := ⟨_, rfl⟩
    have hTl : T.data.toList = refT a1.data.toList a2 := by rw [← hT, List.toList_toArray]
    have hTe : T.toList.isEmpty = false := by rw [ByteArray.toList_eq, hTl, List.isEmpty_eq_false_iff, ← List.length_pos_iff]; omega
    obtain ⟨m, hm⟩ : ∃ m, 1 + refM a1.data.toList = m := ⟨_, rfl⟩
    rw [hT, hm] at H1 H2
    have m1 : 1 ≤ m := by omega
    have m2 : m ≤ a1.size + 1 := by omega
    clear HJ hT hTl hm hM hL hz h0 h1
    go_enter Tryd.func7, Tryd.ntmps7
    go_wp2_with (fail)
    refine (awakeL w HW.out).mono ?_
    rintro e w1 ⟨rfl, c1⟩
    go_wp2_with (fail)
    refine (H1 _ (HW.out.below c1)).out.mono ?_
    rintro e w2 ⟨rfl, b2⟩
    have c2 := c1.trans (b2.mono c1.size)
    go_wp2_with (fail)
    refine (H2 _ (HW.out.below c2)).out.mono ?_
    rintro e w3 ⟨rfl, b3⟩
    have c3 := c2.trans (b3.mono c2.size)
    go_wp2
    go_ret
    exact ⟨ret_bool (by simp), c3⟩
  · have hw : wordN a1[0] = false := by
      rw [← wordN_int]
      unfold wordI letterI digitI
      rw [decide_eq_false (by omega), decide_eq_false (by omega)]; rfl
    obtain ⟨j1, j2⟩ := HJ (.inr ⟨hp, fun e => by rw [e] at h35; exact absurd h35 (by decide), hw⟩)
    rw [j1, j2] at H1 H2
    clear HJ hM hL j1 j2 hz h0 h1 hw
    go_enter Tryd.func7, Tryd.ntmps7
    go_wp2_with (fail)
    refine (awakeL w HW.out).mono ?_
    rintro e w1 ⟨rfl, c1⟩
    go_wp2_with (fail)
    refine (H1 _ (HW.out.below c1)).out.mono ?_
    rintro e w2 ⟨rfl, b2⟩
    have c2 := c1.trans (b2.mono c1.size)
    go_wp2_with (fail)
    refine (H2 _ (HW.out.below c2)).out.mono ?_
    rintro e w3 ⟨rfl, b3⟩
    have c3 := c2.trans (b3.mono c2.size)
    go_wp2
    go_ret
    exact ⟨ret_bool (by simp), c3⟩
  · obtain ⟨T, hT⟩ : ∃ T : ByteArray, ⟨(refT a1.data.toList a2).toArray⟩ = T := ⟨_, rfl⟩
    have hTl : T.data.toList = refT a1.data.toList a2 := by rw [← hT, List.toList_toArray]
    have hTe : T.toList.isEmpty = false := by rw [ByteArray.toList_eq, hTl, List.isEmpty_eq_false_iff, ← List.length_pos_iff]; omega
    obtain ⟨m, hm⟩ : ∃ m, 1 + refM a1.data.toList = m := ⟨_, rfl⟩
    rw [hT, hm] at H1 H2
    have m1 : 1 ≤ m := by omega
    have m2 : m ≤ a1.size + 1 := by omega
    clear HJ hT hTl hm hM hL hz h0 h1
    go_enter Tryd.func7, Tryd.ntmps7
    go_wp2_with (fail)
    refine (awakeL w HW.out).mono ?_
    rintro e w1 ⟨rfl, c1⟩
    go_wp2_with (fail)
    refine (H1 _ (HW.out.below c1)).out.mono ?_
    rintro e w2 ⟨rfl, b2⟩
    have c2 := c1.trans (b2.mono c1.size)
    go_wp2_with (fail)
    refine (H2 _ (HW.out.below c2)).out.mono ?_
    rintro e w3 ⟨rfl, b3⟩
    have c3 := c2.trans (b3.mono c2.size)
    go_wp2
    go_ret
    exact ⟨ret_bool (by simp), c3⟩
  · have hw : wordN a1[0] = false := by
      rw [← wordN_int]
      unfold wordI letterI digitI
      rw [decide_eq_false (by omega), decide_eq_false (by omega)]; rfl
    obtain ⟨j1, j2⟩ := HJ (.inr ⟨hp, fun e => by rw [e] at h35; exact absurd h35 (by decide), hw⟩)
    rw [j1, j2] at H1 H2
    clear HJ hM hL j1 j2 hz h0 h1 hw
    go_enter Tryd.func7, Tryd.ntmps7
    go_wp2_with (fail)
    refine (awakeL w HW.out).mono ?_
    rintro e w1 ⟨rfl, c1⟩
    go_wp2_with (fail)
    refine (H1 _ (HW.out.below c1)).out.mono ?_
    rintro e w2 ⟨rfl, b2⟩
    have c2 := c1.trans (b2.mono c1.size)
    go_wp2_with (fail)
    refine (H2 _ (HW.out.below c2)).out.mono ?_
    rintro e w3 ⟨rfl, b3⟩
    have c3 := c2.trans (b3.mono c2.size)
    go_wp2
    go_ret
    exact ⟨ret_bool (by simp), c3⟩
  -- go_wp2
  -- go_ret
  -- exact ⟨rfl, by repeat (first | exact Grown.refl _ | apply Grown.drew | apply Grown.alloc)⟩

theorem laid_met (os : Os) : laidMet Tryd.prog Rows.refOneRow.laid ((laidWorld os).forCall (fun _ _ => 0) ⟨#[], #[.string ByteArray.empty, .string ByteArray.empty, .bool false], []⟩).memory :=
  laidMet_of_run' 8 (by kernel_rfl) (by kernel_rfl)
theorem reads (os : Os) {H : Type} (enc : TypeId × Value → H) : ∃ places, DataW.whole enc Tryd.prog ((laidWorld os).forCall (fun _ _ => 0) ⟨#[], #[.string ByteArray.empty, .string ByteArray.empty, .bool false], []⟩).memory Tryd.f7.params.toList Rows.refOneSpec.vars false (#[.string ByteArray.empty, .string ByteArray.empty, .bool false] : Array Value).toList 8 = some ([.lit (.string []), .lit (.string []), .lit (.bool false)], [], places) :=
  ⟨[], by kernel_rfl⟩
set_option maxRecDepth 100000 in
theorem lifted (os : Os) (started : os.Started) (H : Type) (enc : TypeId × Value → H) (F : Stop.Interp) :
    ReturnsInHanded {} Tryd.checked os 7 .any ((OpenSpec.ofChange Rows.refOneSpec).preRow enc Tryd.prog Tryd.f7 Rows.refOneRow.domain false Rows.refOneRow.laid) (((OpenSpec.ofChange Rows.refOneSpec).at F).post enc Tryd.prog Tryd.f7 false true false false) := by
  obtain ⟨places, hx⟩ := reads os enc
  refine returnsInHanded_of_row (C := Tryd.checked) (s := OpenSpec.ofChange Rows.refOneSpec) own started (by kernel_rfl) Tryd.func7
    (witness_row_at (enc := enc) (C := Tryd.checked) false (laidWorld os) #[.string ByteArray.empty, .string ByteArray.empty, .bool false] rfl (by kernel_rfl) (by kernel_rfl) (by kernel_rfl)
      (OpenSpec.preRow_of_cond 8 hx (by kernel_rfl) (fun k hk => by cases hk) (by kernel_rfl) (laid_met os))) ?_
  intro W base args ds gs before hval0 hW _ _ _ hL _ _
  have hval : ∀ (j : Nat) t v, Tryd.f7.params[j]? = some t → args[j]? = some v → Value.okWide Tryd.prog W .any base t v := hval0
  have hW' := hW
  obtain ⟨p, q, hA0, hV, rfl, hfz, hnd⟩ := hW
  have hA : DataW.TrodAll enc Tryd.prog W 0 (fun _ => true) true Tryd.f7.params.toList args.toList ds p := hA0
  rw [Tryd.params7] at hA hval
  obtain ⟨v0, vs0, d0, ds0, p0, q0, hargs, rfl, rfl, h0, r0⟩ := trodAll_cons hA
  obtain ⟨v1, vs1, d1, ds1, p1, q1, rfl, rfl, rfl, h1, r1⟩ := trodAll_cons r0
  obtain ⟨v2, vs2, d2, ds2, p2, q2, rfl, rfl, rfl, h2, r2⟩ := trodAll_cons r1
  obtain ⟨rfl, rfl, rfl⟩ := trodAll_nil r2
  obtain rfl : args = #[v0, v1, v2] := by cases args; simp_all
  obtain ⟨rfl, rfl⟩ := trodVars_none hV
  obtain ⟨a0, rfl, rfl, rfl, w0⟩ := open_string Tryd.underlying9 (hval 0 9 v0 rfl rfl) h0
  obtain ⟨a1, rfl, rfl, rfl, w1⟩ := open_string Tryd.underlying9 (hval 1 9 v1 rfl rfl) h1
  obtain ⟨a2, rfl, rfl, rfl⟩ := open_bool Tryd.underlying4 (hval 2 4 v2 rfl rfl) h2
  clear hA0 hval0
  refine (walk a0 a1 a2 w0 w1 W (tabAt_of hL)).mono fun e W' ⟨he, bel⟩ => ?_
  subst he
  exact ⟨_, rfl, _, _, _, [], _, [], hW', trodAll_mk1 (shut_bool Tryd.underlying4 _), (trodAll_cons_mk (shut_string Tryd.underlying9 w0) (trodAll_cons_mk (shut_string Tryd.underlying9 w1) (trodAll_cons_mk (shut_bool Tryd.underlying4 _) trodAll_mk0))), rfl, bel.frame _, fun h => by cases h⟩

theorem said : Rows.RefOneSaid :=
  OpenClaim.holds_of_cond 7 Tryd.f7 rfl rfl rfl rfl rfl rfl rfl ⟨rfl, rfl, rfl, rfl, rfl⟩ rfl rfl rfl rfl rfl (by kernel_rfl) Tryd.func7 (by kernel_rfl)
    (of_decide_eq_true (by kernel_rfl)) (by unfold Func.isWrapper; first | (rw [if_pos (by decide +kernel)]; kernel_rfl) | (rw [if_neg (by decide +kernel)]; exact ⟨rfl, rfl⟩))
    (fun os started H enc _ F => by rw [OpenClaim.pre_eq_preRow]; exact lifted os started H enc F)
theorem plain (f : FuncId) (fn : Func) (hf : Tryd.pinned.checked.prog.funcNamed "flail/flaillaw07.RefOne" = some f) (hfn : Tryd.pinned.checked.prog.funcs[f]? = some fn) :
    true = Tryd.pinned.checked.prog.looks [] ∧ ∀ (j : Nat) t, fn.params[j]? = some t → Tryd.pinned.checked.prog.wantsStandIn t = false := by
  obtain rfl : f = 7 := Option.some.inj ((show Tryd.prog.funcNamed "flail/flaillaw07.RefOne" = some 7 by kernel_rfl).symm.trans hf) |>.symm
  obtain rfl : fn = Tryd.f7 := (Option.some.inj (Tryd.func7.symm.trans hfn)).symm
  refine ⟨by kernel_rfl, fun j t ht => ?_⟩
  rw [Tryd.params7] at ht
  have hm : t ∈ [9, 4] := by simpa using Array.mem_of_getElem? ht
  have hall : ([9, 4].all fun u => !Tryd.prog.wantsStandIn u) = true := by kernel_rfl
  exact (show Tryd.prog.wantsStandIn t = false by simpa using List.all_eq_true.1 hall t hm)
/-- the statement: the row's card -/
theorem proved : Rows.RefOneCardSaid :=
  Claim7.holds_tied_plain_at .later [] _ _ _ _ said (fun _ h => by cases h) (by kernel_rfl) (fun _ h => by cases h) refOne_row_tie rfl ⟨rfl, rfl⟩ (by kernel_rfl) rfl plain (by kernel_rfl)
end Go.Proofs.YtdpgdcbclgdjaaaDoor.refOne
