/-
  The law RefNumbers of flail/flaillaw07 answers true for every input, and changes nothing that was there. Condition, which the card ties to the program's text: when the call begins, the package variables that the row lists hold what that text lays in them (math/bits.deBruijn32tab, math/bits.deBruijn64tab, internal/strconv.uint64pow10, strconv.ErrRange, strconv.ErrSyntax, flail/number.others).
-/
import Derived.Test.YtdpgdcbclgdjaaaDoorRows
import Derived.Test.YtdpgdcbclgdjaaaDoorRefLaws
import Derived.Test.YtdpgdcbclgdjaaaDoorNumDec
import Derived.Test.YtdpgdcbclgdjaaaDoorCards
import Derived.Test.YtdpgdcbclgdjaaaDoorRefLaid
import Derived.WalkKit
import Derived.ProofKit
import Derived.ChangeOld
import Derived.Below
import Derived.OpenShut
import Derived.ShutString
namespace Go.Proofs.YtdpgdcbclgdjaaaDoor.refNumbers
open Go.ChangeShapes Go.WideShapes Go.ChangeAt Go.RowKit
open Go.ChangeMaps (open_string shut_string)
set_option linter.unusedVariables false      -- a walk need not use every 'w<i>' (that an integer argument fits its kind)

theorem own : ownKnob Tryd.prog.godebug = none := by kernel_rfl

theorem fix_cap (n : Nat) : fixS (capN n : Int) = fixS (n : Int) := by
  unfold capN
  by_cases h : 1114111 < n
  · rw [if_pos h]
    have e : fixS (n : Int) = ⟨#[239, 191, 189]⟩ := by
      unfold fixS fixN
      rw [if_neg (by omega), if_neg (by omega), Lib.encodeRune, Lib.encodeRuneZ_bad (.inr (.inr (by omega)))]; rfl
    rw [e]; exact fixS_cap
  · rw [if_neg h]
/-- without a semicolon -/
theorem num_plain (D m : ByteArray) (n : Nat) (attr : Bool) (w : World) (hD : D.data.toList = decL n) (hm : m.size ≤ 300) (hDs : D.size ≤ 4294967296) (hb : m.size = 0 ∨ ∃ h : 0 < m.size, isDig 10 m[0] = false ∧ m[0] ≠ 59) (h : LaidAt w) :
    Calls Tryd.prog 10 #[.string (⟨#[38, 35]⟩ ++ D ++ m), .int .i64 0, .bool attr] w fun e w' => e = .returned (.tuple #[.string (fixS (n : Int)), .int .i64 ((2 + D.size : Nat) : Int)]) ∧ Below w.heap.size w w' := by
  have two : (ByteArray.mk #[38, 35]).size = 2 := rfl
  obtain ⟨d1, d2, -, d4⟩ := decL_dig n n (Nat.le_refl _)
  have ht : m.data.toList = [] ∨ ∃ c t, m.data.toList = c :: t ∧ isDig 10 c = false := by
    rcases hb with hb | ⟨h0, h1, -⟩
    · exact .inl (List.length_eq_zero_iff.1 (by rw [← Lib.size_eq]; exact hb))
    · right
      have e := drop_at m 0 h0
      rw [List.drop_zero] at e
      exact ⟨_, _, e, h1⟩
  have hn : m.data.toList.getD 0 0 ≠ 59 := by
    rcases hb with hb | ⟨h0, -, h2⟩
    · have e : m.data.toList = [] := List.length_eq_zero_iff.1 (by rw [← Lib.size_eq]; exact hb)
      rw [e]; decide
    · rw [getD_is m 0 h0]; exact h2
  obtain ⟨k1, k2⟩ := num_ends (decL n) m.data.toList attr d1 d2 ht
  rw [if_neg hn] at k1
  have := readL_s (⟨#[38, 35]⟩ ++ D ++ m) 0 (35 :: (decL n ++ m.data.toList)) attr w (by rw [ByteArray.size_append, ByteArray.size_append, two]; omega) (by rw [List.drop_zero, app_list, app_list, hD]; rfl) h
  rw [k1, k2, d4, fix_cap, show 0 + 1 + ((decL n).length + 1) = 2 + D.size by rw [Lib.size_eq, hD]; omega] at this
  exact this
/-- with one -/
theorem num_semi (D m : ByteArray) (n : Nat) (attr : Bool) (w : World) (hD : D.data.toList = decL n) (hm : m.size ≤ 300) (hDs : D.size ≤ 4294967296) (h : LaidAt w) :
    Calls Tryd.prog 10 #[.string (⟨#[38, 35]⟩ ++ D ++ ⟨#[59]⟩ ++ m), .int .i64 0, .bool attr] w fun e w' => e = .returned (.tuple #[.string (fixS (n : Int)), .int .i64 ((3 + D.size : Nat) : Int)]) ∧ Below w.heap.size w w' := by
  have two : (ByteArray.mk #[38, 35]).size = 2 := rfl
  have one : (ByteArray.mk #[59]).size = 1 := rfl
  obtain ⟨d1, d2, -, d4⟩ := decL_dig n n (Nat.le_refl _)
  obtain ⟨k1, k2⟩ := num_ends (decL n) (59 :: m.data.toList) attr d1 d2 (.inr ⟨_, _, rfl, dig_59.1⟩)
  rw [show (59 :: m.data.toList).getD 0 0 = 59 from rfl, if_pos rfl] at k1
  have := readL_s (⟨#[38, 35]⟩ ++ D ++ ⟨#[59]⟩ ++ m) 0 (35 :: (decL n ++ 59 :: m.data.toList)) attr w (by rw [ByteArray.size_append, ByteArray.size_append, ByteArray.size_append, two, one]; omega) (by
    rw [List.drop_zero, app_list, app_list, app_list, hD, List.append_assoc]; rfl) h
  rw [k1, k2, d4, fix_cap, show 0 + 1 + ((decL n).length + 2) = 3 + D.size by rw [Lib.size_eq, hD]; omega] at this
  exact this
set_option maxRecDepth 100000 in
set_option maxHeartbeats 1000000 in
theorem walk (a0 : Int) (a1 : ByteArray) (a2 : Bool) (w0 : (Lit.int .u32 a0).wf = true) (w1 : a1.size ≤ maxLen) (w : World) (hT : LaidAt w) :
    Calls Tryd.prog 8 #[.int .u32 a0, .string a1, .bool a2] w fun e w' => e = .returned (.bool true) ∧ Below w.heap.size w w' := by
  have hb0 : 0 ≤ a0 ∧ a0 ≤ 4294967295 := by simpa [Lit.wf, IntKind.min, IntKind.max, IntKind.signed, IntKind.bits] using w0
  obtain ⟨h0, h1⟩ := hb0
  clear w0 w1
  have HW := Lib.hid hT
  clear hT
  obtain ⟨n, hna⟩ : ∃ n : Nat, (n : Int) = a0 := ⟨a0.toNat, by omega⟩
  have hn : n ≤ 4294967295 := by omega
  by_cases hlen : 300 < a1.size
  · clear hna hn
    go_enter Tryd.func8, Tryd.ntmps8
    go_wp2_with (fail)
    refine (awakeL w HW.out).mono ?_
    rintro e w1 ⟨rfl, c1⟩
    go_wp2
    go_ret
    exact ⟨rfl, c1⟩
  have hs : a1.size ≤ 300 := by omega
  have hDb := decS_bound n
  have HDec := fun w => Lib.hid (decimal n n w (Nat.le_refl _) hn)
  have HFix := fun w h => Lib.hid (fix (n : Int) w (by omega) (by omega) h)
  have HP := fun attr w hb h => Lib.hid (num_plain (decS n) a1 n attr w rfl hs (by omega) hb h)
  have HS := fun attr w h => Lib.hid (num_semi (decS n) a1 n attr w rfl hs (by omega) h)
  obtain ⟨D, hD⟩ : ∃ D, decS n = D := ⟨_, rfl⟩
  rw [hD] at HDec hDb HP HS
  obtain ⟨F, hF⟩ : ∃ F, fixS (n : Int) = F := ⟨_, rfl⟩
  rw [hF] at HFix HP HS
  rw [hna] at HDec HFix
  have g1 : 2 + D.size + 1 + a1.size ≤ 4294967600 := by omega
  clear hD hF hlen hna hn hDb
  by_cases hz : a1.size = 0
  · have hz2 : decide ((0 : Int) < (a1.size : Int)) = false := decide_eq_false (by omega)
    cases a2
    · have H1 := fun w h => HP true w (.inl hz) h
      have H2 := fun w h => HP false w (.inl hz) h
      clear HP HS
      go_enter Tryd.func8, Tryd.ntmps8
      go_wp2_with (fail)
      refine (awakeL w HW.out).mono ?_
      rintro e w1 ⟨rfl, c1⟩
      go_wp2_with (fail)
      refine (HDec _).out.mono ?_
      rintro e w2 ⟨rfl, b2⟩
      have c2 := c1.trans (b2.mono c1.size)
      go_wp2_with (fail)
      refine (H1 _ (HW.out.below c2)).out.mono ?_
      rintro e w3 ⟨rfl, b3⟩
      have c3 := c2.trans (b3.mono c2.size)
      go_wp2_with (fail)
      refine (H2 _ (HW.out.below c3)).out.mono ?_
      rintro e w4 ⟨rfl, b4⟩
      have c4 := c3.trans (b4.mono c3.size)
      go_wp2_with (fail)
      refine (HFix _ (HW.out.below c4).tab).out.mono ?_
      rintro e w5 ⟨rfl, rfl⟩
      go_wp2
      go_ret
      exact ⟨ret_bool (by simp), c4⟩
    · have H1 := fun w h => HS true w h
      have H2 := fun w h => HS false w h
      clear HP HS
      go_enter Tryd.func8, Tryd.ntmps8
      go_wp2_with (fail)
      refine (awakeL w HW.out).mono ?_
      rintro e w1 ⟨rfl, c1⟩
      go_wp2_with (fail)
      refine (HDec _).out.mono ?_
      rintro e w2 ⟨rfl, b2⟩
      have c2 := c1.trans (b2.mono c1.size)
      go_wp2_with (fail)
      refine (H1 _ (HW.out.below c2)).out.mono ?_
      rintro e w3 ⟨rfl, b3⟩
      have c3 := c2.trans (b3.mono c2.size)
      go_wp2_with (fail)
      refine (H2 _ (HW.out.below c3)).out.mono ?_
      rintro e w4 ⟨rfl, b4⟩
      have c4 := c3.trans (b4.mono c3.size)
      go_wp2_with (fail)
      refine (HFix _ (HW.out.below c4).tab).out.mono ?_
      rintro e w5 ⟨rfl, rfl⟩
      go_wp2
      go_ret
      exact ⟨ret_bool (by simp), c4⟩
  have hp : 0 < a1.size := Nat.pos_of_ne_zero hz
  have hp2 : decide ((0 : Int) < (a1.size : Int)) = true := decide_eq_true (by omega)
  clear hz
  by_cases k0 : ((a1[0].toNat : Nat) : Int) = 59
  · have k1 : (48 : Int) ≤ ((a1[0].toNat : Nat) : Int) := by omega
    have k2 : (57 : Int) < ((a1[0].toNat : Nat) : Int) := by omega
    have k3 : (((a1[0].toNat : Nat) : Int) == 59) = true := beq_iff_eq.2 k0
    clear k0
    go_enter Tryd.func8, Tryd.ntmps8
    go_wp2_with (fail)
    refine (awakeL w HW.out).mono ?_
    rintro e w1 ⟨rfl, c1⟩
    go_wp2
    go_ret
    exact ⟨rfl, c1⟩
  have k3 : (((a1[0].toNat : Nat) : Int) == 59) = false := beq_eq_false_iff_ne.2 k0
  have hne : a1[0] ≠ 59 := by
    intro e
    rw [e] at k0
    exact k0 rfl
  by_cases k1 : (48 : Int) ≤ ((a1[0].toNat : Nat) : Int)
  · by_cases k2 : ((a1[0].toNat : Nat) : Int) ≤ 57
    · clear k0
      go_enter Tryd.func8, Tryd.ntmps8
      go_wp2_with (fail)
      refine (awakeL w HW.out).mono ?_
      rintro e w1 ⟨rfl, c1⟩
      go_wp2
      go_ret
      exact ⟨rfl, c1⟩
    · have k4 : (57 : Int) < ((a1[0].toNat : Nat) : Int) := by omega
      have hdg : isDig 10 a1[0] = false := by
        unfold isDig hexI
        refine decide_eq_false ?_
        split
        · omega
        · split
          · omega
          · split <;> omega
      clear k0 k2
      cases a2
      · have H1 := fun w h => HP true w (.inr ⟨hp, hdg, hne⟩) h
        have H2 := fun w h => HP false w (.inr ⟨hp, hdg, hne⟩) h
        clear HP HS
        go_enter Tryd.func8, Tryd.ntmps8
        go_wp2_with (fail)
        refine (awakeL w HW.out).mono ?_
        rintro e w1 ⟨rfl, c1⟩
        go_wp2_with (fail)
        refine (HDec _).out.mono ?_
        rintro e w2 ⟨rfl, b2⟩
        have c2 := c1.trans (b2.mono c1.size)
        go_wp2_with (fail)
        refine (H1 _ (HW.out.below c2)).out.mono ?_
        rintro e w3 ⟨rfl, b3⟩
        have c3 := c2.trans (b3.mono c2.size)
        go_wp2_with (fail)
        refine (H2 _ (HW.out.below c3)).out.mono ?_
        rintro e w4 ⟨rfl, b4⟩
        have c4 := c3.trans (b4.mono c3.size)
        go_wp2_with (fail)
        refine (HFix _ (HW.out.below c4).tab).out.mono ?_
        rintro e w5 ⟨rfl, rfl⟩
        go_wp2
        go_ret
        exact ⟨ret_bool (by simp), c4⟩
      · have H1 := fun w h => HS true w h
        have H2 := fun w h => HS false w h
        clear HP HS
        go_enter Tryd.func8, Tryd.ntmps8
        go_wp2_with (fail)
        refine (awakeL w HW.out).mono ?_
        rintro e w1 ⟨rfl, c1⟩
        go_wp2_with (fail)
        refine (HDec _).out.mono ?_
        rintro e w2 ⟨rfl, b2⟩
        have c2 := c1.trans (b2.mono c1.size)
        go_wp2_with (fail)
        refine (H1 _ (HW.out.below c2)).out.mono ?_
        rintro e w3 ⟨rfl, b3⟩
        have c3 := c2.trans (b3.mono c2.size)
        go_wp2_with (fail)
        refine (H2 _ (HW.out.below c3)).out.mono ?_
        rintro e w4 ⟨rfl, b4⟩
        have c4 := c3.trans (b4.mono c3.size)
        go_wp2_with (fail)
        refine (HFix _ (HW.out.below c4).tab).out.mono ?_
        rintro e w5 ⟨rfl, rfl⟩
        go_wp2
        go_ret
        exact ⟨ret_bool (by simp), c4⟩
  · have k4 : ((a1[0].toNat : Nat) : Int) < 48 := by omega
    have hdg : isDig 10 a1[0] = false := by
      unfold isDig hexI
      refine decide_eq_false ?_
      split
      · omega
      · split
        · omega
        · split <;> omega
    clear k0 k1
    cases a2
    · have H1 := fun w h => HP true w (.inr ⟨hp, hdg, hne⟩) h
      have H2 := fun w h => HP false w (.inr ⟨hp, hdg, hne⟩) h
      clear HP HS
      go_enter Tryd.func8, Tryd.ntmps8
      go_wp2_with (fail)
      refine (awakeL w HW.out).mono ?_
      rintro e w1 ⟨rfl, c1⟩
      go_wp2_with (fail)
      refine (HDec _).out.mono ?_
      rintro e w2 ⟨rfl, b2⟩
      have c2 := c1.trans (b2.mono c1.size)
      go_wp2_with (fail)
      refine (H1 _ (HW.out.below c2)).out.mono ?_
      rintro e w3 ⟨rfl, b3⟩
      have c3 := c2.trans (b3.mono c2.size)
      go_wp2_with (fail)
      refine (H2 _ (HW.out.below c3)).out.mono ?_
      rintro e w4 ⟨rfl, b4⟩
      have c4 := c3.trans (b4.mono c3.size)
      go_wp2_with (fail)
      refine (HFix _ (HW.out.below c4).tab).out.mono ?_
      rintro e w5 ⟨rfl, rfl⟩
      go_wp2
      go_ret
      exact ⟨ret_bool (by simp), c4⟩
    · have H1 := fun w h => HS true w h
      have H2 := fun w h => HS false w h
      clear HP HS
      go_enter Tryd.func8, Tryd.ntmps8
      go_wp2_with (fail)
      refine (awakeL w HW.out).mono ?_
      rintro e w1 ⟨rfl, c1⟩
      go_wp2_with (fail)
      refine (HDec _).out.mono ?_
      rintro e w2 ⟨rfl, b2⟩
      have c2 := c1.trans (b2.mono c1.size)
      go_wp2_with (fail)
      refine (H1 _ (HW.out.below c2)).out.mono ?_
      rintro e w3 ⟨rfl, b3⟩
      have c3 := c2.trans (b3.mono c2.size)
      go_wp2_with (fail)
      refine (H2 _ (HW.out.below c3)).out.mono ?_
      rintro e w4 ⟨rfl, b4⟩
      have c4 := c3.trans (b4.mono c3.size)
      go_wp2_with (fail)
      refine (HFix _ (HW.out.below c4).tab).out.mono ?_
      rintro e w5 ⟨rfl, rfl⟩
      go_wp2
      go_ret
      exact ⟨ret_bool (by simp), c4⟩
  -- go_wp2
  -- go_ret
  -- exact ⟨rfl, by repeat (first | exact Grown.refl _ | apply Grown.drew | apply Grown.alloc)⟩

theorem laid_met (os : Os) : laidMet Tryd.prog Rows.refNumbersRow.laid ((laidWorld os).forCall (fun _ _ => 0) ⟨#[], #[.int .u32 0, .string ByteArray.empty, .bool false], []⟩).memory :=
  laidMet_of_run' 8 (by kernel_rfl) (by kernel_rfl)
theorem reads (os : Os) {H : Type} (enc : TypeId × Value → H) : ∃ places, DataW.whole enc Tryd.prog ((laidWorld os).forCall (fun _ _ => 0) ⟨#[], #[.int .u32 0, .string ByteArray.empty, .bool false], []⟩).memory Tryd.f8.params.toList Rows.refNumbersSpec.vars false (#[.int .u32 0, .string ByteArray.empty, .bool false] : Array Value).toList 8 = some ([.lit (.int .u32 0), .lit (.string []), .lit (.bool false)], [], places) :=
  ⟨[], by kernel_rfl⟩
set_option maxRecDepth 100000 in
theorem lifted (os : Os) (started : os.Started) (H : Type) (enc : TypeId × Value → H) (F : Stop.Interp) :
    ReturnsInHanded {} Tryd.checked os 8 .any ((OpenSpec.ofChange Rows.refNumbersSpec).preRow enc Tryd.prog Tryd.f8 Rows.refNumbersRow.domain false Rows.refNumbersRow.laid) (((OpenSpec.ofChange Rows.refNumbersSpec).at F).post enc Tryd.prog Tryd.f8 false true false false) := by
  obtain ⟨places, hx⟩ := reads os enc
  refine returnsInHanded_of_row (C := Tryd.checked) (s := OpenSpec.ofChange Rows.refNumbersSpec) own started (by kernel_rfl) Tryd.func8
    (witness_row_at (enc := enc) (C := Tryd.checked) false (laidWorld os) #[.int .u32 0, .string ByteArray.empty, .bool false] rfl (by kernel_rfl) (by kernel_rfl) (by kernel_rfl)
      (OpenSpec.preRow_of_cond 8 hx (by kernel_rfl) (fun k hk => by cases hk) (by kernel_rfl) (laid_met os))) ?_
  intro W base args ds gs before hval0 hW _ _ _ hL _ _
  have hval : ∀ (j : Nat) t v, Tryd.f8.params[j]? = some t → args[j]? = some v → Value.okWide Tryd.prog W .any base t v := hval0
  have hW' := hW
  obtain ⟨p, q, hA0, hV, rfl, hfz, hnd⟩ := hW
  have hA : DataW.TrodAll enc Tryd.prog W 0 (fun _ => true) true Tryd.f8.params.toList args.toList ds p := hA0
  rw [Tryd.params8] at hA hval
  obtain ⟨v0, vs0, d0, ds0, p0, q0, hargs, rfl, rfl, h0, r0⟩ := trodAll_cons hA
  obtain ⟨v1, vs1, d1, ds1, p1, q1, rfl, rfl, rfl, h1, r1⟩ := trodAll_cons r0
  obtain ⟨v2, vs2, d2, ds2, p2, q2, rfl, rfl, rfl, h2, r2⟩ := trodAll_cons r1
  obtain ⟨rfl, rfl, rfl⟩ := trodAll_nil r2
  obtain rfl : args = #[v0, v1, v2] := by cases args; simp_all
  obtain ⟨rfl, rfl⟩ := trodVars_none hV
  obtain ⟨a0, rfl, rfl, rfl, w0⟩ := open_int Tryd.underlying34 (hval 0 34 v0 rfl rfl) h0
  obtain ⟨a1, rfl, rfl, rfl, w1⟩ := open_string Tryd.underlying9 (hval 1 9 v1 rfl rfl) h1
  obtain ⟨a2, rfl, rfl, rfl⟩ := open_bool Tryd.underlying4 (hval 2 4 v2 rfl rfl) h2
  clear hA0 hval0
  refine (walk a0 a1 a2 w0 w1 W (tabAt_of hL)).mono fun e W' ⟨he, bel⟩ => ?_
  subst he
  exact ⟨_, rfl, _, _, _, [], _, [], hW', trodAll_mk1 (shut_bool Tryd.underlying4 _), (trodAll_cons_mk (shut_int Tryd.underlying34 w0) (trodAll_cons_mk (shut_string Tryd.underlying9 w1) (trodAll_cons_mk (shut_bool Tryd.underlying4 _) trodAll_mk0))), rfl, bel.frame _, fun h => by cases h⟩

theorem said : Rows.RefNumbersSaid :=
  OpenClaim.holds_of_cond 8 Tryd.f8 rfl rfl rfl rfl rfl rfl rfl ⟨rfl, rfl, rfl, rfl, rfl⟩ rfl rfl rfl rfl rfl (by kernel_rfl) Tryd.func8 (by kernel_rfl)
    (of_decide_eq_true (by kernel_rfl)) (by unfold Func.isWrapper; first | (rw [if_pos (by decide +kernel)]; kernel_rfl) | (rw [if_neg (by decide +kernel)]; exact ⟨rfl, rfl⟩))
    (fun os started H enc _ F => by rw [OpenClaim.pre_eq_preRow]; exact lifted os started H enc F)
theorem plain (f : FuncId) (fn : Func) (hf : Tryd.pinned.checked.prog.funcNamed "flail/flaillaw07.RefNumbers" = some f) (hfn : Tryd.pinned.checked.prog.funcs[f]? = some fn) :
    true = Tryd.pinned.checked.prog.looks [] ∧ ∀ (j : Nat) t, fn.params[j]? = some t → Tryd.pinned.checked.prog.wantsStandIn t = false := by
  obtain rfl : f = 8 := Option.some.inj ((show Tryd.prog.funcNamed "flail/flaillaw07.RefNumbers" = some 8 by kernel_rfl).symm.trans hf) |>.symm
  obtain rfl : fn = Tryd.f8 := (Option.some.inj (Tryd.func8.symm.trans hfn)).symm
  refine ⟨by kernel_rfl, fun j t ht => ?_⟩
  rw [Tryd.params8] at ht
  have hm : t ∈ [34, 9, 4] := by simpa using Array.mem_of_getElem? ht
  have hall : ([34, 9, 4].all fun u => !Tryd.prog.wantsStandIn u) = true := by kernel_rfl
  exact (show Tryd.prog.wantsStandIn t = false by simpa using List.all_eq_true.1 hall t hm)
/-- the statement: the row's card -/
theorem proved : Rows.RefNumbersCardSaid :=
  Claim7.holds_tied_plain_at .later [] _ _ _ _ said (fun _ h => by cases h) (by kernel_rfl) (fun _ h => by cases h) refNumbers_row_tie rfl ⟨rfl, rfl⟩ (by kernel_rfl) rfl plain (by kernel_rfl)
end Go.Proofs.YtdpgdcbclgdjaaaDoor.refNumbers
