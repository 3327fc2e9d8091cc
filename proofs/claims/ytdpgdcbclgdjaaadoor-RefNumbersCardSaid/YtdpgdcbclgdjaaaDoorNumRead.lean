/-
  What package number's Fix, Value and Read answer, for every input.
-/
import Derived.Test.YtdpgdcbclgdjaaaDoorNumCode
import Derived.Below
namespace Go.Proofs.YtdpgdcbclgdjaaaDoor
open Go.RowKit Go.Lib

/-- the program's table stands as it was laid -/
def TabAt (w : World) : Prop := 0 < w.heap.size ∧ ∀ i, i < 32 → w.cell? ⟨0, i, none⟩ = some (.int .i64 (tabL.getD i 0))
theorem TabAt.below {w w' : World} (h : TabAt w) (hb : Below w.heap.size w w') : TabAt w' :=
  ⟨Nat.lt_of_lt_of_le h.1 hb.size, fun i hi => by rw [hb.cell (p := ⟨0, i, none⟩) h.1]; exact h.2 i hi⟩
theorem TabAt.drawn {w : World} (h : TabAt w) (n : Nat) : TabAt (w.drewN n) := ⟨h.1, h.2⟩

theorem fixS_bad (n : Int) (h : fixN n < 0) : fixS n = ⟨#[239, 191, 189]⟩ := by
  unfold fixS; rw [encodeRune, encodeRuneZ_bad (.inl h)]; rfl

set_option maxRecDepth 100000 in
set_option maxHeartbeats 1000000 in
theorem fix (n : Int) (w : World) (h0 : -9223372036854775808 ≤ n) (h1 : n ≤ 9223372036854775807) (hT : TabAt w) :
    Calls Tryd.prog 17 #[.int .i64 n] w fun e w' => e = .returned (.string (fixS n)) ∧ w = w' := by
  by_cases hz : n = 0
  · subst hz
    have HB := Lib.hid (fixS_bad 0 (by decide))
    go_enter Tryd.func17, Tryd.ntmps17
    go_wp2
    go_ret
    exact ⟨ret_str HB.out.symm, rfl⟩
  have hz' : (n == 0) = false := by simpa using hz
  by_cases hr : 128 ≤ n ∧ n < 160
  · obtain ⟨i, hi⟩ : ∃ i : Nat, n = 128 + (i : Int) := ⟨(n - 128).toNat, by omega⟩
    subst hi
    have hi : i < 32 := by omega
    have HF : Hid (fixS (128 + (i : Int)) = ⟨(encodeRune (tabL.getD i 0)).toArray⟩) := Lib.hid (by
      unfold fixS fixN; rw [if_neg hz, if_pos hr, show (128 + (i : Int) - 128).toNat = i by omega])
    have hc := hT.2 i hi
    obtain ⟨q, hq⟩ : ∃ q, tabL.getD i 0 = q := ⟨_, rfl⟩
    rw [hq] at hc HF
    obtain ⟨hr1, hr2⟩ := hr
    have ii : (i : Int) < 32 := by omega
    clear hz hT hq
    rw [HF.out]
    go_enter Tryd.func17, Tryd.ntmps17
    go_wp2_with (fail)
    refine (sgn_any _ _).mono ?_
    rintro e w1 ⟨rfl, rfl⟩
    go_wp2
    go_ret
    exact ⟨rfl, rfl⟩
  · have HF : Hid (fixS n = ⟨(encodeRune n).toArray⟩) := Lib.hid (by
      unfold fixS fixN; rw [if_neg hz, if_neg hr])
    rw [HF.out]
    by_cases h2 : 128 ≤ n
    · have h3 : 160 ≤ n := by omega
      clear hz hr
      go_enter Tryd.func17, Tryd.ntmps17
      go_wp2_with (fail)
      refine (sgn_any _ _).mono ?_
      rintro e w1 ⟨rfl, rfl⟩
      go_wp2
      go_ret
      exact ⟨rfl, rfl⟩
    · have h3 : n < 128 := by omega
      clear hz hr
      go_enter Tryd.func17, Tryd.ntmps17
      go_wp2_with (fail)
      refine (sgn_any _ _).mono ?_
      rintro e w1 ⟨rfl, rfl⟩
      go_wp2
      go_ret
      exact ⟨rfl, rfl⟩

theorem op_int (n : Nat) (hn : n < 2 ^ 53) (w : World) : (convert 63 3 (.float .f64 (fl n))).run Tryd.prog w = .ok (.int .i64 (n : Int)) w :=
  run_convert_float_int w 63 3 .f64 .i64 (fl n) n (by rw [Tryd.underlying63]; rfl) Tryd.underlying3 (fl_int n hn)

/-- what stands behind a place -/
theorem behind (s : ByteArray) (k : Nat) : (s.extract k s.size).data.toList = s.data.toList.drop k := by
  rw [extract_data, List.take_of_length_le (by rw [List.length_drop, ← Lib.size_eq]; omega)]
theorem eq_zero (c : Nat) (hc : c < 2 ^ 53) : (FloatKind.f64.format.order (fl c) 0 == some .eq) = decide (c = 0) := by
  have e := fl_order c 0 hc (by decide)
  rw [fl_0] at e
  rw [e]
  by_cases h : c = 0
  · subst h; decide
  · rw [Nat.compare_eq_gt.2 (by omega), decide_eq_false h]; rfl
theorem beg_59 (s : ByteArray) (e : Nat) (a : Int) (ha : a = (e : Int)) : begS s a ⟨#[59]⟩ = decide (s.data.toList.getD e 0 = 59) := by
  rw [ha, begS_one s e 59 (by decide), decide_eq_decide]; exact lowB_one _ _ (.inr rfl)
theorem drewN_two (w : World) (a b : Nat) : (w.drewN a).drewN b = w.drewN (a + b) := World.drewN_drewN ..

set_option maxRecDepth 100000 in
set_option maxHeartbeats 1000000 in
/-- # stands there, and no digit -/
theorem read_none (s : ByteArray) (k : Nat) (w : World) (hs : s.size ≤ 1099511627776) (h35 : s.data.toList.getD k 0 = 35) (hne : digsAt s.data.toList k = []) :
    Calls Tryd.prog 19 #[.string s, .int .i64 (k : Int)] w fun e w' => e = .returned (.tuple #[.string ⟨#[]⟩, .int .i64 (k : Int), .bool false]) ∧ ∃ n, w' = w.drewN n := by
  have hk : k < s.size := getD_size s k (by rw [h35]; decide)
  have HB0 : Hid (begS s (k : Int) ⟨#[35]⟩ = true) := Lib.hid (by
    rw [begS_one s k 35 (by decide), decide_eq_true_eq]; exact (lowB_one _ _ (.inl rfl)).2 h35)
  obtain ⟨X, hX⟩ : ∃ X, isX s.data.toList (k + 1) = X := ⟨_, rfl⟩
  have HBX : Hid (begS s ((k : Int) + 1) ⟨#[120]⟩ = X) := Lib.hid (by
    rw [show (k : Int) + 1 = ((k + 1 : Nat) : Int) by omega, begS_one s (k + 1) 120 (by decide), ← hX, isX, decide_eq_decide]; exact lowB_x _)
  have hlt := digsAt_le s k hk
  have hq := (eq_zero 0 (by decide)).trans (decide_eq_true rfl)
  have HN := Lib.hid hne
  rw [hne] at hlt
  clear h35 hne
  have HX := Lib.hid hX
  clear hX
  cases X
  · have HF : Hid (fromN s.data.toList k = k + 1) := Lib.hid (by unfold fromN; rw [HX.out]; rfl)
    rw [HF.out] at hlt
    have g1 : (k : Int) + 1 ≤ (s.size : Int) := by omega
    have hD : digs (baseN false) (s.extract (k + 1) s.size).data.toList = digsAt s.data.toList k := by
      rw [behind]; unfold digsAt; rw [HX.out, HF.out]
    have HD := Lib.hid hD
    clear hD
    go_enter Tryd.func19, Tryd.ntmps19
    go_wp2_with (fail)
    refine (begins s _ ⟨#[35]⟩ _ hs (by decide) (by omega) (by omega)).mono ?_
    rintro e w1 ⟨rfl, n1, rfl⟩
    rw [HB0.out]
    go_wp2_with (fail)
    refine (begins s _ ⟨#[120]⟩ _ hs (by decide) (by omega) (by omega)).mono ?_
    rintro e w1 ⟨rfl, n2, rfl⟩
    rw [HBX.out]
    go_wp2_with (fail)
    refine (added _ _ _ (by rw [ByteArray.size_extract]; omega)).mono ?_
    rintro e w1 ⟨rfl, rfl⟩
    rw [HD.out, HN.out]
    go_wp2
    go_ret3
    exact ⟨rfl, _, rfl⟩
  · have HF : Hid (fromN s.data.toList k = k + 1 + 1) := Lib.hid (by unfold fromN; rw [HX.out]; rfl)
    rw [HF.out] at hlt
    have g1 : (k : Int) + 1 ≤ (s.size : Int) := by omega
    have g2 : (k : Int) + 1 + 1 ≤ (s.size : Int) := by have := (isX_size s _ HX.out); omega
    have hD : digs (baseN true) (s.extract (k + 1 + 1) s.size).data.toList = digsAt s.data.toList k := by
      rw [behind]; unfold digsAt; rw [HX.out, HF.out]
    have HD := Lib.hid hD
    clear hD
    go_enter Tryd.func19, Tryd.ntmps19
    go_wp2_with (fail)
    refine (begins s _ ⟨#[35]⟩ _ hs (by decide) (by omega) (by omega)).mono ?_
    rintro e w1 ⟨rfl, n1, rfl⟩
    rw [HB0.out]
    go_wp2_with (fail)
    refine (begins s _ ⟨#[120]⟩ _ hs (by decide) (by omega) (by omega)).mono ?_
    rintro e w1 ⟨rfl, n2, rfl⟩
    rw [HBX.out]
    go_wp2_with (fail)
    refine (added _ _ _ (by rw [ByteArray.size_extract]; omega)).mono ?_
    rintro e w1 ⟨rfl, rfl⟩
    rw [HD.out, HN.out]
    go_wp2
    go_ret3
    exact ⟨rfl, _, rfl⟩

set_option maxRecDepth 100000 in
set_option maxHeartbeats 1000000 in
theorem read_yes (s : ByteArray) (k : Nat) (w : World) (hs : s.size ≤ 1099511627776) (hr : isRef s.data.toList (k : Int) = true) (hT : TabAt w) :
    Calls Tryd.prog 19 #[.string s, .int .i64 (k : Int)] w fun e w' => e = .returned (.tuple #[.string (fixS (refN s.data.toList k)), .int .i64 (endN s.data.toList k : Nat), .bool true]) ∧ ∃ n, w' = w.drewN n := by
  unfold isRef at hr
  rw [decide_eq_true_eq, show ((k : Nat) : Int).toNat = k by omega] at hr
  obtain ⟨-, h35, hne⟩ := hr
  have hk : k < s.size := getD_size s k (by rw [h35]; decide)
  have HB0 : Hid (begS s (k : Int) ⟨#[35]⟩ = true) := Lib.hid (by
    rw [begS_one s k 35 (by decide), decide_eq_true_eq]; exact (lowB_one _ _ (.inl rfl)).2 h35)
  obtain ⟨X, hX⟩ : ∃ X, isX s.data.toList (k + 1) = X := ⟨_, rfl⟩
  have HBX : Hid (begS s ((k : Int) + 1) ⟨#[120]⟩ = X) := Lib.hid (by
    rw [show (k : Int) + 1 = ((k + 1 : Nat) : Int) by omega, begS_one s (k + 1) 120 (by decide), ← hX, isX, decide_eq_decide]; exact lowB_x _)
  have hlt := digsAt_le s k hk
  obtain ⟨R, hR⟩ : ∃ R, fixS (refN s.data.toList k) = R := ⟨_, rfl⟩
  obtain ⟨E, hE⟩ : ∃ E, endN s.data.toList k = E := ⟨_, rfl⟩
  have hvl := valD_le (baseN (isX s.data.toList (k + 1))) (digsAt s.data.toList k)
  obtain ⟨v, hv⟩ : ∃ v, refN s.data.toList k = v := ⟨_, rfl⟩
  rw [← refN, hv] at hvl
  obtain ⟨c, hc⟩ : ∃ c, (digsAt s.data.toList k).length = c := ⟨_, rfl⟩
  have hc0 : c ≠ 0 := fun h => hne (List.length_eq_zero_iff.1 (hc.trans h))
  rw [hc] at hlt
  have HR := Lib.hid hR
  have HE := Lib.hid hE
  have HV := Lib.hid hv
  have HC := Lib.hid hc
  have hq := (eq_zero c (by omega)).trans (decide_eq_false hc0)
  have hvi := op_int v (by omega)
  have hci := op_int c (by omega)
  rw [hR, hE]
  clear h35 hR hE hv hc hc0 hne
  have HX := Lib.hid hX
  clear hX
  cases X
  · have HF : Hid (fromN s.data.toList k = k + 1) := Lib.hid (by unfold fromN; rw [HX.out]; rfl)
    rw [HF.out] at hlt
    have g1 : (k : Int) + 1 ≤ (s.size : Int) := by omega
    have hD : digs (baseN false) (s.extract (k + 1) s.size).data.toList = digsAt s.data.toList k := by
      rw [behind]; unfold digsAt; rw [HX.out, HF.out]
    have HD := Lib.hid hD
    clear hD
    go_enter Tryd.func19, Tryd.ntmps19
    go_wp2_with (fail)
    refine (begins s _ ⟨#[35]⟩ _ hs (by decide) (by omega) (by omega)).mono ?_
    rintro e w1 ⟨rfl, n1, rfl⟩
    rw [HB0.out]
    go_wp2_with (fail)
    refine (begins s _ ⟨#[120]⟩ _ hs (by decide) (by omega) (by omega)).mono ?_
    rintro e w1 ⟨rfl, n2, rfl⟩
    rw [HBX.out]
    go_wp2_with (fail)
    refine (added _ _ _ (by rw [ByteArray.size_extract]; omega)).mono ?_
    rintro e w1 ⟨rfl, rfl⟩
    rw [HD.out, HC.out, show valD (baseN false) (digsAt s.data.toList k) = v by rw [← HV.out, refN, HX.out]]
    by_cases h59 : s.data.toList.getD (k + 1 + c) 0 = 59
    · have HS : Hid (begS s ((k : Int) + 1 + (c : Int)) ⟨#[59]⟩ = true) := Lib.hid (by rw [beg_59 s (k + 1 + c) _ (by omega), decide_eq_true h59])
      have HEE : Hid (E = k + 1 + c + 1) := Lib.hid (by rw [← HE.out]; unfold endN; rw [HF.out, HC.out, if_pos h59])
      clear h59
      go_wp2_with (fail)
      refine (begins s _ ⟨#[59]⟩ _ hs (by decide) (by omega) (by omega)).mono ?_
      rintro e w1 ⟨rfl, n3, rfl⟩
      rw [HS.out]
      go_wp2_with (fail)
      refine (fix v _ (by omega) (by omega) (hT.drawn _)).mono ?_
      rintro e w1 ⟨rfl, rfl⟩
      go_wp2
      go_ret3
      exact ⟨by rw [← HR.out, HV.out, HEE.out]; simp, _, rfl⟩
    · have HS : Hid (begS s ((k : Int) + 1 + (c : Int)) ⟨#[59]⟩ = false) := Lib.hid (by rw [beg_59 s (k + 1 + c) _ (by omega), decide_eq_false h59])
      have HEE : Hid (E = k + 1 + c) := Lib.hid (by rw [← HE.out]; unfold endN; rw [HF.out, HC.out, if_neg h59])
      clear h59
      go_wp2_with (fail)
      refine (begins s _ ⟨#[59]⟩ _ hs (by decide) (by omega) (by omega)).mono ?_
      rintro e w1 ⟨rfl, n3, rfl⟩
      rw [HS.out]
      go_wp2_with (fail)
      refine (fix v _ (by omega) (by omega) (hT.drawn _)).mono ?_
      rintro e w1 ⟨rfl, rfl⟩
      go_wp2
      go_ret3
      exact ⟨by rw [← HR.out, HV.out, HEE.out]; simp, _, rfl⟩
  · have HF : Hid (fromN s.data.toList k = k + 1 + 1) := Lib.hid (by unfold fromN; rw [HX.out]; rfl)
    rw [HF.out] at hlt
    have g1 : (k : Int) + 1 ≤ (s.size : Int) := by omega
    have g2 : (k : Int) + 1 + 1 ≤ (s.size : Int) := by have := (isX_size s _ HX.out); omega
    have hD : digs (baseN true) (s.extract (k + 1 + 1) s.size).data.toList = digsAt s.data.toList k := by
      rw [behind]; unfold digsAt; rw [HX.out, HF.out]
    have HD := Lib.hid hD
    clear hD
    go_enter Tryd.func19, Tryd.ntmps19
    go_wp2_with (fail)
    refine (begins s _ ⟨#[35]⟩ _ hs (by decide) (by omega) (by omega)).mono ?_
    rintro e w1 ⟨rfl, n1, rfl⟩
    rw [HB0.out]
    go_wp2_with (fail)
    refine (begins s _ ⟨#[120]⟩ _ hs (by decide) (by omega) (by omega)).mono ?_
    rintro e w1 ⟨rfl, n2, rfl⟩
    rw [HBX.out]
    go_wp2_with (fail)
    refine (added _ _ _ (by rw [ByteArray.size_extract]; omega)).mono ?_
    rintro e w1 ⟨rfl, rfl⟩
    rw [HD.out, HC.out, show valD (baseN true) (digsAt s.data.toList k) = v by rw [← HV.out, refN, HX.out]]
    by_cases h59 : s.data.toList.getD (k + 1 + 1 + c) 0 = 59
    · have HS : Hid (begS s ((k : Int) + 1 + 1 + (c : Int)) ⟨#[59]⟩ = true) := Lib.hid (by rw [beg_59 s (k + 1 + 1 + c) _ (by omega), decide_eq_true h59])
      have HEE : Hid (E = k + 1 + 1 + c + 1) := Lib.hid (by rw [← HE.out]; unfold endN; rw [HF.out, HC.out, if_pos h59])
      clear h59
      go_wp2_with (fail)
      refine (begins s _ ⟨#[59]⟩ _ hs (by decide) (by omega) (by omega)).mono ?_
      rintro e w1 ⟨rfl, n3, rfl⟩
      rw [HS.out]
      go_wp2_with (fail)
      refine (fix v _ (by omega) (by omega) (hT.drawn _)).mono ?_
      rintro e w1 ⟨rfl, rfl⟩
      go_wp2
      go_ret3
      exact ⟨by rw [← HR.out, HV.out, HEE.out]; simp, _, rfl⟩
    · have HS : Hid (begS s ((k : Int) + 1 + 1 + (c : Int)) ⟨#[59]⟩ = false) := Lib.hid (by rw [beg_59 s (k + 1 + 1 + c) _ (by omega), decide_eq_false h59])
      have HEE : Hid (E = k + 1 + 1 + c) := Lib.hid (by rw [← HE.out]; unfold endN; rw [HF.out, HC.out, if_neg h59])
      clear h59
      go_wp2_with (fail)
      refine (begins s _ ⟨#[59]⟩ _ hs (by decide) (by omega) (by omega)).mono ?_
      rintro e w1 ⟨rfl, n3, rfl⟩
      rw [HS.out]
      go_wp2_with (fail)
      refine (fix v _ (by omega) (by omega) (hT.drawn _)).mono ?_
      rintro e w1 ⟨rfl, rfl⟩
      go_wp2
      go_ret3
      exact ⟨by rw [← HR.out, HV.out, HEE.out]; simp, _, rfl⟩

/-- what Read tells -/
def txtR (l : List UInt8) (a : Int) : ByteArray := if isRef l a then fixS (refN l a.toNat) else ⟨#[]⟩
def nxtR (l : List UInt8) (a : Int) : Int := if isRef l a then (endN l a.toNat : Nat) else a
theorem txtR_no {l : List UInt8} {a : Int} (h : isRef l a = false) : txtR l a = ⟨#[]⟩ := by unfold txtR; rw [h]; rfl
theorem nxtR_no {l : List UInt8} {a : Int} (h : isRef l a = false) : nxtR l a = a := by unfold nxtR; rw [h]; rfl
theorem txtR_yes {l : List UInt8} {k : Nat} (h : isRef l (k : Int) = true) : txtR l (k : Int) = fixS (refN l k) := by unfold txtR; rw [h]; rfl
theorem nxtR_yes {l : List UInt8} {k : Nat} (h : isRef l (k : Int) = true) : nxtR l (k : Int) = (endN l k : Nat) := by unfold nxtR; rw [h]; rfl

set_option maxRecDepth 100000 in
set_option maxHeartbeats 1000000 in
theorem read (s : ByteArray) (a : Int) (w : World) (hs : s.size ≤ 1099511627776) (ha : -9223372036854775808 ≤ a) (hb : a ≤ 9223372036854775807) (hT : TabAt w) :
    Calls Tryd.prog 19 #[.string s, .int .i64 a] w fun e w' => e = .returned (.tuple #[.string (txtR s.data.toList a), .int .i64 (nxtR s.data.toList a), .bool (isRef s.data.toList a)]) ∧ ∃ n, w' = w.drewN n := by
  by_cases hr : isRef s.data.toList a = true
  · have h0 : 0 ≤ a := by
      unfold isRef at hr
      rw [decide_eq_true_eq] at hr
      exact hr.1
    obtain ⟨k, rfl⟩ : ∃ k : Nat, a = k := ⟨a.toNat, by omega⟩
    rw [txtR_yes hr, nxtR_yes hr, hr]
    exact read_yes s k w hs hr hT
  · have hr' : isRef s.data.toList a = false := by simpa using hr
    rw [txtR_no hr', nxtR_no hr', hr']
    by_cases hq : 0 ≤ a ∧ s.data.toList.getD a.toNat 0 = 35
    · obtain ⟨h0, h35⟩ := hq
      obtain ⟨k, rfl⟩ : ∃ k : Nat, a = k := ⟨a.toNat, by omega⟩
      rw [show ((k : Nat) : Int).toNat = k by omega] at h35
      refine read_none s k w hs h35 ?_
      unfold isRef at hr'
      rw [decide_eq_false_iff_not, show ((k : Nat) : Int).toNat = k by omega] at hr'
      by_cases hd : digsAt s.data.toList k = []
      · exact hd
      · exact absurd ⟨h0, h35, hd⟩ hr'
    · have HB : Hid (begS s a ⟨#[35]⟩ = false) := Lib.hid (by
        by_cases h0 : a < 0
        · exact begS_neg s a _ h0
        · obtain ⟨k, rfl⟩ : ∃ k : Nat, a = k := ⟨a.toNat, by omega⟩
          rw [begS_one s k 35 (by decide), decide_eq_false_iff_not]
          intro h
          refine hq ⟨by omega, ?_⟩
          rw [show ((k : Nat) : Int).toNat = k by omega]
          exact (lowB_one _ _ (.inl rfl)).1 h)
      clear hr hr' hq
      go_enter Tryd.func19, Tryd.ntmps19
      go_wp2_with (fail)
      refine (begins s _ ⟨#[35]⟩ _ hs (by decide) ha hb).mono ?_
      rintro e w1 ⟨rfl, n1, rfl⟩
      rw [HB.out]
      go_wp2
      go_ret3
      exact ⟨rfl, _, rfl⟩

end Go.Proofs.YtdpgdcbclgdjaaaDoor
