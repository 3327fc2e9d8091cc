/-
  What package number's digits come to, added as a complex number of floats.
-/
import Derived.Test.YtdpgdcbclgdjaaaDoorNumMath
import Derived.Test.YtdpgdcbclgdjaaaDoorFloatMath
import Derived.Test.YtdpgdcbclgdjaaaDoorSignBeg
import Derived.Test.YtdpgdcbclgdjaaaDoorUtfSgn
namespace Go.Proofs.YtdpgdcbclgdjaaaDoor
open Go.RowKit Go.Lib

/-- the float of a base -/
def baseF (x : Bool) : Nat := if x then 4625196817309499392 else 4621819117588971520
theorem baseF_fl (x : Bool) : fl (baseN x) = baseF x := by
  cases x
  · exact fl_10
  · exact fl_16
theorem base_le (x : Bool) : baseN x ≤ 16 := by cases x <;> decide

theorem op_mul (x : Bool) (n : Nat) (hn : n ≤ 1114112) (t : TypeId) (w : World) :
    (binOp .mul t (.float .f64 (fl n)) (.float .f64 (baseF x))).run Tryd.prog w = .ok (.float .f64 (fl (n * baseN x))) w := by
  have hb := base_le x
  have hm : n * baseN x ≤ 1114112 * 16 := Nat.mul_le_mul hn hb
  rw [← baseF_fl]
  exact run_float_arith w .mul t .f64 _ _ _ (fl_mul _ _ (by omega) (by omega) (by omega))
theorem op_sum (a d k : Nat) (ha : a ≤ 17825792) (hd : d < 16) (hk : k ≤ 1099511627776) (t : TypeId) (w : World) :
    (binOp .add t (.complex .f64 (fl a) (fl k)) (.complex .f64 (fl d) 4607182418800017408)).run Tryd.prog w = .ok (.complex .f64 (fl (a + d)) (fl (k + 1))) w := by
  refine run_complex_sum w .add (.inl rfl) t .f64 _ _ _ _ _ _ ?_
  rw [← fl_1, cSumBits, fl_add a d (by omega), fl_add k 1 (by omega)]; rfl
theorem lt_zero (d : Nat) (hd : d < 16) : (FloatKind.f64.format.order (fl d) 0 == some .lt) = false := by
  rw [← fl_0, fl_order d 0 (by omega) (by omega)]
  by_cases h : d = 0
  · subst h; decide
  · rw [Nat.compare_eq_gt.2 (by omega)]; rfl
theorem ge_base (x : Bool) (d : Nat) (hd : d < 16) : (FloatKind.f64.format.order (fl d) (baseF x) == some .gt || FloatKind.f64.format.order (fl d) (baseF x) == some .eq) = decide (baseN x ≤ d) := by
  have hb := base_le x
  rw [← baseF_fl, fl_order d _ (by omega) (by omega)]
  rcases Nat.lt_trichotomy d (baseN x) with h | h | h
  · rw [Nat.compare_eq_lt.2 h, decide_eq_false (by omega)]; rfl
  · rw [Nat.compare_eq_eq.2 h, decide_eq_true (by omega)]; rfl
  · rw [Nat.compare_eq_gt.2 h, decide_eq_true (by omega)]; rfl
theorem gt_most (n : Nat) (hn : n < 2 ^ 53) : (FloatKind.f64.format.order (fl n) 4697535882029170688 == some .gt) = decide (1114111 < n) := by
  rw [← fl_most, fl_order n _ hn (by decide)]
  rcases Nat.lt_trichotomy n 1114111 with h | h | h
  · rw [Nat.compare_eq_lt.2 h, decide_eq_false (by omega)]; rfl
  · rw [Nat.compare_eq_eq.2 h, decide_eq_false (by omega)]; rfl
  · rw [Nat.compare_eq_gt.2 h, decide_eq_true (by omega)]; rfl

theorem dig_no (b : Nat) (c : UInt8) (h : hexI (c.toNat : Int) = -1) : isDig b c = false := by
  unfold isDig; rw [h]; exact decide_eq_false (by omega)
theorem dig_over (b : Nat) (c : UInt8) (d : Nat) (h : hexI (c.toNat : Int) = (d : Int)) (hd : b ≤ d) : isDig b c = false := by
  unfold isDig; rw [h]; exact decide_eq_false (by omega)
theorem dig_yes (b : Nat) (c : UInt8) (d : Nat) (h : hexI (c.toNat : Int) = (d : Int)) (hd : d < b) : isDig b c = true := by
  unfold isDig; rw [h]; exact decide_eq_true (by omega)
theorem step_of (b n : Nat) (c : UInt8) (d : Nat) (h : hexI (c.toNat : Int) = (d : Int)) : stepN b n c = capN (n * b + d) := by
  unfold stepN; rw [h]; rfl
theorem take_more (b : Nat) (s : ByteArray) (k : Nat) (h : k < s.size) (hd : ∀ c ∈ s.data.toList.take k, isDig b c = true) (hc : isDig b s[k] = true) : ∀ c ∈ s.data.toList.take (k + 1), isDig b c = true := by
  rw [take_snoc s k h]
  intro c hm
  rcases List.mem_append.1 hm with hm | hm
  · exact hd c hm
  · rw [List.mem_singleton.1 hm]; exact hc

set_option maxRecDepth 100000 in
set_option maxHeartbeats 1000000 in
theorem added (s : ByteArray) (x : Bool) (w : World) (hs : s.size ≤ 1099511627776) :
    Calls Tryd.prog 38 #[.string s, .bool x] w fun e w' => e = .returned (.complex .f64 (fl (valD (baseN x) (digs (baseN x) s.data.toList))) (fl (digs (baseN x) s.data.toList).length)) ∧ w = w' := by
  obtain ⟨b, hb⟩ : ∃ b, baseN x = b := ⟨_, rfl⟩
  obtain ⟨V, hV⟩ : ∃ V, fl (valD b (digs b s.data.toList)) = V := ⟨_, rfl⟩
  obtain ⟨C, hC⟩ : ∃ C, fl (digs b s.data.toList).length = C := ⟨_, rfl⟩
  have HV := Lib.hid hV
  have HC := Lib.hid hC
  have HB : b ≤ 16 := by rw [← hb]; exact base_le x
  have HM : Hid (∀ n, n ≤ 1114112 → ∀ t w, (binOp .mul t (.float .f64 (fl n)) (.float .f64 (baseF x))).run Tryd.prog w = .ok (.float .f64 (fl (n * b))) w) := Lib.hid (by rw [← hb]; exact op_mul x)
  have HG : Hid (∀ d, d < 16 → (FloatKind.f64.format.order (fl d) (baseF x) == some .gt || FloatKind.f64.format.order (fl d) (baseF x) == some .eq) = decide (b ≤ d)) := Lib.hid (by rw [← hb]; exact ge_base x)
  rw [hb, hV, hC]
  obtain ⟨B, hB⟩ : ∃ B, baseF x = B := ⟨_, rfl⟩
  rw [hB] at HM HG
  have hx : x = false ∧ B = 4621819117588971520 ∨ x = true ∧ B = 4625196817309499392 := by
    cases x
    · exact .inl ⟨rfl, hB.symm⟩
    · exact .inr ⟨rfl, hB.symm⟩
  clear hV hC hb hB
  have F0 : Hid (fl 0 = 0) := Lib.hid fl_0
  rcases hx with ⟨rfl, rfl⟩ | ⟨rfl, rfl⟩
  all_goals
    go_enter Tryd.func38, Tryd.ntmps38
    go_wp2
    go_loopw [6, 12] (fun z v wr => ∃ k : Nat, k ≤ s.size ∧ v = .int .i64 (k : Int) ∧ z = .complex .f64 (fl (valD b (s.data.toList.take k))) (fl k) ∧ (∀ c ∈ s.data.toList.take k, isDig b c = true) ∧ w = wr) (fun _ v _ => s.size - (intOf v).toNat)
    case atStart => exact ⟨0, Nat.zero_le _, rfl, by rw [List.take_zero, show valD b [] = 0 from rfl, F0.out], by simp, rfl⟩
    case round =>
      obtain ⟨k, hk, rfl, rfl, hd, rfl⟩ := hrel
      have HD := Lib.hid hd
      clear hd
      obtain ⟨n, hn⟩ : ∃ n, valD b (s.data.toList.take k) = n := ⟨_, rfl⟩
      have hn0 : n ≤ 1114112 := by rw [← hn]; exact valD_le _ _
      have HN := Lib.hid hn
      rw [hn]
      clear hn
      by_cases hlt : k < s.size
      · have hc := s[k].toNat_lt
        rcases hex_range (s[k].toNat : Int) (by omega) (by omega) with h | h
        · have HX := Lib.hid h
          have hl := fl_less
          clear h
          go_wp2_with (fail)
          refine (hex _ _ (by omega) (by omega)).mono ?_
          rintro e w1 ⟨rfl, rfl⟩
          rw [HX.out]
          go_wp2
          go_ret
          have e := digs_stop b s k HD.out (fun h => dig_no b _ HX.out)
          exact ⟨by rw [← HV.out, ← HC.out, e, HN.out, List.length_take, Nat.min_eq_left (by rw [← Lib.size_eq]; exact hk)]; rfl, rfl⟩
        · obtain ⟨d, hd⟩ : ∃ d : Nat, hexI (s[k].toNat : Int) = (d : Int) := ⟨(hexI (s[k].toNat : Int)).toNat, by omega⟩
          rw [hd] at h
          have hd16 : d < 16 := by omega
          have HX := Lib.hid hd
          clear h hd
          have hfo := fl_of d
          have hz := lt_zero d hd16
          by_cases hlb : b ≤ d
          · have hg : (FloatKind.f64.format.order (fl d) _ == some .gt || FloatKind.f64.format.order (fl d) _ == some .eq) = true := (HG.out d hd16).trans (decide_eq_true hlb)
            go_wp2_with (fail)
            refine (hex _ _ (by omega) (by omega)).mono ?_
            rintro e w1 ⟨rfl, rfl⟩
            rw [HX.out]
            go_wp2
            go_ret
            have e := digs_stop b s k HD.out (fun h => dig_over b _ d HX.out hlb)
            exact ⟨by rw [← HV.out, ← HC.out, e, HN.out, List.length_take, Nat.min_eq_left (by rw [← Lib.size_eq]; exact hk)]; rfl, rfl⟩
          · have hg : (FloatKind.f64.format.order (fl d) _ == some .gt || FloatKind.f64.format.order (fl d) _ == some .eq) = false := (HG.out d hd16).trans (decide_eq_false hlb)
            have hm := HM.out n hn0
            have hnb : n * b ≤ 1114112 * 16 := Nat.mul_le_mul hn0 HB
            have hsm := op_sum (n * b) d k (by omega) hd16 (by omega)
            have hmost := gt_most (n * b + d) (by omega)
            have HY := Lib.hid (dig_yes b s[k] d HX.out (by omega))
            have HS : Hid (valD b (s.data.toList.take (k + 1)) = capN (n * b + d)) := Lib.hid (by rw [take_snoc s k hlt, valD_snoc, HN.out, step_of b n _ d HX.out])
            by_cases hcap : 1114111 < n * b + d
            · rw [decide_eq_true hcap] at hmost
              have HK := Lib.hid (show capN (n * b + d) = 1114112 by unfold capN; rw [if_pos hcap])
              clear hcap hnb
              go_wp2_with (fail)
              refine (hex _ _ (by omega) (by omega)).mono ?_
              rintro e w1 ⟨rfl, rfl⟩
              rw [HX.out]
              go_wp2
              go_roundw
              case rel => exact ⟨k + 1, by omega, by go_num, by rw [HS.out, HK.out, fl_more], take_more b s k hlt HD.out HY.out, trivial⟩
              case measure => simp [intOf]; omega
            · rw [decide_eq_false hcap] at hmost
              have HK := Lib.hid (show capN (n * b + d) = n * b + d by unfold capN; rw [if_neg hcap])
              clear hcap hnb
              go_wp2_with (fail)
              refine (hex _ _ (by omega) (by omega)).mono ?_
              rintro e w1 ⟨rfl, rfl⟩
              rw [HX.out]
              go_wp2
              go_roundw
              case rel => exact ⟨k + 1, by omega, by go_num, by rw [HS.out, HK.out], take_more b s k hlt HD.out HY.out, trivial⟩
              case measure => simp [intOf]; omega
      · go_wp2
        go_ret
        have e := digs_stop b s k HD.out (fun h => absurd h hlt)
        exact ⟨by rw [← HV.out, ← HC.out, e, HN.out, List.length_take, Nat.min_eq_left (by rw [← Lib.size_eq]; exact hk)]; rfl, rfl⟩
end Go.Proofs.YtdpgdcbclgdjaaaDoor
