/-
  Whole numbers below 2^53 as floats: read, added, multiplied, compared and cut back exactly: plain mathematics over the interface of floats.
-/
import Derived.Laws.FloatArith
import Derived.Laws.ComplexArith
namespace Go.Proofs.YtdpgdcbclgdjaaaDoor
open Ieee

/-- the word of a whole number -/
def fl (n : Nat) : Nat := Ieee.double.write (.number false n 0)
/-- a datum that is a whole number -/
def Num (d : Datum) (n : Nat) : Prop := ∃ k : Nat, d = .number false (n * 2 ^ k) (-(k : Int))

theorem cut_even (n k : Nat) (h : k ≤ (n * 2 ^ k).log2 + 2) : Toward.even.cut false (n * 2 ^ k) k = n := by
  have hm : min k ((n * 2 ^ k).log2 + 2) = k := Nat.min_eq_left h
  have hp : 0 < 2 ^ k := Nat.two_pow_pos k
  simp only [Toward.cut, hm, Nat.shiftLeft_eq, Nat.one_mul, Nat.mul_mod_left, Nat.mul_div_cancel _ hp]
  have h2 : ((2 ^ k : Nat) == 2 * 0) = false := by simp
  simp [h2]
theorem cut_zero (n k : Nat) (h : k ≤ (n * 2 ^ k).log2 + 2) : Toward.zero.cut false (n * 2 ^ k) k = n := by
  have hm : min k ((n * 2 ^ k).log2 + 2) = k := Nat.min_eq_left h
  have hp : 0 < 2 ^ k := Nat.two_pow_pos k
  simp [Toward.cut, hm, Nat.shiftLeft_eq, Nat.mul_div_cancel _ hp]

theorem log2_mul_pow (n k : Nat) (h : n ≠ 0) : (n * 2 ^ k).log2 = n.log2 + k := by
  have hp : 0 < 2 ^ k := Nat.two_pow_pos k
  have hn : n * 2 ^ k ≠ 0 := by
    intro e
    rcases Nat.mul_eq_zero.1 e with e | e <;> omega
  rw [Nat.log2_eq_iff hn]
  have h1 := Nat.log2_self_le h
  have h2 := @Nat.lt_log2_self n
  constructor
  · rw [Nat.pow_add]; exact Nat.mul_le_mul_right _ h1
  · rw [show n.log2 + k + 1 = n.log2 + 1 + k by omega, Nat.pow_add]; exact Nat.mul_lt_mul_of_pos_right h2 hp

/-- the rung of a whole number -/
def rungOf (n : Nat) : Nat := if n = 0 then 0 else (n.log2 + 1022) * 2 ^ 52 + n * 2 ^ (52 - n.log2)

theorem log2_le (n : Nat) (hn : n < 2 ^ 53) : n.log2 ≤ 52 := by
  by_cases h : n = 0
  · subst h; decide
  · have := (Nat.log2_lt h).2 hn
    omega

theorem write_num (n k : Nat) (hn : n < 2 ^ 53) : Ieee.double.write (.number false (n * 2 ^ k) (-(k : Int))) = rungOf n := by
  have hL := log2_le n hn
  by_cases h : n = 0
  · subst h
    simp [Format.write, Format.nearest, rungOf, Format.word]
  · have hp : 0 < 2 ^ k := Nat.two_pow_pos k
    have hn0 : n * 2 ^ k ≠ 0 := by
      intro e
      rcases Nat.mul_eq_zero.1 e with e | e <;> omega
    have hl := log2_mul_pow n k h
    have hleast : Ieee.double.leastPlace = -1074 := by decide
    have hfr : Ieee.double.fractionBits = 52 := rfl
    have hmax : max (-(k : Int) + ((n.log2 + k : Nat) : Int) - (52 : Nat)) (-1074) = (n.log2 : Int) - 52 := by omega
    have hk : (n * 2 ^ k) <<< (-(k : Int) - ((n.log2 : Int) - 52)).toNat = (n * 2 ^ (52 - n.log2)) * 2 ^ ((n.log2 : Int) - 52 - -(k : Int)).toNat := by
      rw [Nat.shiftLeft_eq]
      by_cases hc : k ≤ 52 - n.log2
      · rw [show ((n.log2 : Int) - 52 - -(k : Int)).toNat = 0 by omega, show (-(k : Int) - ((n.log2 : Int) - 52)).toNat = 52 - n.log2 - k by omega, Nat.pow_zero, Nat.mul_one, Nat.mul_assoc, ← Nat.pow_add]
        congr 2; omega
      · rw [show (-(k : Int) - ((n.log2 : Int) - 52)).toNat = 0 by omega, show ((n.log2 : Int) - 52 - -(k : Int)).toNat = k - (52 - n.log2) by omega, Nat.pow_zero, Nat.mul_one, Nat.mul_assoc, ← Nat.pow_add]
        congr 2; omega
    have hcut : Toward.even.cut false ((n * 2 ^ (52 - n.log2)) * 2 ^ ((n.log2 : Int) - 52 - -(k : Int)).toNat) ((n.log2 : Int) - 52 - -(k : Int)).toNat = n * 2 ^ (52 - n.log2) := by
      refine cut_even _ _ ?_
      rw [log2_mul_pow _ _ (by
        intro e
        rcases Nat.mul_eq_zero.1 e with e | e
        · exact h e
        · have := Nat.two_pow_pos (52 - n.log2); omega)]
      omega
    have hK : n * 2 ^ (52 - n.log2) < 2 ^ 53 := by
      have h2 := @Nat.lt_log2_self n
      have h3 : n * 2 ^ (52 - n.log2) < 2 ^ (n.log2 + 1) * 2 ^ (52 - n.log2) := Nat.mul_lt_mul_of_pos_right h2 (Nat.two_pow_pos _)
      rw [← Nat.pow_add, show n.log2 + 1 + (52 - n.log2) = 53 by omega] at h3
      exact h3
    have hinf : Ieee.double.infRung = 2047 * 2 ^ 52 := by decide
    have hbin : Ieee.double.binade = 2 ^ 52 := by decide
    simp only [Format.write, Format.nearest, if_neg hn0, hl, hleast, hfr, hmax, hk, hcut, hinf, hbin, Format.word, rungOf, if_neg h]
    rw [show ((n.log2 : Int) - 52 - -1074).toNat = n.log2 + 1022 by omega]
    simp only [Bool.false_eq_true, if_false]
    refine Nat.min_eq_left ?_
    omega

theorem fl_rung (n : Nat) (hn : n < 2 ^ 53) : fl n = rungOf n := by
  have := write_num n 0 hn
  simpa [fl] using this

theorem read_fl (n : Nat) (hn : n < 2 ^ 53) : Num (Ieee.double.read (fl n)) n := by
  rw [fl_rung n hn]
  have hL := log2_le n hn
  have hleast : Ieee.double.leastPlace = -1074 := by decide
  have hinf : Ieee.double.infRung = 2047 * 2 ^ 52 := by decide
  have hbin : Ieee.double.binade = 2 ^ 52 := by decide
  have hsw : Ieee.double.signWeight = 2 ^ 63 := by decide
  by_cases h : n = 0
  · subst h
    obtain ⟨k, hk⟩ : ∃ k : Nat, k = 1074 := ⟨_, rfl⟩
    refine ⟨k, ?_⟩
    rw [Nat.zero_mul, hk]
    decide
  · have hK : n * 2 ^ (52 - n.log2) < 2 ^ 53 := by
      have h2 := @Nat.lt_log2_self n
      have h3 : n * 2 ^ (52 - n.log2) < 2 ^ (n.log2 + 1) * 2 ^ (52 - n.log2) := Nat.mul_lt_mul_of_pos_right h2 (Nat.two_pow_pos _)
      rw [← Nat.pow_add, show n.log2 + 1 + (52 - n.log2) = 53 by omega] at h3
      exact h3
    have hK0 : 2 ^ 52 ≤ n * 2 ^ (52 - n.log2) := by
      have h1 := Nat.log2_self_le h
      have h3 : 2 ^ n.log2 * 2 ^ (52 - n.log2) ≤ n * 2 ^ (52 - n.log2) := Nat.mul_le_mul_right _ h1
      rw [← Nat.pow_add, show n.log2 + (52 - n.log2) = 52 by omega] at h3
      exact h3
    obtain ⟨K, hKe⟩ : ∃ K, n * 2 ^ (52 - n.log2) = K := ⟨_, rfl⟩
    obtain ⟨l, hl⟩ : ∃ l, n.log2 = l := ⟨_, rfl⟩
    refine ⟨52 - l, ?_⟩
    simp only [rungOf, if_neg h]
    rw [hKe] at hK hK0
    rw [hKe, hl]
    rw [hl] at hKe hL
    rw [hKe]
    clear h hn hKe hl
    have e1 : ((l + 1022) * 2 ^ 52 + K) / 2 ^ 63 % 2 = 0 := by omega
    have e2 : ((l + 1022) * 2 ^ 52 + K) % 2 ^ 63 = (l + 1022) * 2 ^ 52 + K := by omega
    have e3 : ¬ (l + 1022) * 2 ^ 52 + K < 2 ^ 52 := by omega
    have e4 : (l + 1022) * 2 ^ 52 + K < 2047 * 2 ^ 52 := by omega
    have e5 : ((l + 1022) * 2 ^ 52 + K) % 2 ^ 52 = K - 2 ^ 52 := by omega
    have e6 : ((l + 1022) * 2 ^ 52 + K) / 2 ^ 52 = l + 1023 := by omega
    simp only [Format.read, hsw, hbin, hinf, hleast, e1, e2, if_neg e3, if_pos e4, e5, e6]
    have e7 : 2 ^ 52 + (K - 2 ^ 52) = K := by omega
    have e8 : (-1074 : Int) + ((l + 1023 - 1 : Nat) : Int) = -((52 - l : Nat) : Int) := by omega
    rw [e7, e8, show ((0 : Nat) == 1) = false from rfl]

theorem num_write {d : Datum} {n : Nat} (h : Num d n) (hn : n < 2 ^ 53) : Ieee.double.write d = fl n := by
  obtain ⟨k, rfl⟩ := h
  rw [write_num n k hn, fl_rung n hn]

theorem up_eq (n k l : Nat) (b : Int) (hb : b = -(l : Int)) (h : k ≤ l) : (n * 2 ^ k) <<< (-(k : Int) - b).toNat = n * 2 ^ l := by
  rw [Nat.shiftLeft_eq, show (-(k : Int) - b).toNat = l - k by omega, Nat.mul_assoc, ← Nat.pow_add, show k + (l - k) = l by omega]

theorem num_sum {d e : Datum} {a b : Nat} (hd : Num d a) (he : Num e b) : ∃ c, d.sum e = some c ∧ Num c (a + b) := by
  obtain ⟨k, rfl⟩ := hd
  obtain ⟨l, rfl⟩ := he
  have hb : min (-(k : Int)) (-(l : Int)) = -((max k l : Nat) : Int) := by omega
  have e1 := up_eq a k (max k l) _ hb (Nat.le_max_left ..)
  have e2 := up_eq b l (max k l) _ hb (Nat.le_max_right ..)
  have e3 : ((a * 2 ^ max k l : Nat) : Int) + ((b * 2 ^ max k l : Nat) : Int) = (((a + b) * 2 ^ max k l : Nat) : Int) := by
    rw [Nat.add_mul]; omega
  refine ⟨.number false ((a + b) * 2 ^ max k l) (-((max k l : Nat) : Int)), ?_, max k l, rfl⟩
  rw [hb] at e1 e2
  simp only [Datum.sum, signed, hb, e1, e2, e3, Bool.false_eq_true, if_false, Bool.and_false, Int.natAbs_natCast]
  congr 2
  split
  · rfl
  · exact decide_eq_false (by omega)

theorem num_product {d e : Datum} {a b : Nat} (hd : Num d a) (he : Num e b) : ∃ c, d.product e = some c ∧ Num c (a * b) := by
  obtain ⟨k, rfl⟩ := hd
  obtain ⟨l, rfl⟩ := he
  refine ⟨_, rfl, k + l, ?_⟩
  simp only [Bool.xor_false]
  congr 1
  · rw [Nat.pow_add, Nat.mul_mul_mul_comm]
  · omega

theorem cmp_lt {x y : Int} (h : x < y) : compare x y = .lt := by
  show compareOfLessAndEq x y = .lt
  unfold compareOfLessAndEq
  rw [if_pos h]
theorem cmp_eq {x y : Int} (h : x = y) : compare x y = .eq := by
  show compareOfLessAndEq x y = .eq
  unfold compareOfLessAndEq
  rw [if_neg (by omega), if_pos h]
theorem cmp_gt {x y : Int} (h : y < x) : compare x y = .gt := by
  show compareOfLessAndEq x y = .gt
  unfold compareOfLessAndEq
  rw [if_neg (by omega), if_neg (by omega)]
theorem num_order {d e : Datum} {a b : Nat} (hd : Num d a) (he : Num e b) : d.order e = some (compare a b) := by
  obtain ⟨k, rfl⟩ := hd
  obtain ⟨l, rfl⟩ := he
  have hb : min (-(k : Int)) (-(l : Int)) = -((max k l : Nat) : Int) := by omega
  have e1 := up_eq a k (max k l) _ hb (Nat.le_max_left ..)
  have e2 := up_eq b l (max k l) _ hb (Nat.le_max_right ..)
  have hp := Nat.two_pow_pos (max k l)
  rw [hb] at e1 e2
  simp only [Datum.order, signed, hb, e1, e2, Bool.false_eq_true, if_false]
  congr 1
  rcases Nat.lt_trichotomy a b with h | h | h
  · rw [Nat.compare_eq_lt.2 h]
    exact cmp_lt (Int.ofNat_lt.2 (Nat.mul_lt_mul_of_pos_right h hp))
  · subst h
    rw [Nat.compare_eq_eq.2 rfl]
    exact cmp_eq rfl
  · rw [Nat.compare_eq_gt.2 h]
    exact cmp_gt (Int.ofNat_lt.2 (Nat.mul_lt_mul_of_pos_right h hp))

theorem num_int {d : Datum} {n : Nat} (h : Num d n) : d.toInt .zero = some (n : Int) := by
  obtain ⟨k, rfl⟩ := h
  have h1 : (-(k : Int)).toNat = 0 := by omega
  have h2 : (-(-(k : Int))).toNat = k := by omega
  simp only [Datum.toInt, Datum.integral, h1, h2, Nat.shiftLeft_zero]
  rw [show Toward.zero.cut false (n * 2 ^ k) k = n by
    by_cases h : n = 0
    · subst h; simp [Toward.cut]
    · exact cut_zero n k (by rw [log2_mul_pow n k h]; omega)]
  simp [signed]

theorem fl_add (a b : Nat) (h : a + b < 2 ^ 53) : floatBits .add .f64 (fl a) (fl b) = some (fl (a + b)) := by
  obtain ⟨c, hc, hn⟩ := num_sum (read_fl a (by omega)) (read_fl b (by omega))
  show Ieee.double.add (fl a) (fl b) = _
  unfold Format.add
  rw [hc, Option.map_some, num_write hn h]
theorem fl_mul (a b : Nat) (ha : a < 2 ^ 53) (hb : b < 2 ^ 53) (h : a * b < 2 ^ 53) : floatBits .mul .f64 (fl a) (fl b) = some (fl (a * b)) := by
  obtain ⟨c, hc, hn⟩ := num_product (read_fl a ha) (read_fl b hb)
  show Ieee.double.mul (fl a) (fl b) = _
  unfold Format.mul
  rw [hc, Option.map_some, num_write hn h]
theorem fl_order (a b : Nat) (ha : a < 2 ^ 53) (hb : b < 2 ^ 53) : FloatKind.f64.format.order (fl a) (fl b) = some (compare a b) :=
  num_order (read_fl a ha) (read_fl b hb)
theorem fl_int (n : Nat) (h : n < 2 ^ 53) : floatToIntVal .f64 (fl n) .i64 = some (n : Int) := by
  have h1 : (FloatKind.f64.decode (fl n)).toInt .zero = some (n : Int) := num_int (read_fl n h)
  unfold floatToIntVal
  rw [h1]
  have h2 : IntKind.i64.min = -9223372036854775808 := by decide
  have h3 : IntKind.i64.max = 9223372036854775807 := by decide
  simp only [h2, h3]
  rw [if_pos (by omega)]
theorem fl_of (n : Nat) : floatOfInt .f64 (n : Int) = fl n := by
  show FloatKind.f64.nearest (n : Int) = fl n
  unfold FloatKind.nearest FloatKind.encode fl
  rw [show decide ((n : Int) < 0) = false from decide_eq_false (by omega), Int.natAbs_natCast]
  rfl

theorem fl_0 : fl 0 = 0 := by decide
theorem fl_1 : fl 1 = 4607182418800017408 := by decide
theorem fl_10 : fl 10 = 4621819117588971520 := by decide
theorem fl_16 : fl 16 = 4625196817309499392 := by decide
theorem fl_most : fl 1114111 = 4697535882029170688 := by decide
theorem fl_more : fl 1114112 = 4697535886324137984 := by decide
theorem fl_less : FloatKind.f64.format.order (floatOfInt .f64 (-1)) 0 = some .lt := by decide
end Go.Proofs.YtdpgdcbclgdjaaaDoor
