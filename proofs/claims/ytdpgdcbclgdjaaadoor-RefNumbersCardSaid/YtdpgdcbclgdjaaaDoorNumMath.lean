/-
  What digits are, and what reference by a number stands at a place: plain mathematics.
-/
import Derived.Test.YtdpgdcbclgdjaaaDoorSignMath
import Derived.Test.YtdpgdcbclgdjaaaDoorUtfMathB
namespace Go.Proofs.YtdpgdcbclgdjaaaDoor
open Go.RowKit Go.Lib

/-- the greatest number that is kept, and one more -/
def capN (n : Nat) : Nat := if 1114111 < n then 1114112 else n
/-- one digit more -/
def stepN (b n : Nat) (c : UInt8) : Nat := capN (n * b + (hexI (c.toNat : Int)).toNat)
/-- whether a byte is a digit of a base -/
def isDig (b : Nat) (c : UInt8) : Bool := decide (0 ≤ hexI (c.toNat : Int) ∧ hexI (c.toNat : Int) < (b : Int))
/-- what digits are -/
def valD (b : Nat) (l : List UInt8) : Nat := l.foldl (stepN b) 0
/-- the digits that stand ahead -/
def digs (b : Nat) (l : List UInt8) : List UInt8 := l.takeWhile (isDig b)

theorem capN_le (n : Nat) : capN n ≤ 1114112 := by unfold capN; split <;> omega
theorem valD_le (b : Nat) (l : List UInt8) : valD b l ≤ 1114112 := by
  rcases List.eq_nil_or_concat l with rfl | ⟨i, x, rfl⟩
  · exact Nat.zero_le _
  · rw [List.concat_eq_append]
    unfold valD
    rw [List.foldl_append]
    exact capN_le _
theorem valD_snoc (b : Nat) (l : List UInt8) (c : UInt8) : valD b (l ++ [c]) = stepN b (valD b l) c := by
  unfold valD; rw [List.foldl_append]; rfl
theorem hex_range (q : Int) (h0 : 0 ≤ q) (h1 : q < 256) : hexI q = -1 ∨ 0 ≤ hexI q ∧ hexI q < 16 := by
  unfold hexI
  split
  · omega
  · split
    · omega
    · split <;> omega
theorem take_snoc (s : ByteArray) (k : Nat) (h : k < s.size) : s.data.toList.take (k + 1) = s.data.toList.take k ++ [s[k]] := by
  rw [List.take_succ_eq_append_getElem (by rw [← Lib.size_eq]; exact h)]; rfl
theorem digs_stop (b : Nat) (s : ByteArray) (k : Nat) (hd : ∀ c ∈ s.data.toList.take k, isDig b c = true) (h : ∀ h : k < s.size, isDig b s[k] = false) :
    digs b s.data.toList = s.data.toList.take k := by
  have e : digs b (s.data.toList.take k ++ s.data.toList.drop k) = s.data.toList.take k := by
    unfold digs
    rw [List.takeWhile_append_of_pos hd]
    by_cases hlt : k < s.size
    · rw [drop_at s k hlt, List.takeWhile_cons_of_neg (by rw [h hlt]; exact Bool.false_ne_true), List.append_nil]
    · rw [List.drop_eq_nil_of_le (by rw [← Lib.size_eq]; omega), List.takeWhile_nil, List.append_nil]
  rwa [List.take_append_drop] at e
theorem digs_len (b : Nat) (l : List UInt8) : (digs b l).length ≤ l.length := (List.takeWhile_sublist _).length_le
theorem digs_all (b : Nat) (l : List UInt8) (h : (digs b l).length = l.length) : digs b l = l := (List.takeWhile_sublist _).eq_of_length h

/-- the sixteen and ten digits -/
def baseN (x : Bool) : Nat := if x then 16 else 10
/-- what digits are, told as an int -/
def valI (x : Bool) (l : List UInt8) : Int := if l = [] ∨ (digs (baseN x) l).length < l.length then -1 else (valD (baseN x) l : Int)

/-- the older signs -/
def tabL : List Int := [8364, 129, 8218, 402, 8222, 8230, 8224, 8225, 710, 8240, 352, 8249, 338, 141, 381, 143, 144, 8216, 8217, 8220, 8221, 8226, 8211, 8212, 732, 8482, 353, 8250, 339, 157, 382, 376]
def fixN (n : Int) : Int := if n = 0 then -1 else if 128 ≤ n ∧ n < 160 then tabL.getD (n - 128).toNat 0 else n
/-- the sign that a number means -/
def fixS (n : Int) : ByteArray := ⟨(encodeRune (fixN n)).toArray⟩

/-- whether x or X stands at a place -/
def isX (l : List UInt8) (k : Nat) : Bool := decide (l.getD k 0 = 120 ∨ l.getD k 0 = 88)
/-- where digits begin, with # at k -/
def fromN (l : List UInt8) (k : Nat) : Nat := if isX l (k + 1) then k + 2 else k + 1
/-- the digits of a reference with # at k -/
def digsAt (l : List UInt8) (k : Nat) : List UInt8 := digs (baseN (isX l (k + 1))) (l.drop (fromN l k))
/-- where it ends -/
def endN (l : List UInt8) (k : Nat) : Nat := if l.getD (fromN l k + (digsAt l k).length) 0 = 59 then fromN l k + (digsAt l k).length + 1 else fromN l k + (digsAt l k).length
/-- whether a reference by a number stands at a place -/
def isRef (l : List UInt8) (a : Int) : Bool := decide (0 ≤ a ∧ l.getD a.toNat 0 = 35 ∧ digsAt l a.toNat ≠ [])
/-- its number -/
def refN (l : List UInt8) (k : Nat) : Nat := valD (baseN (isX l (k + 1))) (digsAt l k)

theorem lowB_one (c d : UInt8) (hd : d = 35 ∨ d = 59) : (lowB c = d) ↔ c = d := by
  have h := lowB_int c
  unfold lowI at h
  rw [← UInt8.toNat_inj, ← UInt8.toNat_inj]
  rcases hd with rfl | rfl
  · rw [show (35 : UInt8).toNat = 35 from rfl]; split at h <;> omega
  · rw [show (59 : UInt8).toNat = 59 from rfl]; split at h <;> omega
theorem lowB_x (c : UInt8) : (lowB c = 120) ↔ c = 120 ∨ c = 88 := by
  have h := lowB_int c
  unfold lowI at h
  rw [← UInt8.toNat_inj, ← UInt8.toNat_inj, ← UInt8.toNat_inj, show (120 : UInt8).toNat = 120 from rfl, show (88 : UInt8).toNat = 88 from rfl]
  split at h <;> omega
/-- what one byte at a place is -/
theorem begS_one (s : ByteArray) (k : Nat) (d : UInt8) (hd : d ≠ 0) : begS s (k : Int) ⟨#[d]⟩ = decide (lowB (s.data.toList.getD k 0) = d) := by
  unfold begS
  rw [show ((k : Nat) : Int).toNat = k by omega, show (ByteArray.mk #[d]).data.toList = [d] from rfl]
  by_cases h : k < s.size
  · rw [drop_at s k h, lowL_cons, decide_eq_true (by omega), Bool.true_and, List.isPrefixOf_cons_cons]
    have e : s.data.toList.getD k 0 = s[k] := by
      rw [List.getD_eq_getElem?_getD, List.getElem?_eq_getElem (by rw [← Lib.size_eq]; exact h)]; rfl
    rw [e]
    simp only [List.isPrefixOf_nil_left, Bool.and_true]
    rw [Bool.eq_iff_iff, beq_iff_eq, decide_eq_true_iff]
    exact eq_comm
  · have e : s.data.toList.getD k 0 = 0 := by
      rw [List.getD_eq_getElem?_getD, List.getElem?_eq_none (by rw [← Lib.size_eq]; omega)]; rfl
    rw [List.drop_eq_nil_of_le (by rw [← Lib.size_eq]; omega), e]
    rw [show lowL [] = [] from rfl, show List.isPrefixOf [d] [] = false from rfl, Bool.and_false]
    exact (decide_eq_false (fun h => hd h.symm)).symm
theorem begS_neg (s : ByteArray) (a : Int) (low : ByteArray) (h : a < 0) : begS s a low = false := by
  unfold begS; rw [decide_eq_false (by omega)]; rfl
theorem getD_size (s : ByteArray) (k : Nat) (h : s.data.toList.getD k 0 ≠ 0) : k < s.size := by
  rcases Nat.lt_or_ge k s.size with h1 | h1
  · exact h1
  · exact absurd (by rw [List.getD_eq_getElem?_getD, List.getElem?_eq_none (by rw [← Lib.size_eq]; omega)]; rfl) h
theorem getD_is (s : ByteArray) (k : Nat) (h : k < s.size) : s.data.toList.getD k 0 = s[k] := by
  rw [List.getD_eq_getElem?_getD, List.getElem?_eq_getElem (by rw [← Lib.size_eq]; exact h)]; rfl
theorem isX_size (s : ByteArray) (k : Nat) (h : isX s.data.toList k = true) : k < s.size := by
  unfold isX at h
  rw [decide_eq_true_eq] at h
  refine getD_size s k ?_
  rcases h with h | h <;> rw [h] <;> decide
theorem from_le (s : ByteArray) (k : Nat) (h : k < s.size) : fromN s.data.toList k ≤ s.size ∧ k + 1 ≤ fromN s.data.toList k := by
  unfold fromN
  by_cases hx : isX s.data.toList (k + 1) = true
  · rw [if_pos hx]; have := isX_size s _ hx; omega
  · rw [if_neg hx]; omega
theorem digsAt_le (s : ByteArray) (k : Nat) (h : k < s.size) : fromN s.data.toList k + (digsAt s.data.toList k).length ≤ s.size := by
  have h1 := from_le s k h
  have h2 := digs_len (baseN (isX s.data.toList (k + 1))) (s.data.toList.drop (fromN s.data.toList k))
  rw [List.length_drop, ← Lib.size_eq] at h2
  unfold digsAt
  omega
theorem end_le (s : ByteArray) (k : Nat) (h : k < s.size) : endN s.data.toList k ≤ s.size ∧ fromN s.data.toList k + (digsAt s.data.toList k).length ≤ endN s.data.toList k := by
  have h2 := digsAt_le s k h
  unfold endN
  split
  · rename_i h3
    have := getD_size s _ (by rw [h3]; decide)
    omega
  · omega

end Go.Proofs.YtdpgdcbclgdjaaaDoor
