/-
  What the bytes of a text are as signs, in plain Lean: how long a sign is, what the longest beginning is, what decoding gives. No program in it.
-/
import Derived.Lib.MapLaws
import Derived.Lib.ValidLaws
import Derived.Lib.Strings
import Derived.Lib.QuoteLoop
namespace Go.Proofs.Ytbcmfcddkegcoaa
open Go.Lib

/-- the bytes of the sign 65533 -/
def badL : List UInt8 := [239, 191, 189]
/-- the mark's bytes -/
def markL : List UInt8 := [239, 187, 191]

/-- how many bytes the longest beginning has, where no sign stands -/
def begN (n b0 b1 b2 : Nat) : Nat :=
  if b0 < 224 ∨ 247 < b0 then 1
  else if b0 < 240 then
    (if 1 < n ∧ b1 / 64 = 2 ∧ (2048 ≤ b0 % 16 * 4096 + b1 % 64 * 64 ∧ (b0 % 16 * 4096 + b1 % 64 * 64 < 55296 ∨ 57343 < b0 % 16 * 4096 + b1 % 64 * 64)) then 2 else 1)
  else if 1 < n ∧ b1 / 64 = 2 ∧ (65536 ≤ b0 % 8 * 262144 + b1 % 64 * 4096 ∧ b0 % 8 * 262144 + b1 % 64 * 4096 ≤ 1114111) then
    (if 2 < n ∧ b2 / 64 = 2 then 3 else 2)
  else 1
def begL (l : List UInt8) : Nat := begN l.length (l.getD 0 0).toNat (l.getD 1 0).toNat (l.getD 2 0).toNat

/-- no sign stands at the head -/
def brk (l : List UInt8) : Bool := decide ((decodeL l).1 = 65533 ∧ (decodeL l).2 = 1)

/-- decoding, by at most so many steps -/
def decF : Nat → List UInt8 → List UInt8
  | 0, _ => []
  | f + 1, l => if l = [] then [] else if brk l then badL ++ decF f (l.drop (begL l)) else l.take (decodeL l).2 ++ decF f (l.drop (decodeL l).2)
def dec0 (l : List UInt8) : List UInt8 := decF l.length l
def dec (l : List UInt8) : List UInt8 := dec0 (trimPrefix l markL)

theorem begN_ge (n b0 b1 b2 : Nat) : 1 ≤ begN n b0 b1 b2 := by
  unfold begN; repeat' split
  all_goals omega
theorem begN_le (n b0 b1 b2 : Nat) (h : 1 ≤ n) : begN n b0 b1 b2 ≤ n ∧ begN n b0 b1 b2 ≤ 3 := by
  unfold begN; repeat' split
  all_goals omega
theorem begL_ge (l : List UInt8) : 1 ≤ begL l := begN_ge _ _ _ _
theorem begL_le (l : List UInt8) (h : l ≠ []) : begL l ≤ l.length ∧ begL l ≤ 3 := begN_le _ _ _ _ (List.length_pos_iff.2 h)

theorem decF_fuel : ∀ (n m : Nat) (l : List UInt8), l.length ≤ n → l.length ≤ m → decF n l = decF m l
  | 0, m, l, hn, _ => by
    have : l = [] := List.eq_nil_of_length_eq_zero (by omega)
    subst this
    cases m <;> simp [decF]
  | n + 1, 0, l, _, hm => by
    have : l = [] := List.eq_nil_of_length_eq_zero (by omega)
    subst this
    simp [decF]
  | n + 1, m + 1, l, hn, hm => by
    unfold decF
    by_cases hne : l = []
    · simp [hne]
    · have hw := decodeL_width l
      have hb := begL_ge l
      have hl : 0 < l.length := List.length_pos_iff.2 hne
      rw [if_neg hne, if_neg hne, decF_fuel n m (l.drop (decodeL l).2) (by rw [List.length_drop]; omega) (by rw [List.length_drop]; omega),
        decF_fuel n m (l.drop (begL l)) (by rw [List.length_drop]; omega) (by rw [List.length_drop]; omega)]

theorem dec0_nil : dec0 [] = [] := rfl
theorem dec0_step (l : List UInt8) (hne : l ≠ []) : dec0 l = if brk l then badL ++ dec0 (l.drop (begL l)) else l.take (decodeL l).2 ++ dec0 (l.drop (decodeL l).2) := by
  have hl : 0 < l.length := List.length_pos_iff.2 hne
  have hw := decodeL_width l
  have hb := begL_ge l
  obtain ⟨n, hn⟩ : ∃ n, l.length = n + 1 := ⟨l.length - 1, by omega⟩
  unfold dec0
  rw [hn]
  show (if l = [] then [] else _) = _
  rw [if_neg hne, decF_fuel n (l.drop (decodeL l).2).length _ (by rw [List.length_drop]; omega) (Nat.le_refl _),
    decF_fuel n (l.drop (begL l)).length _ (by rw [List.length_drop]; omega) (Nat.le_refl _)]

theorem validD_brk (l : List UInt8) (hne : l ≠ []) : validD l = if brk l then false else validD (l.drop (decodeL l).2) := by
  rw [validD_step l hne]
  simp [brk]

theorem width_le (l : List UInt8) (hne : l ≠ []) : (decodeL l).2 ≤ l.length := decodeL_le l hne

theorem byte_lt (b : UInt8) : b.toNat < 256 := b.toNat_lt

theorem brk_iff (l : List UInt8) : brk l = true ↔ decodeL l = (65533, 1) := by
  unfold brk
  rw [decide_eq_true_iff]
  constructor
  · intro h; exact Prod.ext h.1 h.2
  · intro h; rw [h]; exact ⟨rfl, rfl⟩

/-- a sign that is not broken at the head: its bytes -/
theorem enc_dec (l : List UInt8) (hne : l ≠ []) (h : brk l = false) : encodeRune ((decodeL l).1 : Int) = l.take (decodeL l).2 :=
  encode_decode l hne (by intro h2; simp [brk, h2] at h)

theorem getD0 (x : UInt8) (t : List UInt8) : (x :: t).getD 0 0 = x := rfl
theorem getD_s (x : UInt8) (t : List UInt8) (k : Nat) : (x :: t).getD (k + 1) 0 = t.getD k 0 := rfl

set_option maxRecDepth 100000 in
/-- what a byte below 128 behind a text does to its head: nothing -/
theorem decodeN_alike (n n' b0 b1 b2 b3 c1 c2 c3 : Nat) (hn : 1 ≤ n) (hnn : n ≤ n')
    (h1 : 1 < n → b1 = c1) (h2 : 2 < n → b2 = c2) (h3 : 3 < n → b3 = c3)
    (g1 : n = 1 → 1 < n' → c1 < 128) (g2 : n = 2 → 2 < n' → c2 < 128) (g3 : n = 3 → 3 < n' → c3 < 128) :
    decodeN n b0 b1 b2 b3 = decodeN n' b0 c1 c2 c3 := by
  by_cases e1 : 1 < n
  · have e := h1 e1; subst e
    by_cases e2 : 2 < n
    · have e := h2 e2; subst e
      by_cases e3 : 3 < n
      · have e := h3 e3; subst e
        have a1 : 1 < n' := by omega
        have a2 : 2 < n' := by omega
        have a3 : 3 < n' := by omega
        simp only [decodeN, e1, e2, e3, a1, a2, a3]
      · have hn3 : n = 3 := by omega
        subst hn3
        have g := g3 rfl
        have a1 : 1 < n' := by omega
        have a2 : 2 < n' := by omega
        have a : ¬ (3 < n' ∧ c3 / 64 = 2) := by omega
        have a' : ¬ (3 < 3 ∧ b3 / 64 = 2) := by omega
        simp only [decodeN, e1, e2, a1, a2, a, a', and_false, if_false]
    · have hn2 : n = 2 := by omega
      subst hn2
      have g := g2 rfl
      have a1 : 1 < n' := by omega
      have a : ¬ (2 < n' ∧ c2 / 64 = 2) := by omega
      have a' : ¬ (2 < 2 ∧ b2 / 64 = 2) := by omega
      simp only [decodeN, e1, a1, a, a', and_false, false_and, if_false]
  · have hn1 : n = 1 := by omega
    subst hn1
    have g := g1 rfl
    have a : ¬ (1 < n' ∧ c1 / 64 = 2) := by omega
    have a' : ¬ (1 < 1 ∧ b1 / 64 = 2) := by omega
    simp only [decodeN, a, a', and_false, false_and, if_false]

set_option maxRecDepth 100000 in
theorem begN_alike (n n' b0 b1 b2 c1 c2 : Nat) (hn : 1 ≤ n) (hnn : n ≤ n')
    (h1 : 1 < n → b1 = c1) (h2 : 2 < n → b2 = c2)
    (g1 : n = 1 → 1 < n' → c1 < 128) (g2 : n = 2 → 2 < n' → c2 < 128) :
    begN n b0 b1 b2 = begN n' b0 c1 c2 := by
  by_cases e1 : 1 < n
  · have e := h1 e1; subst e
    have a1 : 1 < n' := by omega
    by_cases e2 : 2 < n
    · have e := h2 e2; subst e
      have a2 : 2 < n' := by omega
      simp only [begN, e1, e2, a1, a2]
    · have hn2 : n = 2 := by omega
      subst hn2
      have g := g2 rfl
      have a : ¬ (2 < n' ∧ c2 / 64 = 2) := by omega
      have a' : ¬ (2 < 2 ∧ b2 / 64 = 2) := by omega
      simp only [begN, e1, a1, a, a', true_and]
  · have hn1 : n = 1 := by omega
    subst hn1
    have g := g1 rfl
    have a : ¬ (1 < n' ∧ c1 / 64 = 2) := by omega
    have a' : ¬ (1 < 1 ∧ b1 / 64 = 2) := by omega
    simp only [begN, ← and_assoc, a, a', false_and, if_false]

theorem getD_app_l (a t : List UInt8) (k : Nat) (h : k < a.length) : (a ++ t).getD k 0 = a.getD k 0 := by
  simp only [List.getD, List.getElem?_append_left h]
theorem getD_app_r (a t : List UInt8) : (a ++ t).getD a.length 0 = t.getD 0 0 := by
  simp only [List.getD]
  rw [List.getElem?_append_right (Nat.le_refl _), Nat.sub_self]

/-- the head of a text is read alike whatever is behind it, if that begins with a byte below 128, or is nothing -/
theorem decodeL_app (a t : List UInt8) (hne : a ≠ []) (ht : t = [] ∨ (t.getD 0 0).toNat < 128) : decodeL (a ++ t) = decodeL a := by
  rcases ht with rfl | ht
  · rw [List.append_nil]
  have hl : 0 < a.length := List.length_pos_iff.2 hne
  rw [decodeL_N, decodeL_N, getD_app_l a t 0 hl]
  refine (decodeN_alike _ _ _ _ _ _ _ _ _ hl (by simp) ?_ ?_ ?_ ?_ ?_ ?_).symm
  · intro h; rw [getD_app_l a t 1 h]
  · intro h; rw [getD_app_l a t 2 h]
  · intro h; rw [getD_app_l a t 3 h]
  · intro h _; rw [← h, getD_app_r]; exact ht
  · intro h _; rw [← h, getD_app_r]; exact ht
  · intro h _; rw [← h, getD_app_r]; exact ht
theorem begL_app (a t : List UInt8) (hne : a ≠ []) (ht : t = [] ∨ (t.getD 0 0).toNat < 128) : begL (a ++ t) = begL a := by
  rcases ht with rfl | ht
  · rw [List.append_nil]
  have hl : 0 < a.length := List.length_pos_iff.2 hne
  unfold begL
  rw [getD_app_l a t 0 hl]
  refine (begN_alike _ _ _ _ _ _ _ hl (by simp) ?_ ?_ ?_ ?_).symm
  · intro h; rw [getD_app_l a t 1 h]
  · intro h; rw [getD_app_l a t 2 h]
  · intro h _; rw [← h, getD_app_r]; exact ht
  · intro h _; rw [← h, getD_app_r]; exact ht
theorem brk_app (a t : List UInt8) (hne : a ≠ []) (ht : t = [] ∨ (t.getD 0 0).toNat < 128) : brk (a ++ t) = brk a := by
  unfold brk
  rw [decodeL_app a t hne ht]

/-- behind a text, ahead of a byte below 128, decoding begins anew -/
theorem dec0_app (t : List UInt8) (ht : t = [] ∨ (t.getD 0 0).toNat < 128) : ∀ (n : Nat) (a : List UInt8), a.length ≤ n → dec0 (a ++ t) = dec0 a ++ dec0 t
  | 0, a, h => by
    have : a = [] := List.eq_nil_of_length_eq_zero (by omega)
    subst this
    rfl
  | n + 1, a, h => by
    by_cases hne : a = []
    · subst hne; rfl
    · have hl : 0 < a.length := List.length_pos_iff.2 hne
      have hw := decodeL_width a
      have hwl := width_le a hne
      have hb := begL_ge a
      have hbl := begL_le a hne
      rw [dec0_step (a ++ t) (by simp [hne]), dec0_step a hne, brk_app a t hne ht, decodeL_app a t hne ht, begL_app a t hne ht,
        List.drop_append_of_le_length hwl, List.take_append_of_le_length hwl, List.drop_append_of_le_length hbl.1,
        dec0_app t ht n (a.drop (decodeL a).2) (by rw [List.length_drop]; omega), dec0_app t ht n (a.drop (begL a)) (by rw [List.length_drop]; omega)]
      split <;> simp [List.append_assoc]

theorem validD_app (t : List UInt8) (ht : t = [] ∨ (t.getD 0 0).toNat < 128) : ∀ (n : Nat) (a : List UInt8), a.length ≤ n → validD (a ++ t) = (validD a && validD t)
  | 0, a, h => by
    have : a = [] := List.eq_nil_of_length_eq_zero (by omega)
    subst this
    simp [validD_nil]
  | n + 1, a, h => by
    by_cases hne : a = []
    · subst hne; simp [validD_nil]
    · have hl : 0 < a.length := List.length_pos_iff.2 hne
      have hw := decodeL_width a
      have hwl := width_le a hne
      rw [validD_brk (a ++ t) (by simp [hne]), validD_brk a hne, brk_app a t hne ht, decodeL_app a t hne ht,
        List.drop_append_of_le_length hwl, validD_app t ht n (a.drop (decodeL a).2) (by rw [List.length_drop]; omega)]
      split <;> simp

end Go.Proofs.Ytbcmfcddkegcoaa
