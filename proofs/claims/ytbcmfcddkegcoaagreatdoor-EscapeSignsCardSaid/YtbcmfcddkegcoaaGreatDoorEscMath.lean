/-
  How a text is written as markup: plain mathematics.
-/
import Derived.Test.YtbcmfcddkegcoaaGreatDoorP1
import Derived.Test.YtbcmfcddkegcoaaGreatDoorP4
namespace Go.Proofs.YtbcmfcddkegcoaaGreatDoor
open Go.RowKit Go.Lib

/-- P21.1: a byte; the sign 65279 -/
def encB (c : UInt8) : List UInt8 :=
  if c = 38 then [38, 97, 109, 112, 59] else if c = 60 then [38, 108, 116, 59] else if c = 62 then [38, 103, 116, 59] else if c = 34 then [38, 113, 117, 111, 116, 59]
  else if c = 39 then [38, 35, 51, 57, 59] else if c = 13 then [38, 35, 49, 51, 59] else if c = 0 then [239, 191, 189] else [c]
def encM : List UInt8 := [38, 35, 54, 53, 50, 55, 57, 59]
def encR : Nat → List UInt8 → List UInt8
  | 0, _ => []
  | _, [] => []
  | f + 1, c :: t => if markL.isPrefixOf (c :: t) = true then encM ++ encR f (t.drop 2) else encB c ++ encR f t
def encL (l : List UInt8) : List UInt8 := encR l.length l
/-- for any destination -/
def encD (d : Int) (l : List UInt8) : List UInt8 := if d < 0 ∨ 2 < d then [] else (if d = 2 ∧ l.head? = some 10 then [10] else []) ++ encL l

theorem enc_fuel : ∀ (f g : Nat) (l : List UInt8), l.length ≤ f → l.length ≤ g → encR f l = encR g l
  | 0, 0, _, _, _ => rfl
  | 0, g + 1, [], _, _ => rfl
  | f + 1, 0, [], _, _ => rfl
  | f + 1, g + 1, [], _, _ => rfl
  | 0, _, c :: z, h, _ => absurd h (by simp)
  | _, 0, c :: z, _, h => absurd h (by simp)
  | f + 1, g + 1, c :: z, h1, h2 => by
    rw [List.length_cons] at h1 h2
    rw [encR, encR, enc_fuel f g z (by omega) (by omega), enc_fuel f g (z.drop 2) (by rw [List.length_drop]; omega) (by rw [List.length_drop]; omega)]
theorem encL_nil : encL [] = [] := rfl
theorem encL_step (c : UInt8) (t : List UInt8) (h : markL.isPrefixOf (c :: t) = false) : encL (c :: t) = encB c ++ encL t := by
  unfold encL
  rw [List.length_cons, encR, if_neg (by rw [h]; exact Bool.false_ne_true)]
theorem encL_mark (t : List UInt8) : encL (markL ++ t) = encM ++ encL t := by
  have h : markL.isPrefixOf (239 :: 187 :: 191 :: t) = true := List.isPrefixOf_iff_prefix.2 ⟨t, rfl⟩
  unfold encL
  show encR (t.length + 1 + 1 + 1) (239 :: 187 :: 191 :: t) = _
  rw [encR, if_pos h]
  show encM ++ encR (t.length + 1 + 1) t = _
  rw [enc_fuel (t.length + 1 + 1) t.length t (by omega) (Nat.le_refl _)]
/-- a byte that begins no mark -/
theorem mark_no (c : UInt8) (t : List UInt8) (h : c ≠ 239) : markL.isPrefixOf (c :: t) = false := by
  rw [Bool.eq_false_iff]; intro e
  obtain ⟨u, hu⟩ := List.isPrefixOf_iff_prefix.1 e
  exact h (List.cons.inj hu).1.symm
theorem encL_low (c : UInt8) (t : List UInt8) (h : c ≠ 239) : encL (c :: t) = encB c ++ encL t := encL_step c t (mark_no c t h)
/-- either way -/
theorem encL_ways (l : List UInt8) : l = [] ∨ (∃ t, l = markL ++ t ∧ encL l = encM ++ encL t) ∨ ∃ c t, l = c :: t ∧ markL.isPrefixOf l = false ∧ encL l = encB c ++ encL t := by
  cases l with
  | nil => exact .inl rfl
  | cons c t =>
    cases h : markL.isPrefixOf (c :: t)
    · exact .inr (.inr ⟨c, t, rfl, rfl, encL_step c t h⟩)
    · obtain ⟨u, hu⟩ := List.isPrefixOf_iff_prefix.1 h
      exact .inr (.inl ⟨u, hu.symm, by rw [← hu, encL_mark]⟩)
theorem encB_len (c : UInt8) : 1 ≤ (encB c).length ∧ (encB c).length ≤ 6 := by
  unfold encB
  repeat' split
  all_goals first | decide | exact ⟨Nat.le_refl 1, by show 1 ≤ 6; decide⟩
theorem encL_len : ∀ (n : Nat) (l : List UInt8), l.length ≤ n → (encL l).length ≤ 6 * l.length
  | 0, l, h => by
    have : l = [] := List.eq_nil_of_length_eq_zero (by omega)
    subst this; exact Nat.le_refl _
  | n + 1, l, h => by
    rcases encL_ways l with rfl | ⟨t, rfl, e⟩ | ⟨c, t, rfl, -, e⟩
    · exact Nat.le_refl _
    · rw [List.length_append] at h
      have ih := encL_len n t (by simp [markL] at h; omega)
      rw [e, List.length_append, List.length_append]
      simp only [encM, markL, List.length_cons, List.length_nil]
      omega
    · rw [List.length_cons] at h
      have ih := encL_len n t (by omega)
      have := encB_len c
      rw [e, List.length_append, List.length_cons]
      omega
theorem encD_len (d : Int) (l : List UInt8) : (encD d l).length ≤ 6 * l.length := by
  unfold encD
  split
  · exact Nat.zero_le _
  · have h := encL_len _ l (Nat.le_refl _)
    split
    · rename_i h2
      cases l with
      | nil => cases h2.2
      | cons c t =>
        simp only [List.head?_cons, Option.some.injEq] at h2
        have e := encL_low c t (by rw [h2.2]; decide)
        have ht := encL_len _ t (Nat.le_refl _)
        rw [List.length_append, e, List.length_append, h2.2, List.length_cons]
        have : (encB 10).length = 1 := by decide
        simp only [List.length_cons, List.length_nil]
        omega
    · rw [List.nil_append]; exact h
theorem encD_in (d : Int) (l : List UInt8) (h : 0 ≤ d ∧ d ≤ 2) : encD d l = (if d = 2 ∧ l.head? = some 10 then [10] else []) ++ encL l := by
  unfold encD; rw [if_neg (by omega)]

/-! P21.2 -/
def badB (c : UInt8) : Bool := c == 60 || c == 62 || c == 34 || c == 39 || c == 0 || c == 13
theorem encB_plain (c : UInt8) : ∀ x ∈ encB c, badB x = false := by
  unfold encB
  repeat' split
  all_goals first | decide | skip
  rename_i h1 h2 h3 h4 h5 h6 h7
  intro x hx
  rw [List.mem_singleton.1 hx]
  unfold badB
  simp [h2, h3, h4, h5, h6, h7]
theorem encL_plain : ∀ (n : Nat) (l : List UInt8), l.length ≤ n → ∀ x ∈ encL l, badB x = false
  | 0, l, h, x, hx => by
    have : l = [] := List.eq_nil_of_length_eq_zero (by omega)
    subst this; cases hx
  | n + 1, l, h, x, hx => by
    rcases encL_ways l with rfl | ⟨t, rfl, e⟩ | ⟨c, t, rfl, -, e⟩
    · cases hx
    · rw [List.length_append] at h
      rw [e] at hx
      rcases List.mem_append.1 hx with hx | hx
      · exact (show ∀ x ∈ encM, badB x = false by decide) x hx
      · exact encL_plain n t (by simp [markL] at h; omega) x hx
    · rw [List.length_cons] at h
      rw [e] at hx
      rcases List.mem_append.1 hx with hx | hx
      · exact encB_plain c x hx
      · exact encL_plain n t (by omega) x hx
theorem encD_plain (d : Int) (l : List UInt8) : ∀ x ∈ encD d l, badB x = false := by
  intro x hx
  unfold encD at hx
  split at hx
  · cases hx
  · rcases List.mem_append.1 hx with hx | hx
    · split at hx
      · rw [List.mem_singleton.1 hx]; decide
      · cases hx
    · exact encL_plain _ l (Nat.le_refl _) x hx
/-! of just signs -/
theorem encB_same (c : UInt8) (h : badB c = false) (h38 : c ≠ 38) : encB c = [c] := by
  unfold badB at h
  simp only [Bool.or_eq_false_iff, beq_eq_false_iff_ne] at h
  obtain ⟨⟨⟨⟨⟨h60, h62⟩, h34⟩, h39⟩, h0⟩, h13⟩ := h
  unfold encB
  rw [if_neg h38, if_neg h60, if_neg h62, if_neg h34, if_neg h39, if_neg h13, if_neg h0]
/-- bytes that stay, with no mark among them -/
theorem encL_same (l : List UInt8) (h : ∀ c ∈ l, badB c = false ∧ c ≠ 38 ∧ c ≠ 239) (t : List UInt8) : encL (l ++ t) = l ++ encL t := by
  induction l with
  | nil => rfl
  | cons c l ih =>
    obtain ⟨h1, h2, h3⟩ := h c (.head _)
    rw [List.cons_append, encL_low c _ h3, encB_same c h1 h2, ih (fun x hx => h x (.tail _ hx))]; rfl
end Go.Proofs.YtbcmfcddkegcoaaGreatDoor
