/-
  Where bytes of a kind end, from a place on: plain mathematics (no attributes, no names).
-/
import Derived.Test.YtcamkphanakkdaaDoorPT
namespace Go.Proofs.YtcamkphanakkdaaDoor
open Go.RowKit Go.Lib

/-- where bytes of a kind end -/
def seekP (p : UInt8 → Bool) (l : Txt) (i : Nat) : Nat := i + ((l.drop i).takeWhile p).length
theorem seek_yes (p : UInt8 → Bool) (s : ByteArray) (i : Nat) (h : i < s.size) (hp : p s[i] = true) : seekP p s.data.toList i = seekP p s.data.toList (i + 1) := by
  unfold seekP
  rw [drop_at s i h, List.takeWhile_cons, if_pos hp, List.length_cons]; omega
theorem seek_no (p : UInt8 → Bool) (s : ByteArray) (i : Nat) (h : i < s.size) (hp : p s[i] = false) : seekP p s.data.toList i = i := by
  unfold seekP
  rw [drop_at s i h, List.takeWhile_cons, if_neg (by rw [hp]; exact Bool.false_ne_true)]; rfl
theorem seek_end (p : UInt8 → Bool) (s : ByteArray) (i : Nat) (h : s.size ≤ i) : seekP p s.data.toList i = i := by
  unfold seekP
  rw [List.drop_eq_nil_of_le (by rw [← Lib.size_eq]; exact h)]; rfl
theorem seek_drop (p : UInt8 → Bool) (l : Txt) (i : Nat) : l.drop (seekP p l i) = (l.drop i).dropWhile p := by
  unfold seekP
  rw [← List.drop_drop]
  conv => lhs; arg 2; rw [← List.takeWhile_append_dropWhile (p := p) (l := l.drop i)]
  rw [List.drop_left]
theorem seek_text (p : UInt8 → Bool) (s : ByteArray) (i : Nat) : (s.extract i (seekP p s.data.toList i)).data.toList = (s.data.toList.drop i).takeWhile p := by
  unfold seekP
  rw [Lib.extract_data, Nat.add_sub_cancel_left]
  conv => lhs; arg 2; rw [← List.takeWhile_append_dropWhile (p := p) (l := s.data.toList.drop i)]
  rw [List.take_left]
theorem seek_le (p : UInt8 → Bool) (s : ByteArray) (i : Nat) (h : i ≤ s.size) : i ≤ seekP p s.data.toList i ∧ seekP p s.data.toList i ≤ s.size := by
  have h1 := (List.takeWhile_sublist (l := s.data.toList.drop i) p).length_le
  rw [List.length_drop, ← Lib.size_eq] at h1
  unfold seekP
  omega
/-- what stands where bytes of a kind end: nothing, or another byte -/
theorem dw_cases (p : UInt8 → Bool) (l : Txt) : l.dropWhile p = [] ∨ ∃ c t, l.dropWhile p = c :: t ∧ p c = false := by
  cases h : l.dropWhile p with
  | nil => exact .inl rfl
  | cons c t =>
    refine .inr ⟨c, t, rfl, ?_⟩
    have := List.head?_dropWhile_not (p := p) (l := l)
    rw [h] at this
    simpa using this
/-- what is left from a place on is nothing just at the end -/
theorem drop_nil (s : ByteArray) (i : Nat) (h : i ≤ s.size) : s.data.toList.drop i = [] ↔ i = s.size := by
  rw [List.drop_eq_nil_iff, ← Lib.size_eq]; omega
theorem drop_cons (s : ByteArray) (i : Nat) (c : UInt8) (t : Txt) (h : s.data.toList.drop i = c :: t) : ∃ hi : i < s.size, s[i] = c ∧ s.data.toList.drop (i + 1) = t := by
  have hi : i < s.size := Nat.lt_of_not_le fun h' => by
    rw [List.drop_eq_nil_of_le (by rw [← Lib.size_eq]; exact h')] at h; cases h
  rw [drop_at s i hi] at h
  simp only [List.cons.injEq] at h
  exact ⟨hi, h.1, h.2⟩
end Go.Proofs.YtcamkphanakkdaaDoor
