/-
  Counting lines' ends, byte by byte.
-/
import Derived.Test.YtmclpgjhfmiedaaLinesLaws
namespace Go.Proofs.Ytmclpgjhfmiedaa
open Go.RowKit Go.Lib

/-- how far the law has counted, and what it has put together -/
def EndsAt (s : ByteArray) (i ends : Nat) (rest : ByteArray) : Prop :=
  ends + endsP (prev13 s i) (s.data.toList.drop i) = endsP false s.data.toList ∧ rest.data.toList ++ restL (s.data.toList.drop i) = restL s.data.toList
theorem EndsAt.start (s : ByteArray) : EndsAt s 0 0 ⟨#[]⟩ := ⟨by simp [prev13], rfl⟩
section
variable {s : ByteArray} {i ends : Nat} {rest : ByteArray}
theorem restL_cons (c : UInt8) (l : List UInt8) : restL (c :: l) = if c = 13 ∨ c = 10 then restL l else c :: restL l := by
  unfold restL
  rw [List.filter_cons]
  by_cases h : c = 13
  · simp [h]
  · by_cases h' : c = 10 <;> simp [h, h']
theorem EndsAt.cr (h : EndsAt s i ends rest) (hi : i < s.size) (hc : s[i] = 13) : EndsAt s (i + 1) (ends + 1) rest := by
  obtain ⟨h1, h2⟩ := h
  rw [drop_at s i hi, endsP, hc, if_pos rfl] at h1
  rw [drop_at s i hi, restL_cons, hc, if_pos (.inl rfl)] at h2
  refine ⟨?_, h2⟩
  rw [prev13_succ s i hi, hc, show ((13 : UInt8) == 13) = true from rfl]; omega
theorem EndsAt.lf (h : EndsAt s i ends rest) (hi : i < s.size) (hc : s[i] = 10) (hp : prev13 s i = false) : EndsAt s (i + 1) (ends + 1) rest := by
  obtain ⟨h1, h2⟩ := h
  rw [drop_at s i hi, endsP, hc, hp, if_neg (by decide), if_pos ⟨rfl, rfl⟩] at h1
  rw [drop_at s i hi, restL_cons, hc, if_pos (.inr rfl)] at h2
  refine ⟨?_, h2⟩
  rw [prev13_succ s i hi, hc, show ((10 : UInt8) == 13) = false from rfl]; omega
theorem EndsAt.lfSkip (h : EndsAt s i ends rest) (hi : i < s.size) (hc : s[i] = 10) (hp : prev13 s i = true) : EndsAt s (i + 1) ends rest := by
  obtain ⟨h1, h2⟩ := h
  rw [drop_at s i hi, endsP, hc, hp, if_neg (by decide), if_neg (by decide)] at h1
  rw [drop_at s i hi, restL_cons, hc, if_pos (.inr rfl)] at h2
  refine ⟨?_, h2⟩
  rw [prev13_succ s i hi, hc, show ((10 : UInt8) == 13) = false from rfl]; omega
theorem EndsAt.other (h : EndsAt s i ends rest) (hi : i < s.size) (hc : s[i] ≠ 13) (hd : s[i] ≠ 10) : EndsAt s (i + 1) ends (rest ++ s.extract i (i + 1)) := by
  obtain ⟨h1, h2⟩ := h
  rw [drop_at s i hi, endsP, if_neg hc, if_neg (fun x => hd x.1)] at h1
  rw [drop_at s i hi, restL_cons, if_neg (fun x => x.elim hc hd)] at h2
  refine ⟨?_, ?_⟩
  · rw [prev13_succ s i hi, show (s[i] == 13) = false by simpa using hc]; omega
  · rw [ByteArray.data_append, Array.toList_append, extract_one s i hi, List.append_assoc]; exact h2
theorem EndsAt.stop (h : EndsAt s i ends rest) (hi : s.size ≤ i) : ends = endsP false s.data.toList ∧ rest.data.toList = restL s.data.toList := by
  obtain ⟨h1, h2⟩ := h
  have e : s.data.toList.drop i = [] := List.drop_eq_nil_of_le (by rw [← Lib.size_eq]; omega)
  rw [e] at h1 h2
  exact ⟨by simpa [endsP] using h1, by simpa [restL] using h2⟩
end
def CountAt (s : ByteArray) (i got : Nat) (left : ByteArray) : Prop :=
  got + (s.data.toList.drop i).count 10 = s.data.toList.count 10 ∧ left.data.toList ++ (s.data.toList.drop i).filter (fun c => c != 10) = s.data.toList.filter (fun c => c != 10)
theorem CountAt.start (s : ByteArray) : CountAt s 0 0 ⟨#[]⟩ := ⟨by simp, rfl⟩
section
variable {s : ByteArray} {i got : Nat} {left : ByteArray}
theorem CountAt.lf (h : CountAt s i got left) (hi : i < s.size) (hc : s[i] = 10) : CountAt s (i + 1) (got + 1) left := by
  obtain ⟨h1, h2⟩ := h
  rw [drop_at s i hi, hc, List.count_cons_self] at h1
  rw [drop_at s i hi, hc, List.filter_cons_of_neg (by decide)] at h2
  exact ⟨by omega, h2⟩
theorem CountAt.other (h : CountAt s i got left) (hi : i < s.size) (hc : s[i] ≠ 10) : CountAt s (i + 1) got (left ++ s.extract i (i + 1)) := by
  obtain ⟨h1, h2⟩ := h
  rw [drop_at s i hi, List.count_cons_of_ne (fun e => hc e)] at h1
  rw [drop_at s i hi, List.filter_cons_of_pos (by simpa using hc)] at h2
  refine ⟨h1, ?_⟩
  rw [ByteArray.data_append, Array.toList_append, extract_one s i hi, List.append_assoc]; exact h2
theorem CountAt.stop (h : CountAt s i got left) (hi : s.size ≤ i) : got = s.data.toList.count 10 ∧ left.data.toList = s.data.toList.filter (fun c => c != 10) := by
  obtain ⟨h1, h2⟩ := h
  have e : s.data.toList.drop i = [] := List.drop_eq_nil_of_le (by rw [← Lib.size_eq]; omega)
  rw [e] at h1 h2
  exact ⟨by simpa using h1, by simpa using h2⟩
end
end Go.Proofs.Ytmclpgjhfmiedaa
