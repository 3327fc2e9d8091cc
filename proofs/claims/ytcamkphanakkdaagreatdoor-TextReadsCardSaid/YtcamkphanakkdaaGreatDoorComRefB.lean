/-
  What the document's Read of layer 10 answers.
-/
import Derived.Test.YtcamkphanakkdaaGreatDoorComRef
namespace Go.Proofs.YtcamkphanakkdaaGreatDoor
open Go.RowKit Go.Lib

/-- where the next bracket stands, or the end -/
def bogE (l : Txt) (f : Nat) : Nat := f + ((l.drop f).takeWhile (· != 62)).length
theorem bogE_yes (s : ByteArray) (i : Nat) (h : i < s.size) (hp : s[i] ≠ 62) : bogE s.data.toList i = bogE s.data.toList (i + 1) := by
  unfold bogE
  rw [drop_at s i h, List.takeWhile_cons, if_pos (by simpa using hp), List.length_cons]; omega
theorem bogE_no (s : ByteArray) (i : Nat) (h : i < s.size) (hp : s[i] = 62) : bogE s.data.toList i = i := by
  unfold bogE
  rw [drop_at s i h, List.takeWhile_cons, if_neg (by simp [hp])]; rfl
theorem bogE_end (s : ByteArray) : bogE s.data.toList s.size = s.size := by
  unfold bogE
  rw [List.drop_eq_nil_of_le (by rw [← Lib.size_eq]; exact Nat.le_refl _)]; rfl
theorem bog_at (s : ByteArray) (f : Nat) (hf : f ≤ s.size) : f ≤ bogE s.data.toList f ∧ bogE s.data.toList f ≤ s.size ∧ (bogC (s.data.toList.drop f)).1 = (s.extract f (bogE s.data.toList f)).data.toList ∧
    f + (bogC (s.data.toList.drop f)).2 = if bogE s.data.toList f < s.size then bogE s.data.toList f + 1 else s.size := by
  have h1 : (List.takeWhile (· != 62) (s.data.toList.drop f)).length + (List.dropWhile (· != 62) (s.data.toList.drop f)).length = s.size - f := by
    rw [← List.length_append, List.takeWhile_append_dropWhile, List.length_drop, ← Lib.size_eq]
  have h2 := List.length_tail (l := List.dropWhile (· != 62) (s.data.toList.drop f))
  have e1 : bogE s.data.toList f = f + (List.takeWhile (· != 62) (s.data.toList.drop f)).length := rfl
  refine ⟨by omega, by omega, ?_, ?_⟩
  · rw [Lib.extract_data, e1, Nat.add_sub_cancel_left]
    unfold bogC
    conv => rhs; arg 2; rw [← List.takeWhile_append_dropWhile (p := (· != 62)) (l := s.data.toList.drop f)]
    rw [List.take_left]
  · unfold bogC
    simp only [List.length_drop, ← Lib.size_eq, h2]
    split <;> omega

end Go.Proofs.YtcamkphanakkdaaGreatDoor
