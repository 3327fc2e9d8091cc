/-
  Norm and Clean as functions from texts to texts; small facts for the laws of layer 2.
-/
import Derived.Test.YtmclpgjhfmiedaaLinesRef
import Derived.Deep.RegionHeld3
namespace Go.Proofs.Ytmclpgjhfmiedaa
open Go.RowKit Go.Lib

def normS (s : ByteArray) : ByteArray := ⟨(normL s.data.toList).toArray⟩
def cleanS (s : ByteArray) : ByteArray := ⟨(cleanL s.data.toList).toArray⟩
theorem normS_list (s : ByteArray) : (normS s).data.toList = normL s.data.toList := by simp [normS]
theorem cleanS_list (s : ByteArray) : (cleanS s).data.toList = cleanL s.data.toList := by simp [cleanS]
theorem str_ext {a b : ByteArray} (h : a.data.toList = b.data.toList) : a = b := by
  cases a; cases b; congr 1; exact Array.toList_inj.1 h
theorem normS_size (s : ByteArray) : (normS s).size ≤ s.size := by rw [Lib.size_eq, Lib.size_eq, normS_list]; exact normL_len _
theorem cleanS_size (s : ByteArray) : s.size ≤ (cleanS s).size ∧ (cleanS s).size ≤ 3 * s.size := by rw [Lib.size_eq, Lib.size_eq, cleanS_list]; exact cleanL_len _
theorem normS_twice (s : ByteArray) : normS (normS s) = normS s := str_ext (by rw [normS_list, normS_list, normL_twice])
theorem cleanS_twice (s : ByteArray) : cleanS (cleanS s) = cleanS s := str_ext (by rw [cleanS_list, cleanS_list, cleanL_twice])
theorem clean_normS (s : ByteArray) : normS (cleanS s) = cleanS (normS s) := str_ext (by rw [normS_list, cleanS_list, cleanS_list, normS_list, clean_norm])
theorem normS_iff (s : ByteArray) : normS s = s ↔ 13 ∉ s.data.toList := by
  rw [← normL_iff]
  exact ⟨fun h => by rw [← normS_list, h], fun h => str_ext (by rw [normS_list, h])⟩
theorem cleanS_iff (s : ByteArray) : cleanS s = s ↔ 0 ∉ s.data.toList := by
  rw [← cleanL_iff]
  exact ⟨fun h => by rw [← cleanS_list, h], fun h => str_ext (by rw [cleanS_list, h])⟩
theorem str_beq (A B : ByteArray) : (A.toList == B.toList) = decide (A.data.toList = B.data.toList) := by
  rw [ByteArray.toList_eq, ByteArray.toList_eq, Bool.eq_iff_iff, beq_iff_eq, decide_eq_true_iff]
theorem no_byte (l : List UInt8) (c : UInt8) (s : ByteArray) (hl : s.data.toList = l) (h : c ∉ l) (i : Nat) (hi : i < s.size) : s[i] ≠ c := by
  intro e
  apply h
  rw [← hl, ← e]
  have hi' : i < s.data.toList.length := by rw [← Lib.size_eq]; exact hi
  exact (List.getElem_mem hi')

theorem cleanS_app (a b : ByteArray) : cleanS (a ++ b) = cleanS a ++ cleanS b := str_ext (by
  rw [cleanS_list, ByteArray.data_append, Array.toList_append, cleanL_app, ByteArray.data_append, Array.toList_append, cleanS_list, cleanS_list])
theorem last_at (a : ByteArray) (h : 0 < a.size) : a.data.toList.getLast? = some a[a.size - 1] := by
  have hl : a.data.toList.length = a.size := (Lib.size_eq a).symm
  rw [List.getLast?_eq_getElem?, hl, List.getElem?_eq_getElem (by omega)]; rfl
theorem head_at (a : ByteArray) (h : 0 < a.size) : a.data.toList.head? = some a[0] := by
  have hl : a.data.toList.length = a.size := (Lib.size_eq a).symm
  rw [List.head?_eq_getElem?, List.getElem?_eq_getElem (by omega)]; rfl
theorem last_nil (a : ByteArray) (h : ¬ 0 < a.size) : a.data.toList = [] := List.eq_nil_of_length_eq_zero (by rw [← Lib.size_eq]; omega)
theorem normS_app (a b : ByteArray) (h : ∀ (h0 : 0 < a.size) (h1 : 0 < b.size), a[a.size - 1] = 13 → b[0] = 10 → False) : normS (a ++ b) = normS a ++ normS b := str_ext (by
  rw [normS_list, ByteArray.data_append, Array.toList_append, ByteArray.data_append, Array.toList_append, normS_list, normS_list]
  refine normL_app _ _ (fun ⟨h2, h3⟩ => ?_)
  by_cases h0 : 0 < a.size
  · by_cases h1 : 0 < b.size
    · rw [last_at a h0] at h2; rw [head_at b h1] at h3
      injection h2 with h2; injection h3 with h3
      exact h h0 h1 h2 h3
    · rw [last_nil b h1] at h3; simp at h3
  · rw [last_nil a h0] at h2; simp at h2)
theorem normS_meet (a b : ByteArray) (h0 : 0 < a.size) (h1 : 0 < b.size) (h2 : a[a.size - 1] = 13) (h3 : b[0] = 10) : normS (a ++ b) = normS a ++ normS (b.extract 1 b.size) := str_ext (by
  have e : b.data.toList = 10 :: b.data.toList.drop 1 := by
    have := drop_at b 0 h1
    rw [List.drop_zero, h3] at this; exact this
  rw [normS_list, ByteArray.data_append, Array.toList_append, ByteArray.data_append, Array.toList_append, normS_list, normS_list, extract_data, List.take_of_length_le (by rw [List.length_drop, ← Lib.size_eq]; exact Nat.le_refl _), e]
  exact normL_meet _ _ (by rw [last_at a h0, h2]))
theorem mem_take (s : ByteArray) (i : Nat) (h : i < s.size) (c : UInt8) : decide (c ∈ s.data.toList.take (i + 1)) = (decide (c ∈ s.data.toList.take i) || ((s[i].toNat : Nat) : Int) == (c.toNat : Int)) := by
  have e : s.data.toList.take (i + 1) = s.data.toList.take i ++ [s[i]] := by
    have hi' : i < s.data.toList.length := by rw [← Lib.size_eq]; exact h
    rw [List.take_succ_eq_append_getElem hi']; rfl
  rw [e, Bool.eq_iff_iff]
  simp only [List.mem_append, List.mem_singleton, decide_eq_true_eq, Bool.or_eq_true, beq_iff_eq]
  have : c = s[i] ↔ ((s[i].toNat : Nat) : Int) = (c.toNat : Int) := by
    rw [← UInt8.toNat_inj]; omega
  rw [this]

theorem norm_s (s : ByteArray) (w : World) (hs : s.size ≤ 1099511627776) :
    Calls Try.prog 9 #[.string s] w fun e w' => e = .returned (.string (normS s)) ∧ Below w.heap.size w w' := norm_any s w hs
theorem clean_s (s : ByteArray) (w : World) (hs : s.size ≤ 1099511627776) :
    Calls Try.prog 11 #[.string s] w fun e w' => e = .returned (.string (cleanS s)) ∧ Below w.heap.size w w' := clean_any s w hs
theorem refNorm_s (s : ByteArray) (w : World) (hs : s.size ≤ 1099511627776) :
    Calls Try.prog 10 #[.string s] w fun e w' => e = .returned (.string (normS s)) ∧ Below w.heap.size w w' := refNorm_any s w hs
theorem refClean_s (s : ByteArray) (w : World) (hs : s.size ≤ 1099511627776) :
    Calls Try.prog 12 #[.string s] w fun e w' => e = .returned (.string (cleanS s)) ∧ Below w.heap.size w w' := refClean_any s w hs

end Go.Proofs.Ytmclpgjhfmiedaa
