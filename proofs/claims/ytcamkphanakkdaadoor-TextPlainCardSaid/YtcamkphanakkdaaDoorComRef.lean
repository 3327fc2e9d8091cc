/-
  What the document's answers of layer 10 are.
-/
import Derived.Test.YtcamkphanakkdaaDoorComTold
import Derived.Test.YtcamkphanakkdaaDoorP1
import Derived.Test.YtcamkphanakkdaaDoorP4
namespace Go.Proofs.YtcamkphanakkdaaDoor
open Go.RowKit Go.Lib

theorem take_pre (s t : ByteArray) : ((s.extract 0 t.size).toList == t.toList) = t.data.toList.isPrefixOf s.data.toList := by
  rw [str_beq, Lib.extract_data, List.drop_zero, Nat.sub_zero, Bool.eq_iff_iff, decide_eq_true_iff, List.isPrefixOf_iff_prefix, List.prefix_iff_eq_take, ← Lib.size_eq]
  exact ⟨fun e => e.symm, fun e => e.symm⟩
theorem drop_suf (s t : ByteArray) : ((s.extract (s.size - t.size) s.size).toList == t.toList) = t.data.toList.isSuffixOf s.data.toList := by
  rw [str_beq, Lib.extract_data, Bool.eq_iff_iff, decide_eq_true_iff, List.isSuffixOf_iff_suffix, List.suffix_iff_eq_drop, ← Lib.size_eq, ← Lib.size_eq, List.take_of_length_le (by rw [List.length_drop, ← Lib.size_eq]; exact Nat.le_refl _)]
  exact ⟨fun e => e.symm, fun e => e.symm⟩
theorem pre_less (s t : ByteArray) (h : s.size < t.size) : t.data.toList.isPrefixOf s.data.toList = false := by
  rw [Bool.eq_false_iff]; intro e
  have := (List.isPrefixOf_iff_prefix.1 e).length_le
  rw [← Lib.size_eq, ← Lib.size_eq] at this; omega
theorem suf_less (s t : ByteArray) (h : s.size < t.size) : t.data.toList.isSuffixOf s.data.toList = false := by
  rw [Bool.eq_false_iff]; intro e
  have := (List.isSuffixOf_iff_suffix.1 e).length_le
  rw [← Lib.size_eq, ← Lib.size_eq] at this; omega

theorem begC_two (c d : UInt8) (t : Txt) : begC (c :: d :: t) = (c == 60 && (if d = 33 then !(dtL.isPrefixOf (lowL t)) else if d = 63 then true else if d = 47 then t.head?.any (fun e => !(e == 62) && !(letterI (e.toNat : Int))) else false)) := by
  by_cases hc : c = 60
  · subst hc
    by_cases h1 : d = 33
    · subst h1; rfl
    · by_cases h2 : d = 63
      · subst h2; rfl
      · by_cases h3 : d = 47
        · subst h3
          cases t with
          | nil => rfl
          | cons e t => rfl
        · rw [if_neg h1, if_neg h2, if_neg h3, Bool.and_false]
          unfold begC
          split <;> simp_all
  · rw [show (c == 60) = false from beq_eq_false_iff_ne.2 hc, Bool.false_and]
    unfold begC
    split <;> simp_all
theorem begC_short (t : Txt) (h : t.length < 2) : begC t = false := by
  match t, h with
  | [], _ => rfl
  | [c], _ =>
    unfold begC
    split <;> simp_all
theorem doc_at (s : ByteArray) (k : Nat) (h : k ≤ s.size) : begS s (k : Int) ⟨#[100, 111, 99, 116, 121, 112, 101]⟩ = dtL.isPrefixOf (lowL (s.data.toList.drop k)) := by
  unfold begS
  rw [decide_eq_true (show 0 ≤ (k : Int) ∧ (k : Int) ≤ (s.size : Int) by omega), Bool.true_and, show ((k : Nat) : Int).toNat = k by omega]
  rfl

theorem ret_pair {a b : ByteArray} {m n : Int} (h1 : a = b) (h2 : m = n) : Ending.returned (.tuple #[.string a, .int .i64 m]) = .returned (.tuple #[.string b, .int .i64 n]) := by rw [h1, h2]
/-- a scan from a place on -/
theorem scan_from (s : ByteArray) (i : Nat) (h : i < s.size) (R : Option (Txt × Nat)) (hR : (scanC (s.data.toList.drop i)).map (fun r => (s.data.toList.take i ++ r.1, r.2 + i)) = R)
    (h1 : [45, 45, 62].isPrefixOf (s.data.toList.drop i) = false) (h2 : [45, 45, 33, 62].isPrefixOf (s.data.toList.drop i) = false) :
    (scanC (s.data.toList.drop (i + 1))).map (fun r => (s.data.toList.take (i + 1) ++ r.1, r.2 + (i + 1))) = R := by
  rw [drop_at s i h] at h1 h2 hR
  rw [scan_step _ _ h1 h2] at hR
  rw [← hR]
  have ht : s.data.toList.take (i + 1) = s.data.toList.take i ++ [s[i]] := by
    rw [List.take_add_one, List.getElem?_eq_getElem (by rw [← Lib.size_eq]; exact h)]; rfl
  cases scanC (s.data.toList.drop (i + 1)) with
  | none => rfl
  | some r => simp [ht]; omega
theorem scan_hit (l : Txt) : ([45, 45, 62].isPrefixOf l = true → scanC l = some ([], 3)) ∧ ([45, 45, 62].isPrefixOf l = false → [45, 45, 33, 62].isPrefixOf l = true → scanC l = some ([], 4)) := by
  cases l with
  | nil => exact ⟨fun h => by simp [List.isPrefixOf] at h, fun _ h => by simp [List.isPrefixOf] at h⟩
  | cons c t => exact ⟨fun h => by rw [scanC, if_pos h], fun h1 h2 => by rw [scanC, h1, if_neg Bool.false_ne_true, if_pos h2]⟩
theorem drop_text (s : ByteArray) (i : Nat) : (s.extract i s.size).data.toList = s.data.toList.drop i := by
  rw [Lib.extract_data, List.take_of_length_le (by rw [List.length_drop, ← Lib.size_eq]; exact Nat.le_refl _)]
theorem take_text (s : ByteArray) (i : Nat) : (s.extract 0 i).data.toList = s.data.toList.take i := by
  rw [Lib.extract_data, List.drop_zero, Nat.sub_zero]

end Go.Proofs.YtcamkphanakkdaaDoor
