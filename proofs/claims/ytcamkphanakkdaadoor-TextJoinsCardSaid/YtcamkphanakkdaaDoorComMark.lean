/-
  Where comments end: what package comment's plainEnd and markedEnd answer.
-/
import Derived.Test.YtcamkphanakkdaaDoorComEnds
import Derived.Test.YtcamkphanakkdaaDoorComRefB
import Derived.Test.YtcamkphanakkdaaDoorP3
import Derived.Deep.RegionHeld3
namespace Go.Proofs.YtcamkphanakkdaaDoor
open Go.RowKit Go.Lib

/-- where a text of a comment ends, told by how long it is -/
theorem scan_pre : ∀ (l x : Txt) (n : Nat), scanC l = some (x, n) → x = l.take x.length
  | [], x, n, h => by cases h
  | c :: t, x, n, h => by
    rw [scanC] at h
    split at h
    · simp only [Option.some.injEq, Prod.mk.injEq] at h
      obtain ⟨rfl, -⟩ := h; rfl
    · split at h
      · simp only [Option.some.injEq, Prod.mk.injEq] at h
        obtain ⟨rfl, -⟩ := h; rfl
      · cases hr : scanC t with
        | none => rw [hr] at h; cases h
        | some y =>
          obtain ⟨y, m⟩ := y
          rw [hr] at h
          simp only [Option.map_some, Option.some.injEq, Prod.mk.injEq] at h
          obtain ⟨rfl, -⟩ := h
          rw [List.length_cons, List.take_succ_cons, ← scan_pre t y m hr]
theorem tail_pre (l : Txt) : tailC l = l.take (tailC l).length := by
  have key : ∀ k, l.take k = l.take (l.take k).length := fun k => List.prefix_iff_eq_take.1 (List.take_prefix k l)
  unfold tailC
  split
  · exact key _
  · split
    · exact key _
    · split
      · exact key _
      · rw [List.take_length]
theorem plain_pre (l : Txt) : (plainC l).1 = l.take (plainC l).1.length := by
  unfold plainC
  split
  · rfl
  · split
    · rfl
    · cases h : scanC l with
      | none => exact tail_pre l
      | some r => exact scan_pre l r.1 r.2 h
/-- the ends that are held against a place -/
theorem st_short (l : Txt) : stN [62] [45, 62] l = 1 ∧ plainC l = ([], 1) ∨ stN [62] [45, 62] l = 2 ∧ plainC l = ([], 2) ∨ stN [62] [45, 62] l = 0 ∧ plainC l = (match scanC l with | some r => r | none => (tailC l, l.length)) := by
  unfold stN plainC
  by_cases h1 : [62].isPrefixOf l = true
  · rw [if_pos h1, if_pos h1]; exact .inl ⟨rfl, rfl⟩
  · rw [if_neg h1, if_neg h1]
    by_cases h2 : [45, 62].isPrefixOf l = true
    · rw [if_pos h2, if_pos h2]; exact .inr (.inl ⟨rfl, rfl⟩)
    · rw [if_neg h2, if_neg h2]; exact .inr (.inr ⟨rfl, rfl⟩)
theorem st_scan (l : Txt) : (stN [45, 45, 62] [45, 45, 33, 62] l = 0 ∧ [45, 45, 62].isPrefixOf l = false ∧ [45, 45, 33, 62].isPrefixOf l = false) ∨ (1 ≤ stN [45, 45, 62] [45, 45, 33, 62] l ∧ stN [45, 45, 62] [45, 45, 33, 62] l ≤ 4 ∧ scanC l = some ([], stN [45, 45, 62] [45, 45, 33, 62] l)) := by
  obtain ⟨s1, s2⟩ := scan_hit l
  unfold stN
  cases h1 : [45, 45, 62].isPrefixOf l
  · cases h2 : [45, 45, 33, 62].isPrefixOf l
    · exact .inl ⟨rfl, rfl, rfl⟩
    · exact .inr ⟨by simp, by simp, s2 h1 h2⟩
  · exact .inr ⟨by simp, by simp, s1 h1⟩
/-- a scan from a place on, told by places -/
def scanM (l : Txt) (i : Nat) : Option (Nat × Nat) := (scanC (l.drop i)).map fun r => (i + r.1.length, i + r.2)
theorem scanM_step (s : ByteArray) (i : Nat) (h : i < s.size) (h1 : [45, 45, 62].isPrefixOf (s.data.toList.drop i) = false) (h2 : [45, 45, 33, 62].isPrefixOf (s.data.toList.drop i) = false) : scanM s.data.toList i = scanM s.data.toList (i + 1) := by
  unfold scanM
  rw [drop_at s i h] at h1 h2 ⊢
  rw [scan_step _ _ h1 h2]
  cases scanC (s.data.toList.drop (i + 1)) with
  | none => rfl
  | some r => simp; omega
theorem scanM_hit (l : Txt) (i n : Nat) (h : scanC (l.drop i) = some ([], n)) : scanM l i = some (i, i + n) := by
  unfold scanM; rw [h]; rfl
theorem scanM_end (s : ByteArray) : scanM s.data.toList s.size = none := by
  unfold scanM
  rw [List.drop_eq_nil_of_le (by rw [← Lib.size_eq]; exact Nat.le_refl _)]; rfl

theorem ret_ints {a b m n : Int} (h1 : a = b) (h2 : m = n) : Ending.returned (.tuple #[.int .i64 a, .int .i64 m]) = .returned (.tuple #[.int .i64 b, .int .i64 n]) := by rw [h1, h2]
end Go.Proofs.YtcamkphanakkdaaDoor
