/-
  What the laws of layer 10 want of comments: plain mathematics.
-/
import Derived.Test.YtcamkphanakkdaaDoorComMath
namespace Go.Proofs.YtcamkphanakkdaaDoor
open Go.RowKit Go.Lib

theorem pre_no62 {l : Txt} (h : l.head? ≠ some 62) : [62].isPrefixOf l = false := by
  cases l with
  | nil => rfl
  | cons c l =>
    simp only [List.head?_cons] at h
    rw [Bool.eq_false_iff]; intro e
    simp [List.isPrefixOf] at e
    exact h (by rw [← e])
theorem pre_no4562 {l : Txt} (h : ∀ c t, l = 45 :: c :: t → c ≠ 62) : [45, 62].isPrefixOf l = false := by
  match l with
  | [] => rfl
  | [c] => simp [List.isPrefixOf]
  | c :: d :: t =>
    rw [Bool.eq_false_iff]; intro e
    simp [List.isPrefixOf] at e
    exact h d t (by rw [← e.1]) e.2.symm
theorem suf_last {l : Txt} (h : l.getLast? ≠ some 45) (p : Txt) : (p ++ [45]).isSuffixOf l = false := by
  rw [Bool.eq_false_iff]; intro e
  obtain ⟨q, rfl⟩ := List.isSuffixOf_iff_suffix.1 e
  exact h (by simp)
theorem suf_two {l : Txt} (h : NoTwo l) : [45, 45, 33].isSuffixOf l = false := by
  rw [Bool.eq_false_iff]; intro e
  obtain ⟨q, rfl⟩ := List.isSuffixOf_iff_suffix.1 e
  refine h q.length ?_ ?_
  · rw [List.getElem?_append_right (Nat.le_refl _), Nat.sub_self]; rfl
  · rw [List.getElem?_append_right (by omega), Nat.add_sub_cancel_left]; rfl
theorem tail_same {l : Txt} (h : NoTwo l) (hl : l.getLast? ≠ some 45) : tailC l = l := by
  unfold tailC
  rw [suf_two h, show [45, 45].isSuffixOf l = false from suf_last hl [45], show [45].isSuffixOf l = false from suf_last hl []]
  rfl
/-- a text without marks -/
structure OpenT (l : Txt) : Prop where
  two : NoTwo l
  last : l.getLast? ≠ some 45
  first : l.head? ≠ some 45 ∧ l.head? ≠ some 62
theorem plain_ends {l : Txt} (h : OpenT l) (e r : Txt) (k : Nat) (he : e = [45, 45, 62] ∧ k = 3 ∨ e = [45, 45, 33, 62] ∧ k = 4) : plainC (l ++ (e ++ r)) = (l, l.length + k) := by
  have h1 : (l ++ (e ++ r)).head? ≠ some 62 := by
    cases l with
    | nil => rcases he with ⟨rfl, -⟩ | ⟨rfl, -⟩ <;> simp
    | cons c l => exact h.first.2
  have h2 : ∀ c t, l ++ (e ++ r) = 45 :: c :: t → c ≠ 62 := by
    intro c t hc
    cases l with
    | nil =>
      rcases he with ⟨rfl, -⟩ | ⟨rfl, -⟩ <;> (simp at hc; rw [← hc.1]; decide)
    | cons d l =>
      simp only [List.cons_append, List.cons.injEq] at hc
      exact (h.first.1 (by rw [hc.1]; rfl)).elim
  have h3 : scanC (e ++ r) = some ([], k) := by
    rcases he with ⟨rfl, rfl⟩ | ⟨rfl, rfl⟩
    · exact scan_hit3 r
    · exact scan_hit4 r
  unfold plainC
  rw [pre_no62 h1, pre_no4562 h2, scan_through l _ h.two h.last, h3]
  simp only [Bool.false_eq_true, if_false, Option.map_some, List.append_nil]
  rw [Nat.add_comm]
theorem plain_open {l : Txt} (h : OpenT l) : plainC l = (l, l.length) := by
  have h2 : ∀ c t, l = 45 :: c :: t → c ≠ 62 := fun c t hc => (h.first.1 (by rw [hc]; rfl)).elim
  have h3 : scanC l = none := by
    have := scan_through l [] h.two h.last
    rw [List.append_nil] at this
    rw [this]; rfl
  unfold plainC
  rw [pre_no62 h.first.2, pre_no4562 h2, h3, tail_same h.two h.last]
  rfl
theorem plain_bang {l : Txt} (h : OpenT l) : plainC (l ++ [45, 45, 33]) = (l, l.length + 3) := by
  have h1 : (l ++ [45, 45, 33]).head? ≠ some 62 := by
    cases l with
    | nil => simp
    | cons c l => exact h.first.2
  have h2 : ∀ c t, l ++ [45, 45, 33] = 45 :: c :: t → c ≠ 62 := by
    intro c t hc
    cases l with
    | nil => simp at hc; rw [← hc.1]; decide
    | cons d l =>
      simp only [List.cons_append, List.cons.injEq] at hc
      exact (h.first.1 (by rw [hc.1]; rfl)).elim
  unfold plainC
  rw [pre_no62 h1, pre_no4562 h2, scan_through l _ h.two h.last, show scanC [45, 45, 33] = none by decide]
  simp only [Bool.false_eq_true, if_false, Option.map_none]
  unfold tailC
  rw [if_pos (List.isSuffixOf_iff_suffix.2 ⟨l, rfl⟩)]
  simp
/-- up to a bracket, or to the end -/
theorem bog_ends (l r : Txt) (h : 62 ∉ l) : bogC (l ++ 62 :: r) = (l, l.length + 1) := by
  have h1 : ∀ x ∈ l, (x != 62) = true := fun x hx => by
    rw [bne_iff_ne]; rintro rfl; exact h hx
  have e1 : (l ++ 62 :: r).takeWhile (· != 62) = l := by
    rw [List.takeWhile_append_of_pos h1]; simp
  have e2 : (l ++ 62 :: r).dropWhile (· != 62) = 62 :: r := by
    rw [List.dropWhile_append_of_pos h1]; simp
  unfold bogC
  rw [e1, e2, List.tail_cons, List.length_append, List.length_cons]
  congr 1
  omega
theorem bog_open (l : Txt) (h : 62 ∉ l) : bogC l = (l, l.length) := by
  have h1 : ∀ x ∈ l, (x != 62) = true := fun x hx => by
    rw [bne_iff_ne]; rintro rfl; exact h hx
  have e1 : l.takeWhile (· != 62) = l := by
    have := List.takeWhile_append_of_pos (l₂ := []) h1
    rw [List.append_nil] at this
    rw [this]; simp
  have e2 : l.dropWhile (· != 62) = [] := by
    have := List.dropWhile_append_of_pos (l₂ := []) h1
    rw [List.append_nil] at this
    rw [this]; rfl
  unfold bogC
  rw [e1, e2]; rfl
theorem first_of (c : UInt8) : ∀ l : Txt, c ∈ l → ∃ p r, l = p ++ c :: r ∧ c ∉ p
  | d :: l, h => by
    by_cases hd : d = c
    · exact ⟨[], l, by rw [hd]; rfl, by simp⟩
    · obtain ⟨p, r, e, hp⟩ := first_of c l ((List.mem_cons.1 h).resolve_left fun e => hd e.symm)
      refine ⟨d :: p, r, by rw [e]; rfl, ?_⟩
      rw [List.mem_cons, not_or]
      exact ⟨fun e => hd e.symm, hp⟩
theorem bog_cut (l m : Txt) (h : (bogC l).2 ≠ l.length) : (bogC l).2 < l.length ∧ 1 ≤ (bogC l).2 ∧ l.getD ((bogC l).2 - 1) 0 = 62 ∧ bogC (l.take (bogC l).2 ++ m) = bogC l := by
  by_cases hm : 62 ∈ l
  · obtain ⟨p, r, rfl, hp⟩ : ∃ p r, l = p ++ 62 :: r ∧ 62 ∉ p := by
      exact first_of 62 l hm
    rw [bog_ends p r hp] at h ⊢
    have e : (p ++ 62 :: r).take (p.length + 1) = p ++ [62] := by
      rw [List.take_append, List.take_of_length_le (by omega)]; simp
    refine ⟨?_, by simp, ?_, ?_⟩
    · rw [List.length_append, List.length_cons] at h ⊢; simp only at h ⊢; omega
    · simp only [Nat.add_sub_cancel]
      rw [List.getD_eq_getElem?_getD, List.getElem?_append_right (Nat.le_refl _), Nat.sub_self]; rfl
    · rw [e, List.append_assoc]; exact bog_ends p m hp
  · rw [bog_open l hm] at h; exact absurd rfl h
/-- a scan's end, whatever stands behind -/
theorem scan_cut (m : Txt) : ∀ (l x : Txt) (n : Nat), scanC l = some (x, n) → scanC (l.take n ++ m) = some (x, n)
  | [], x, n, h => by cases h
  | c :: t, x, n, h => by
    have he := scan_ends (c :: t) x n h
    rw [scanC] at h
    by_cases h1 : [45, 45, 62].isPrefixOf (c :: t) = true
    · rw [if_pos h1] at h
      simp only [Option.some.injEq, Prod.mk.injEq] at h
      obtain ⟨rfl, rfl⟩ := h
      obtain ⟨q, hq⟩ := List.isPrefixOf_iff_prefix.1 h1
      rw [← hq]
      exact scan_hit3 m
    · rw [if_neg h1] at h
      by_cases h2 : [45, 45, 33, 62].isPrefixOf (c :: t) = true
      · rw [if_pos h2] at h
        simp only [Option.some.injEq, Prod.mk.injEq] at h
        obtain ⟨rfl, rfl⟩ := h
        obtain ⟨q, hq⟩ := List.isPrefixOf_iff_prefix.1 h2
        rw [← hq]
        exact scan_hit4 m
      · rw [if_neg h2] at h
        cases hr : scanC t with
        | none => rw [hr] at h; cases h
        | some y =>
          obtain ⟨y, k⟩ := y
          rw [hr] at h
          simp only [Option.map_some, Option.some.injEq, Prod.mk.injEq] at h
          obtain ⟨rfl, rfl⟩ := h
          have hk := scan_ends t y k hr
          have key : ∀ p : Txt, p.length ≤ 4 → p.isPrefixOf (c :: t) = false → p.isPrefixOf (c :: (t.take k ++ m)) = false := by
            intro p hp hf
            rw [Bool.eq_false_iff] at hf ⊢
            intro e
            refine hf (List.isPrefixOf_iff_prefix.2 ?_)
            have e := List.isPrefixOf_iff_prefix.1 e
            rw [List.prefix_iff_eq_take] at e ⊢
            rw [e]
            have : (c :: (t.take k ++ m)).take p.length = (c :: t).take p.length := by
              cases hpl : p.length with
              | zero => rfl
              | succ j =>
                rw [List.take_succ_cons, List.take_succ_cons, List.take_append_of_le_length (by rw [List.length_take]; omega), List.take_take, Nat.min_eq_left (by omega)]
            rw [this, List.length_take, Nat.min_eq_left (by
              have h3 := congrArg List.length e
              rw [List.length_take] at h3
              simp only [List.length_cons]
              have := hk.2.1
              omega)]
          rw [List.take_succ_cons, List.cons_append, scan_step c _ (key _ (by decide) (Bool.eq_false_iff.2 h1)) (key _ (by decide) (Bool.eq_false_iff.2 h2)), scan_cut m t y k hr]
          rfl
end Go.Proofs.YtcamkphanakkdaaDoor
