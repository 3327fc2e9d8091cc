/-
  A program within a comment: plain mathematics.
-/
import Derived.Test.YthmfjnjjkcaalaaScrMath
namespace Go.Proofs.Ythmfjnjjkcaalaa
open Go.RowKit Go.Lib

theorem word_head (o : Txt) (c : UInt8) (t : Txt) (h : wordR (60 :: o) (c :: t) = true) : c = 60 := by
  unfold wordR at h
  rw [Bool.and_eq_true, lowL_cons, List.cons_append, List.isPrefixOf_cons_cons, Bool.and_eq_true, beq_iff_eq] at h
  have h1 := lowB_int c
  have h2 := c.toNat_lt
  rw [← h.1.1] at h1
  have h1 : (60 : Int) = lowI (c.toNat : Int) := h1
  rw [← UInt8.toNat_inj]
  unfold lowI at h1
  split at h1
  · omega
  · show c.toNat = 60; omega
theorem com_head (c : UInt8) (t : Txt) (h : comL.isPrefixOf (lowL (c :: t)) = true) : c = 60 := by
  rw [lowL_cons, comL, List.isPrefixOf_cons_cons, Bool.and_eq_true, beq_iff_eq] at h
  have h1 := lowB_int c
  have h2 := c.toNat_lt
  rw [← h.1] at h1
  have h1 : (60 : Int) = lowI (c.toNat : Int) := h1
  rw [← UInt8.toNat_inj]
  unfold lowI at h1
  split at h1
  · omega
  · show c.toNat = 60; omega
theorem step_plain (st k : Nat) (c : UInt8) (t : Txt) (h45 : c ≠ 45) (h60 : c ≠ 60) (h62 : c ≠ 62) : ∃ k', stepS st k (c :: t) = some (1, st, k') := by
  have e : endR scL (c :: t) = false := endR_letter _ _ _ h60
  have m : comL.isPrefixOf (lowL (c :: t)) = false := by rw [Bool.eq_false_iff]; exact fun h => h60 (com_head c t h)
  have w1 : wordR [60] (c :: t) = false := by rw [Bool.eq_false_iff]; exact fun h => h60 (word_head [] c t h)
  have w2 : wordR [60, 47] (c :: t) = false := by rw [Bool.eq_false_iff]; exact fun h => h60 (word_head [47] c t h)
  refine ⟨0, ?_⟩
  unfold stepS
  by_cases c0 : st = 0
  · rw [if_pos c0, e, if_neg Bool.false_ne_true, m, if_neg Bool.false_ne_true, c0]
  · rw [if_neg c0, if_neg (by simpa using h45), if_neg (by simp [h62]), if_neg (by simp [e]), if_neg (by simp [w1]), if_neg (by simp [w2])]
/-- what has no strokes and no brackets is passed over -/
theorem scr_skip : ∀ (x r : Txt) (st k : Nat), 45 ∉ x → 60 ∉ x → 62 ∉ x → ∃ k', scrV st k (x ++ r) = (x.length + (scrV st k' r).1, (scrV st k' r).2)
  | [], r, st, k, _, _, _ => ⟨k, by rw [List.nil_append, List.length_nil, Nat.zero_add]⟩
  | c :: x, r, st, k, h1, h2, h3 => by
    rw [List.mem_cons, not_or] at h1 h2 h3
    obtain ⟨k1, hs⟩ := step_plain st k c (x ++ r) (fun e => h1.1 e.symm) (fun e => h2.1 e.symm) (fun e => h3.1 e.symm)
    obtain ⟨k2, ih⟩ := scr_skip x r st k1 h1.2 h2.2 h3.2
    refine ⟨k2, ?_⟩
    rw [List.cons_append, scr_step st k _ (by simp) 1 st k1 hs, List.drop_succ_cons, List.drop_zero, ih, List.length_cons]
    simp only [Prod.mk.injEq, and_true]; omega
/-- the marks -/
theorem scr_com (k : Nat) (r : Txt) : scrV 0 k ([60, 33, 45, 45] ++ r) = (4 + (scrV 1 2 r).1, (scrV 1 2 r).2) := by
  have e : endR scL ([60, 33, 45, 45] ++ r) = false := by
    unfold endR
    rw [show [60, 33, 45, 45] ++ r = 60 :: 33 :: 45 :: 45 :: r from rfl, lowL_cons, lowL_cons, List.isPrefixOf_cons_cons, List.isPrefixOf_cons_cons, show ((47 : UInt8) == lowB 33) = false by decide]
    simp
  exact scr_step 0 k _ (by simp) 4 1 2 (by
    unfold stepS
    rw [if_pos rfl, e, if_neg Bool.false_ne_true, if_pos (show comL.isPrefixOf (lowL ([60, 33, 45, 45] ++ r)) = true from List.isPrefixOf_iff_prefix.2 ⟨lowL r, rfl⟩)])
theorem scr_open (k : Nat) (r : Txt) : scrV 1 k ([60, 115, 99, 114, 105, 112, 116, 62] ++ r) = (8 + (scrV 2 0 r).1, (scrV 2 0 r).2) := by
  have e : endR scL ([60, 115, 99, 114, 105, 112, 116, 62] ++ r) = false := by
    unfold endR
    rw [show [60, 115, 99, 114, 105, 112, 116, 62] ++ r = 60 :: 115 :: ([99, 114, 105, 112, 116, 62] ++ r) from rfl, lowL_cons, lowL_cons, List.isPrefixOf_cons_cons, List.isPrefixOf_cons_cons, show ((47 : UInt8) == lowB 115) = false by decide]
    simp
  have w : wordR [60] ([60, 115, 99, 114, 105, 112, 116, 62] ++ r) = true := by
    unfold wordR
    rw [Bool.and_eq_true]
    exact ⟨List.isPrefixOf_iff_prefix.2 ⟨lowL (62 :: r), rfl⟩, rfl⟩
  exact scr_step 1 k _ (by simp) 8 2 0 (by
    unfold stepS
    rw [if_neg (by decide), if_neg (by simp), if_neg (by simp), if_neg (by rw [e]; simp), if_pos ⟨rfl, w⟩])
theorem scr_close (k : Nat) (r : Txt) : scrV 2 k ([60, 47, 115, 99, 114, 105, 112, 116, 62] ++ r) = (9 + (scrV 1 0 r).1, (scrV 1 0 r).2) := by
  have w : wordR [60, 47] ([60, 47, 115, 99, 114, 105, 112, 116, 62] ++ r) = true := by
    unfold wordR
    rw [Bool.and_eq_true]
    exact ⟨List.isPrefixOf_iff_prefix.2 ⟨lowL (62 :: r), rfl⟩, rfl⟩
  exact scr_step 2 k _ (by simp) 9 1 0 (by
    unfold stepS
    rw [if_neg (by decide), if_neg (by simp), if_neg (by simp), if_neg (by simp), if_neg (by simp), if_pos ⟨rfl, w⟩])
theorem scr_stop (st k : Nat) (r : Txt) (hst : st = 0 ∨ st = 1) : scrV st k ([60, 47, 115, 99, 114, 105, 112, 116, 62] ++ r) = (0, st) := by
  have e : endR scL ([60, 47, 115, 99, 114, 105, 112, 116, 62] ++ r) = true := by
    have := endR_tag scL r 62 (by decide) (by decide)
    rw [show tailB 62 = true by decide] at this
    exact this
  refine scr_end st k _ (by simp) ?_
  unfold stepS
  rcases hst with rfl | rfl
  · rw [if_pos rfl, if_pos e]
  · rw [if_neg (by decide), if_neg (by simp), if_neg (by simp), if_pos ⟨rfl, e⟩]
theorem scr_shut (k : Nat) (r : Txt) : scrV 1 k ([45, 45, 62] ++ r) = (3 + (scrV 0 0 r).1, (scrV 0 0 r).2) := by
  rw [show [45, 45, 62] ++ r = 45 :: 45 :: 62 :: r from rfl]
  rw [scr_step 1 k (45 :: 45 :: 62 :: r) (by simp) 1 1 (k + 1) (by unfold stepS; rw [if_neg (by decide), if_pos (show (45 :: 45 :: 62 :: r).head? = some (45 : UInt8) from rfl)]), List.drop_succ_cons, List.drop_zero]
  rw [scr_step 1 (k + 1) (45 :: 62 :: r) (by simp) 1 1 (k + 1 + 1) (by unfold stepS; rw [if_neg (by decide), if_pos (show (45 :: 62 :: r).head? = some (45 : UInt8) from rfl)]), List.drop_succ_cons, List.drop_zero]
  rw [scr_step 1 (k + 1 + 1) _ (by simp) 1 0 0 (by unfold stepS; rw [if_neg (by decide), if_neg (by simp), if_pos ⟨rfl, by omega⟩]), List.drop_succ_cons, List.drop_zero]
  simp only [Prod.mk.injEq, and_true]; omega
/-- the whole of it -/
theorem within_told (a b : Txt) (ha : 45 ∉ a ∧ 60 ∉ a ∧ 62 ∉ a) (hb : 45 ∉ b ∧ 60 ∉ b ∧ 62 ∉ b) :
    scrV 0 0 (a ++ [60, 33, 45, 45] ++ b ++ [60, 115, 99, 114, 105, 112, 116, 62] ++ a) = (2 * a.length + b.length + 12, 2) ∧
    scrV 0 0 (a ++ [60, 33, 45, 45] ++ b ++ [60, 115, 99, 114, 105, 112, 116, 62] ++ a ++ [60, 47, 115, 99, 114, 105, 112, 116, 62] ++ b ++ [60, 47, 115, 99, 114, 105, 112, 116, 62] ++ a) = (2 * a.length + 2 * b.length + 21, 1) ∧
    scrV 0 0 (a ++ [60, 33, 45, 45] ++ b ++ [60, 115, 99, 114, 105, 112, 116, 62] ++ a ++ [60, 47, 115, 99, 114, 105, 112, 116, 62] ++ b ++ [45, 45, 62] ++ [60, 47, 115, 99, 114, 105, 112, 116, 62] ++ a) = (2 * a.length + 2 * b.length + 24, 0) := by
  have key : ∀ r : Txt, ∃ k, scrV 0 0 (a ++ [60, 33, 45, 45] ++ b ++ [60, 115, 99, 114, 105, 112, 116, 62] ++ a ++ r) = (2 * a.length + b.length + 12 + (scrV 2 k r).1, (scrV 2 k r).2) := fun r => by
    rw [show a ++ [60, 33, 45, 45] ++ b ++ [60, 115, 99, 114, 105, 112, 116, 62] ++ a ++ r = a ++ ([60, 33, 45, 45] ++ (b ++ ([60, 115, 99, 114, 105, 112, 116, 62] ++ (a ++ r)))) by simp]
    obtain ⟨k1, e1⟩ := scr_skip a ([60, 33, 45, 45] ++ (b ++ ([60, 115, 99, 114, 105, 112, 116, 62] ++ (a ++ r)))) 0 0 ha.1 ha.2.1 ha.2.2
    obtain ⟨k2, e2⟩ := scr_skip b ([60, 115, 99, 114, 105, 112, 116, 62] ++ (a ++ r)) 1 2 hb.1 hb.2.1 hb.2.2
    obtain ⟨k3, e3⟩ := scr_skip a r 2 0 ha.1 ha.2.1 ha.2.2
    refine ⟨k3, ?_⟩
    rw [e1, scr_com, e2, scr_open, e3]
    simp only [Prod.mk.injEq, and_true]; omega
  refine ⟨?_, ?_, ?_⟩
  · obtain ⟨k, e⟩ := key []
    rw [List.append_nil, scr_nil] at e
    rw [e]; rfl
  · rw [show a ++ [60, 33, 45, 45] ++ b ++ [60, 115, 99, 114, 105, 112, 116, 62] ++ a ++ [60, 47, 115, 99, 114, 105, 112, 116, 62] ++ b ++ [60, 47, 115, 99, 114, 105, 112, 116, 62] ++ a =
      a ++ [60, 33, 45, 45] ++ b ++ [60, 115, 99, 114, 105, 112, 116, 62] ++ a ++ ([60, 47, 115, 99, 114, 105, 112, 116, 62] ++ (b ++ ([60, 47, 115, 99, 114, 105, 112, 116, 62] ++ a))) by simp]
    obtain ⟨k, e⟩ := key ([60, 47, 115, 99, 114, 105, 112, 116, 62] ++ (b ++ ([60, 47, 115, 99, 114, 105, 112, 116, 62] ++ a)))
    obtain ⟨k2, e2⟩ := scr_skip b ([60, 47, 115, 99, 114, 105, 112, 116, 62] ++ a) 1 0 hb.1 hb.2.1 hb.2.2
    rw [e, scr_close, e2, scr_stop 1 k2 a (.inr rfl)]
    simp only [Prod.mk.injEq, and_true]; omega
  · rw [show a ++ [60, 33, 45, 45] ++ b ++ [60, 115, 99, 114, 105, 112, 116, 62] ++ a ++ [60, 47, 115, 99, 114, 105, 112, 116, 62] ++ b ++ [45, 45, 62] ++ [60, 47, 115, 99, 114, 105, 112, 116, 62] ++ a =
      a ++ [60, 33, 45, 45] ++ b ++ [60, 115, 99, 114, 105, 112, 116, 62] ++ a ++ ([60, 47, 115, 99, 114, 105, 112, 116, 62] ++ (b ++ ([45, 45, 62] ++ ([60, 47, 115, 99, 114, 105, 112, 116, 62] ++ a)))) by simp]
    obtain ⟨k, e⟩ := key ([60, 47, 115, 99, 114, 105, 112, 116, 62] ++ (b ++ ([45, 45, 62] ++ ([60, 47, 115, 99, 114, 105, 112, 116, 62] ++ a))))
    obtain ⟨k2, e2⟩ := scr_skip b ([45, 45, 62] ++ ([60, 47, 115, 99, 114, 105, 112, 116, 62] ++ a)) 1 0 hb.1 hb.2.1 hb.2.2
    rw [e, scr_close, e2, scr_shut, scr_stop 0 0 a (.inl rfl)]
    simp only [Prod.mk.injEq, and_true]; omega
end Go.Proofs.Ythmfjnjjkcaalaa
