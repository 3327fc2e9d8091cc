/-
  Where a program ends: plain mathematics.
-/
import Derived.Test.YthmfjnjjkcaalaaRawMath
namespace Go.Proofs.Ythmfjnjjkcaalaa
open Go.RowKit Go.Lib

/-- script; <!-- -/
def scL : Txt := [115, 99, 114, 105, 112, 116]
def comL : Txt := [60, 33, 45, 45]
/-- the word behind an opening -/
def wordR (o l : Txt) : Bool := (o ++ scL).isPrefixOf (lowL l) && (l.drop (o.length + 6)).head?.any tailB
/-- one step: none: it ends here; else how many bytes are passed over, what it is from now on, how many strokes are counted -/
def stepS (st k : Nat) (l : Txt) : Option (Nat × Nat × Nat) :=
  if st = 0 then (if endR scL l = true then none else if comL.isPrefixOf (lowL l) = true then some (4, 1, 2) else some (1, 0, 0))
  else if l.head? = some 45 then some (1, st, k + 1)
  else if l.head? = some 62 ∧ 2 ≤ k then some (1, 0, 0)
  else if st = 1 ∧ endR scL l = true then none
  else if st = 1 ∧ wordR [60] l = true then some (8, 2, 0)
  else if st = 2 ∧ wordR [60, 47] l = true then some (9, 1, 0)
  else some (1, st, 0)
/-- where it ends, and what it is then: with fuel -/
def scrR : Nat → Nat → Nat → Txt → Nat × Nat
  | 0, st, _, _ => (0, st)
  | _ + 1, st, _, [] => (0, st)
  | f + 1, st, k, c :: t => match stepS st k (c :: t) with
    | none => (0, st)
    | some (n, st', k') => (n + (scrR f st' k' ((c :: t).drop n)).1, (scrR f st' k' ((c :: t).drop n)).2)
def scrV (st k : Nat) (l : Txt) : Nat × Nat := scrR l.length st k l
theorem word_len (o l : Txt) (h : wordR o l = true) : o.length + 7 ≤ l.length := by
  unfold wordR at h
  rw [Bool.and_eq_true] at h
  have : (l.drop (o.length + 6)) ≠ [] := fun e => by rw [e] at h; simp at h
  have := List.length_pos_iff.2 this
  rw [List.length_drop] at this; omega
theorem end_len (nm l : Txt) (h : endR nm l = true) : nm.length + 3 ≤ l.length := by
  unfold endR at h
  rw [Bool.and_eq_true, Bool.and_eq_true] at h
  have : (l.drop (2 + nm.length)) ≠ [] := fun e => by rw [e] at h; simp at h
  have := List.length_pos_iff.2 this
  rw [List.length_drop] at this; omega
theorem com_len (l : Txt) (h : comL.isPrefixOf (lowL l) = true) : 4 ≤ l.length := by
  have := (List.isPrefixOf_iff_prefix.1 h).length_le
  rw [lowL_len] at this; exact this
theorem step_some (st k : Nat) (l : Txt) (hl : l ≠ []) (n st' k' : Nat) (h : stepS st k l = some (n, st', k')) : 1 ≤ n ∧ n ≤ l.length ∧ (st ≤ 2 → st' ≤ 2) := by
  have h1 := List.length_pos_iff.2 hl
  unfold stepS at h
  by_cases c0 : st = 0
  · rw [if_pos c0] at h
    by_cases e : endR scL l = true
    · rw [if_pos e] at h; cases h
    · rw [if_neg e] at h
      by_cases m : comL.isPrefixOf (lowL l) = true
      · rw [if_pos m] at h
        have := com_len l m
        simp only [Option.some.injEq, Prod.mk.injEq] at h; omega
      · rw [if_neg m] at h
        simp only [Option.some.injEq, Prod.mk.injEq] at h; omega
  · rw [if_neg c0] at h
    by_cases c1 : l.head? = some 45
    · rw [if_pos c1] at h; simp only [Option.some.injEq, Prod.mk.injEq] at h; omega
    · rw [if_neg c1] at h
      by_cases c2 : l.head? = some 62 ∧ 2 ≤ k
      · rw [if_pos c2] at h; simp only [Option.some.injEq, Prod.mk.injEq] at h; omega
      · rw [if_neg c2] at h
        by_cases c3 : st = 1 ∧ endR scL l = true
        · rw [if_pos c3] at h; cases h
        · rw [if_neg c3] at h
          by_cases c4 : st = 1 ∧ wordR [60] l = true
          · rw [if_pos c4] at h
            have := word_len _ _ c4.2
            simp only [Option.some.injEq, Prod.mk.injEq, List.length_cons, List.length_nil] at h this; omega
          · rw [if_neg c4] at h
            by_cases c5 : st = 2 ∧ wordR [60, 47] l = true
            · rw [if_pos c5] at h
              have := word_len _ _ c5.2
              simp only [Option.some.injEq, Prod.mk.injEq, List.length_cons, List.length_nil] at h this; omega
            · rw [if_neg c5] at h; simp only [Option.some.injEq, Prod.mk.injEq] at h; omega
theorem step_none (st k : Nat) (l : Txt) (h : stepS st k l = none) : endR scL l = true ∧ (st = 0 ∨ st = 1) := by
  unfold stepS at h
  by_cases c0 : st = 0
  · rw [if_pos c0] at h
    by_cases e : endR scL l = true
    · exact ⟨e, .inl c0⟩
    · rw [if_neg e] at h; split at h <;> cases h
  · rw [if_neg c0] at h
    split at h
    · cases h
    · split at h
      · cases h
      · split at h
        · rename_i c; exact ⟨c.2, .inr c.1⟩
        · split at h
          · cases h
          · split at h <;> cases h
theorem scr_fuel : ∀ (f st k : Nat) (l : Txt), l.length ≤ f → scrR f st k l = scrV st k l
  | 0, st, k, l, h => by
    have : l = [] := List.length_eq_zero_iff.1 (by omega)
    subst this; rfl
  | f + 1, st, k, [], _ => rfl
  | f + 1, st, k, c :: t, h => by
    unfold scrV
    rw [List.length_cons, scrR, scrR]
    cases hs : stepS st k (c :: t) with
    | none => rfl
    | some r =>
      obtain ⟨n, st', k'⟩ := r
      have hb := step_some st k (c :: t) (by simp) n st' k' hs
      simp only
      have hl : ((c :: t).drop n).length ≤ t.length := by rw [List.length_drop]; rw [List.length_cons]; omega
      rw [List.length_cons] at h
      rw [scr_fuel f st' k' ((c :: t).drop n) (by omega)]
      have : scrR t.length st' k' ((c :: t).drop n) = scrV st' k' ((c :: t).drop n) := by
        by_cases ht : t.length ≤ f
        · exact scr_fuel t.length st' k' _ hl
        · omega
      rw [this]
termination_by f => f
theorem scr_nil (st k : Nat) : scrV st k [] = (0, st) := rfl
theorem scr_end (st k : Nat) (l : Txt) (hl : l ≠ []) (h : stepS st k l = none) : scrV st k l = (0, st) := by
  cases l with
  | nil => exact absurd rfl hl
  | cons c t => unfold scrV; rw [List.length_cons, scrR, h]
theorem scr_step (st k : Nat) (l : Txt) (hl : l ≠ []) (n st' k' : Nat) (h : stepS st k l = some (n, st', k')) : scrV st k l = (n + (scrV st' k' (l.drop n)).1, (scrV st' k' (l.drop n)).2) := by
  cases l with
  | nil => exact absurd rfl hl
  | cons c t =>
    have hb := step_some st k (c :: t) (by simp) n st' k' h
    have e : scrV st k (c :: t) = scrR (t.length + 1) st k (c :: t) := rfl
    rw [e, scrR, h]
    simp only
    rw [scr_fuel t.length st' k' _ (by rw [List.length_drop]; rw [List.length_cons]; omega)]
/-- P13.1 for any place -/
def scrP (s : Txt) (a : Int) : Nat × Nat := (plN s.length a + (scrV 0 0 (s.drop (plN s.length a))).1, (scrV 0 0 (s.drop (plN s.length a))).2)
theorem scrP_in (s : Txt) (k : Nat) (h : k ≤ s.length) : scrP s (k : Int) = (k + (scrV 0 0 (s.drop k)).1, (scrV 0 0 (s.drop k)).2) := by
  unfold scrP plN
  rw [show ((k : Nat) : Int).toNat = k by omega, Nat.min_eq_left h]

/-- induction along the run -/
theorem scr_ind {M : Nat → Nat → Txt → Prop} (h0 : ∀ st k, M st k []) (h1 : ∀ st k l, l ≠ [] → stepS st k l = none → M st k l) (h2 : ∀ st k l n st' k', l ≠ [] → stepS st k l = some (n, st', k') → M st' k' (l.drop n) → M st k l) :
    ∀ (m : Nat) (st k : Nat) (l : Txt), l.length ≤ m → M st k l
  | 0, st, k, l, h => by
    have : l = [] := List.length_eq_zero_iff.1 (by omega)
    subst this; exact h0 st k
  | m + 1, st, k, l, h => by
    by_cases hl : l = []
    · subst hl; exact h0 st k
    · cases hs : stepS st k l with
      | none => exact h1 st k l hl hs
      | some r =>
        obtain ⟨n, st', k'⟩ := r
        have hb := step_some st k l hl n st' k' hs
        exact h2 st k l n st' k' hl hs (scr_ind h0 h1 h2 m st' k' (l.drop n) (by rw [List.length_drop]; omega))
/-- where it ends its tag's end stands -/
theorem scr_is (st k : Nat) (l : Txt) (hst : st ≤ 2) : (scrV st k l).1 ≤ l.length ∧ (scrV st k l).2 ≤ 2 ∧ ((scrV st k l).1 < l.length → endR scL (l.drop (scrV st k l).1) = true ∧ (scrV st k l).2 ≠ 2) := by
  have := scr_ind (M := fun st k l => st ≤ 2 → (scrV st k l).1 ≤ l.length ∧ (scrV st k l).2 ≤ 2 ∧ ((scrV st k l).1 < l.length → endR scL (l.drop (scrV st k l).1) = true ∧ (scrV st k l).2 ≠ 2))
    (fun st k h => ⟨Nat.le_refl _, h, fun h => absurd h (Nat.lt_irrefl _)⟩)
    (fun st k l hl hs h => by
      rw [scr_end st k l hl hs]
      obtain ⟨e1, e2⟩ := step_none st k l hs
      exact ⟨Nat.zero_le _, h, fun _ => ⟨e1, by show st ≠ 2; omega⟩⟩)
    (fun st k l n st' k' hl hs ih h => by
      obtain ⟨b1, b2, b3⟩ := step_some st k l hl n st' k' hs
      obtain ⟨i1, i2, i3⟩ := ih (b3 h)
      rw [List.length_drop] at i1 i3
      rw [scr_step st k l hl n st' k' hs]
      refine ⟨by simp only; omega, i2, fun hlt => ?_⟩
      simp only at hlt
      have := i3 (by omega)
      rwa [List.drop_drop] at this)
    l.length st k l (Nat.le_refl _)
  exact this hst
/-- ahead of the first end there is none -/
theorem scr_find (k : Nat) (l : Txt) : findL scL l ≤ (scrV 0 k l).1 := by
  obtain ⟨s1, -, s3⟩ := scr_is 0 k l (by omega)
  obtain ⟨f1, f2, -⟩ := find_is scL l
  rcases Nat.lt_or_ge (scrV 0 k l).1 (findL scL l) with h | h
  · have := (s3 (by omega)).1
    rw [f2 _ h] at this; cases this
  · exact h
/-- without a comment -/
theorem scr_plain : ∀ (l : Txt), (∀ i, comL.isPrefixOf (lowL (l.drop i)) = false) → scrV 0 0 l = (findL scL l, 0)
  | [], _ => rfl
  | c :: t, h => by
    have ih := scr_plain t fun i => by have := h (i + 1); rwa [List.drop_succ_cons] at this
    have h0 := h 0
    rw [List.drop_zero] at h0
    cases e : endR scL (c :: t)
    · rw [scr_step 0 0 (c :: t) (by simp) 1 0 0 (by unfold stepS; rw [if_pos rfl, e, if_neg Bool.false_ne_true, h0, if_neg Bool.false_ne_true]), List.drop_succ_cons, List.drop_zero, ih, find_skip scL c t e]
      simp only [Prod.mk.injEq, and_true]; omega
    · rw [scr_end 0 0 (c :: t) (by simp) (by unfold stepS; rw [if_pos rfl, e, if_pos rfl]), findL, if_pos e]
/-- in whatever letters -/
theorem step_low (st k : Nat) (l : Txt) : stepS st k (lowL l) = stepS st k l := by
  have hw : ∀ o, wordR o (lowL l) = wordR o l := fun o => by
    unfold wordR
    rw [lowL_again]
    congr 1
    unfold lowL
    rw [← List.map_drop]
    cases l.drop (o.length + 6) with
    | nil => rfl
    | cons c t => simp only [List.map_cons, List.head?_cons, Option.any_some, (tailB_keep c).1]
  have hh : ∀ n : Nat, n < 256 → ¬ (97 ≤ n ∧ n ≤ 122) → ¬ (65 ≤ n ∧ n ≤ 90) → ((lowL l).head? = some (UInt8.ofNat n) ↔ l.head? = some (UInt8.ofNat n)) := fun n hn h1 h2 => by
    cases l with
    | nil => rfl
    | cons c t =>
      rw [lowL_cons, List.head?_cons, List.head?_cons, Option.some.injEq, Option.some.injEq]
      have h3 := lowB_int c
      have h4 : (UInt8.ofNat n).toNat = n := by rw [UInt8.toNat_ofNat']; exact Nat.mod_eq_of_lt hn
      have h5 := c.toNat_lt
      rw [← UInt8.toNat_inj, ← UInt8.toNat_inj, h4]
      unfold lowI at h3
      split at h3 <;> constructor <;> intro h <;> omega
  unfold stepS
  rw [endR_low, lowL_again, hw, hw]
  simp only [show ((lowL l).head? = some 45) = (l.head? = some 45) from propext (hh 45 (by decide) (by decide) (by decide)), show ((lowL l).head? = some 62) = (l.head? = some 62) from propext (hh 62 (by decide) (by decide) (by decide))]
theorem scr_low (st k : Nat) (l : Txt) : scrV st k (lowL l) = scrV st k l := by
  refine scr_ind (M := fun st k l => scrV st k (lowL l) = scrV st k l) (fun _ _ => rfl) (fun st k l hl hs => ?_) (fun st k l n st' k' hl hs ih => ?_) l.length st k l (Nat.le_refl _)
  · rw [scr_end st k l hl hs]
    exact scr_end st k (lowL l) (by cases l with | nil => exact absurd rfl hl | cons => simp [lowL_cons]) (by rw [step_low]; exact hs)
  · rw [scr_step st k l hl n st' k' hs, ← ih, show lowL (l.drop n) = (lowL l).drop n by unfold lowL; rw [List.map_drop]]
    exact scr_step st k (lowL l) (by cases l with | nil => exact absurd rfl hl | cons => simp [lowL_cons]) n st' k' (by rw [step_low]; exact hs)
/-- behind it -/
theorem pre_app (p l m : Txt) (h : p.length ≤ l.length) : p.isPrefixOf (l ++ m) = p.isPrefixOf l := by
  rw [Bool.eq_iff_iff, List.isPrefixOf_iff_prefix, List.isPrefixOf_iff_prefix, List.prefix_iff_eq_take, List.prefix_iff_eq_take, List.take_append_of_le_length h]
theorem head_app (l m : Txt) (n : Nat) (h : n < l.length) : ((l ++ m).drop n).head? = (l.drop n).head? := by
  rw [List.drop_append_of_le_length (by omega), List.drop_eq_getElem_cons h]; rfl
theorem step_app (st k : Nat) (l m : Txt) (h : 9 ≤ l.length) : stepS st k (l ++ m) = stepS st k l := by
  have e1 : endR scL (l ++ m) = endR scL l := by
    unfold endR
    rw [lowL_app, pre_app _ _ _ (by rw [lowL_len]; show 8 ≤ _; omega), head_app l m _ (by show 8 < _; omega)]
  have e2 : comL.isPrefixOf (lowL (l ++ m)) = comL.isPrefixOf (lowL l) := by rw [lowL_app, pre_app _ _ _ (by rw [lowL_len]; show 4 ≤ _; omega)]
  have e3 : ∀ o : Txt, o.length ≤ 2 → wordR o (l ++ m) = wordR o l := fun o ho => by
    unfold wordR
    rw [lowL_app, pre_app _ _ _ (by rw [lowL_len, List.length_append]; show o.length + 6 ≤ _; omega), head_app l m _ (by omega)]
  have e4 : (l ++ m).head? = l.head? := by
    have := head_app l m 0 (by omega)
    rwa [List.drop_zero, List.drop_zero] at this
  unfold stepS
  rw [e1, e2, e3 [60] (by decide), e3 [60, 47] (by decide), e4]
theorem scr_app (st k : Nat) (l m : Txt) (hst : st ≤ 2) (h : (scrV st k l).1 < l.length) : scrV st k (l ++ m) = scrV st k l := by
  have := scr_ind (M := fun st k l => st ≤ 2 → (scrV st k l).1 < l.length → scrV st k (l ++ m) = scrV st k l)
    (fun st k _ h => absurd h (Nat.lt_irrefl _))
    (fun st k l hl hs hst h => by
      have h9 := end_len _ _ (step_none st k l hs).1
      rw [scr_end st k l hl hs]
      exact scr_end st k (l ++ m) (by simp [hl]) (by rw [step_app st k l m h9]; exact hs))
    (fun st k l n st' k' hl hs ih hst h => by
      obtain ⟨b1, b2, b3⟩ := step_some st k l hl n st' k' hs
      have h9 : 9 ≤ l.length := by
        have := end_len _ _ ((scr_is st k l hst).2.2 h).1
        rw [List.length_drop] at this
        have : scL.length = 6 := rfl
        omega
      rw [scr_step st k l hl n st' k' hs] at h ⊢
      simp only at h
      rw [scr_step st k (l ++ m) (by simp [hl]) n st' k' (by rw [step_app st k l m h9]; exact hs), List.drop_append_of_le_length b2, ih (b3 hst) (by rw [List.length_drop]; omega)])
    l.length st k l (Nat.le_refl _)
  exact this hst h
end Go.Proofs.Ythmfjnjjkcaalaa
