/-
  Where a text ends with its own tag: plain mathematics.
-/
import Derived.Test.YthmfjnjjkcaalaaP1
import Derived.Test.YthmfjnjjkcaalaaP4
import Derived.Test.YthmfjnjjkcaalaaP3
namespace Go.Proofs.Ythmfjnjjkcaalaa
open Go.RowKit Go.Lib

/-- a byte behind a name that ends it -/
def tailB (c : UInt8) : Bool := spaceI (c.toNat : Int) || c == 47 || c == 62
theorem tailB_int (c : UInt8) : tailB c = (spaceI ((c.toNat : Nat) : Int) || (((c.toNat : Nat) : Int) == 47) || (((c.toNat : Nat) : Int) == 62)) := by
  unfold tailB
  congr 1
  · congr 1
    rw [Bool.eq_iff_iff, beq_iff_eq, beq_iff_eq, ← UInt8.toNat_inj]
    show c.toNat = 47 ↔ _
    omega
  · rw [Bool.eq_iff_iff, beq_iff_eq, beq_iff_eq, ← UInt8.toNat_inj]
    show c.toNat = 62 ↔ _
    omega
/-- P12.1, of what stands at a place -/
def endR (nm l : Txt) : Bool := !nm.isEmpty && ((60 :: 47 :: nm).isPrefixOf (lowL l) && (l.drop (2 + nm.length)).head?.any tailB)
/-- how many bytes stand ahead of the first end -/
def findL (nm : Txt) : Txt → Nat
  | [] => 0
  | c :: t => if endR nm (c :: t) = true then 0 else findL nm t + 1
/-- P12.1, P12.2 for any place -/
def endV (nm s : Txt) (a : Int) : Bool := decide (0 ≤ a) && endR nm (s.drop a.toNat)
def plN (n : Nat) (a : Int) : Nat := min a.toNat n
def findV (nm s : Txt) (a : Int) : Nat := plN s.length a + findL nm (s.drop (plN s.length a))
theorem endR_nil (nm : Txt) : endR nm [] = false := by
  unfold endR
  rw [show lowL [] = [] from rfl]
  simp [List.isPrefixOf]
theorem endR_head (nm : Txt) (c : UInt8) (t : Txt) (h : endR nm (c :: t) = true) : c = 60 := by
  unfold endR at h
  rw [Bool.and_eq_true, Bool.and_eq_true] at h
  obtain ⟨-, h, -⟩ := h
  rw [lowL_cons, List.isPrefixOf_cons_cons, Bool.and_eq_true, beq_iff_eq] at h
  have h1 := lowB_int c
  have h2 := c.toNat_lt
  rw [← h.1] at h1
  have h1 : (60 : Int) = lowI (c.toNat : Int) := h1
  rw [← UInt8.toNat_inj]
  unfold lowI at h1
  split at h1
  · omega
  · show c.toNat = 60; omega
theorem endV_in (nm s : Txt) (k : Nat) : endV nm s (k : Int) = endR nm (s.drop k) := by
  unfold endV
  rw [show ((k : Nat) : Int).toNat = k by omega, decide_eq_true (by omega), Bool.true_and]
theorem endV_out (nm s : Txt) (a : Int) (h : a < 0 ∨ (s.length : Int) ≤ a) : endV nm s a = false := by
  unfold endV
  rcases h with h | h
  · rw [decide_eq_false (by omega), Bool.false_and]
  · rw [List.drop_eq_nil_of_le (by omega), endR_nil, Bool.and_false]
theorem findV_in (nm s : Txt) (k : Nat) (h : k ≤ s.length) : findV nm s (k : Int) = k + findL nm (s.drop k) := by
  unfold findV plN
  rw [show ((k : Nat) : Int).toNat = k by omega, Nat.min_eq_left h]
theorem findV_low (nm s : Txt) (a : Int) (h : a < 0) : findV nm s a = findV nm s 0 := by
  unfold findV plN
  rw [show a.toNat = 0 by omega]; rfl
theorem findV_high (nm s : Txt) (a : Int) (h : (s.length : Int) ≤ a) : findV nm s a = s.length := by
  unfold findV plN
  rw [Nat.min_eq_right (by omega), List.drop_length]; rfl
/-- what the first end is -/
theorem find_is (nm : Txt) : ∀ l : Txt, findL nm l ≤ l.length ∧ (∀ i, i < findL nm l → endR nm (l.drop i) = false) ∧ (findL nm l < l.length → endR nm (l.drop (findL nm l)) = true)
  | [] => ⟨Nat.le_refl _, fun i h => absurd h (Nat.not_lt_zero _), fun h => absurd h (Nat.lt_irrefl _)⟩
  | c :: t => by
    obtain ⟨h1, h2, h3⟩ := find_is nm t
    by_cases h : endR nm (c :: t) = true
    · have e : findL nm (c :: t) = 0 := by rw [findL, if_pos h]
      rw [e]
      exact ⟨Nat.zero_le _, fun i hi => absurd hi (Nat.not_lt_zero _), fun _ => h⟩
    · have e : findL nm (c :: t) = findL nm t + 1 := by rw [findL, if_neg h]
      rw [e, List.length_cons]
      refine ⟨by omega, fun i hi => ?_, fun hi => by rw [List.drop_succ_cons]; exact h3 (by omega)⟩
      cases i with
      | zero => exact Bool.eq_false_iff.2 h
      | succ i => rw [List.drop_succ_cons]; exact h2 i (by omega)
theorem find_one (nm l : Txt) (n : Nat) (h1 : n ≤ l.length) (h2 : ∀ i, i < n → endR nm (l.drop i) = false) (h3 : n = l.length ∨ endR nm (l.drop n) = true) : findL nm l = n := by
  obtain ⟨f1, f2, f3⟩ := find_is nm l
  rcases Nat.lt_trichotomy (findL nm l) n with h | h | h
  · have := f3 (by omega)
    rw [h2 _ h] at this; cases this
  · exact h
  · rcases h3 with h3 | h3
    · omega
    · rw [f2 n h] at h3; cases h3
theorem find_skip (nm : Txt) (c : UInt8) (t : Txt) (h : endR nm (c :: t) = false) : findL nm (c :: t) = findL nm t + 1 := by
  rw [findL, h]; rfl
/-- the first end from a place on -/
theorem findV_step (nm s : Txt) (i : Nat) (hi : i < s.length) (h : endR nm (s.drop i) = false) : findV nm s ((i : Nat) : Int) = findV nm s ((i + 1 : Nat) : Int) := by
  rw [findV_in nm s i (by omega), findV_in nm s (i + 1) hi, List.drop_eq_getElem_cons hi]
  rw [List.drop_eq_getElem_cons hi] at h
  rw [find_skip nm _ _ h]; omega
theorem findV_hit (nm s : Txt) (i : Nat) (hi : i < s.length) (h : endR nm (s.drop i) = true) : findV nm s ((i : Nat) : Int) = i := by
  rw [findV_in nm s i (by omega), find_one nm _ 0 (Nat.zero_le _) (fun j hj => absurd hj (Nat.not_lt_zero _)) (.inr h)]; rfl
/-- P12.3, and what else follows -/
theorem findV_is (nm s : Txt) (k : Nat) (hk : k ≤ s.length) : k ≤ findV nm s (k : Int) ∧ findV nm s (k : Int) ≤ s.length ∧ (∀ i, k ≤ i → i < findV nm s (k : Int) → endR nm (s.drop i) = false) ∧ (findV nm s (k : Int) < s.length → endR nm (s.drop (findV nm s (k : Int))) = true) := by
  obtain ⟨f1, f2, f3⟩ := find_is nm (s.drop k)
  rw [List.length_drop] at f1 f3
  rw [findV_in nm s k hk]
  refine ⟨by omega, by omega, fun i h1 h2 => ?_, fun h => ?_⟩
  · have := f2 (i - k) (by omega)
    rwa [List.drop_drop, show k + (i - k) = i by omega] at this
  · have := f3 (by omega)
    rwa [List.drop_drop] at this
theorem findV_later (nm s : Txt) (k m : Nat) (hkm : k ≤ m) (hm : m ≤ s.length) : findV nm s (k : Int) ≤ findV nm s (m : Int) := by
  obtain ⟨a1, a2, a3, a4⟩ := findV_is nm s k (by omega)
  obtain ⟨b1, b2, b3, b4⟩ := findV_is nm s m hm
  rcases Nat.lt_or_ge (findV nm s (m : Int)) (findV nm s (k : Int)) with h | h
  · have := b4 (by omega)
    rw [a3 _ (by omega) h] at this; cases this
  · exact h
theorem findV_again (nm s : Txt) (k : Nat) (hk : k ≤ s.length) : findV nm s ((findV nm s (k : Int) : Nat) : Int) = findV nm s (k : Int) := by
  obtain ⟨a1, a2, a3, a4⟩ := findV_is nm s k hk
  rcases Nat.lt_or_ge (findV nm s (k : Int)) s.length with h | h
  · exact findV_hit nm s _ h (a4 h)
  · have : findV nm s (k : Int) = s.length := by omega
    rw [this, findV_high nm s _ (Int.le_refl _)]

/-- what stands ahead of a place -/
theorem endV_ahead (nm p s : Txt) : endV nm (p ++ s) (p.length : Int) = endV nm s 0 := by
  rw [endV_in, List.drop_left, show (0 : Int) = ((0 : Nat) : Int) from rfl, endV_in, List.drop_zero]
theorem findV_ahead (nm p s : Txt) : findV nm (p ++ s) (p.length : Int) = p.length + findV nm s 0 := by
  rw [findV_in nm _ _ (by rw [List.length_append]; omega), List.drop_left, show (0 : Int) = ((0 : Nat) : Int) from rfl, findV_in nm s 0 (Nat.zero_le _), List.drop_zero, Nat.zero_add]

/-- in whatever letters -/
theorem tail_low : ∀ n, n < 256 → tailB (lowB (UInt8.ofNat n)) = tailB (UInt8.ofNat n) ∧ lowB (lowB (UInt8.ofNat n)) = lowB (UInt8.ofNat n) := by decide +kernel
theorem tailB_keep (c : UInt8) : tailB (lowB c) = tailB c ∧ lowB (lowB c) = lowB c := by
  have := tail_low c.toNat c.toNat_lt
  rwa [show UInt8.ofNat c.toNat = c by rw [← UInt8.toNat_inj, UInt8.toNat_ofNat']; exact Nat.mod_eq_of_lt c.toNat_lt] at this
theorem lowL_again (l : Txt) : lowL (lowL l) = lowL l := by
  unfold lowL
  rw [List.map_map]
  exact List.map_congr_left fun c _ => (tailB_keep c).2
theorem endR_low (nm l : Txt) : endR nm (lowL l) = endR nm l := by
  unfold endR
  rw [lowL_again]
  have h : ((lowL l).drop (2 + nm.length)).head?.any tailB = (l.drop (2 + nm.length)).head?.any tailB := by
    unfold lowL
    rw [← List.map_drop]
    cases l.drop (2 + nm.length) with
    | nil => rfl
    | cons c t => simp only [List.map_cons, List.head?_cons, Option.any_some, (tailB_keep c).1]
  rw [h]
theorem findL_low (nm : Txt) : ∀ l : Txt, findL nm (lowL l) = findL nm l
  | [] => rfl
  | c :: t => by
    have ih := findL_low nm t
    have h := endR_low nm (c :: t)
    rw [lowL_cons] at h ⊢
    rw [findL, findL, h, ih]
theorem endV_low (nm s : Txt) (a : Int) : endV nm (lowL s) a = endV nm s a := by
  unfold endV
  rw [show (lowL s).drop a.toNat = lowL (s.drop a.toNat) by unfold lowL; rw [List.map_drop], endR_low]
theorem findV_lower (nm s : Txt) (a : Int) : findV nm (lowL s) a = findV nm s a := by
  unfold findV
  rw [lowL_len, show (lowL s).drop (plN s.length a) = lowL (s.drop (plN s.length a)) by unfold lowL; rw [List.map_drop], findL_low]
/-- a name that isn't in small letters ends nowhere -/
theorem endR_large (nm l : Txt) (h : lowL nm ≠ nm) : endR nm l = false := by
  rw [Bool.eq_false_iff]
  intro e
  unfold endR at e
  rw [Bool.and_eq_true, Bool.and_eq_true] at e
  obtain ⟨r, hr⟩ := List.isPrefixOf_iff_prefix.1 e.2.1
  have h2 := congrArg lowL hr
  rw [lowL_again, ← hr, lowL_app] at h2
  have h3 := congrArg (List.take (2 + nm.length)) h2
  rw [List.take_append_of_le_length (by rw [lowL_len]; simp; omega), List.take_append_of_le_length (by simp; omega), List.take_of_length_le (by rw [lowL_len]; simp; omega), List.take_of_length_le (by simp; omega), lowL_cons, lowL_cons] at h3
  simp only [List.cons.injEq] at h3
  exact h h3.2.2
theorem findL_large (nm : Txt) (h : lowL nm ≠ nm) : ∀ l : Txt, findL nm l = l.length
  | [] => rfl
  | c :: t => by rw [find_skip nm _ _ (endR_large nm _ h), findL_large nm h t, List.length_cons]
theorem findV_large (nm s : Txt) (h : lowL nm ≠ nm) : findV nm s 0 = s.length := by
  rw [show (0 : Int) = ((0 : Nat) : Int) from rfl, findV_in nm s 0 (Nat.zero_le _), findL_large nm h, List.drop_zero, Nat.zero_add]

/-- without a bracket -/
theorem endR_plain (nm : Txt) (l r : Txt) (i : Nat) (hi : i < l.length) (h : 60 ∉ l) : endR nm ((l ++ r).drop i) = false := by
  rw [List.drop_append_of_le_length (by omega), List.drop_eq_getElem_cons hi, List.cons_append, Bool.eq_false_iff]
  intro e
  exact h (endR_head nm _ _ e ▸ List.getElem_mem hi)
/-- a tag's end -/
theorem endR_tag (nm r : Txt) (c : UInt8) (hn : nm ≠ []) (hl : lowL nm = nm) : endR nm (60 :: 47 :: nm ++ c :: r) = tailB c := by
  unfold endR
  have h1 : nm.isEmpty = false := by cases nm with | nil => exact (hn rfl).elim | cons => rfl
  rw [h1, lowL_app, lowL_cons, lowL_cons, hl, show lowB 60 = 60 by decide, show lowB 47 = 47 by decide]
  rw [show (60 :: 47 :: nm).isPrefixOf (60 :: 47 :: nm ++ lowL (c :: r)) = true from List.isPrefixOf_iff_prefix.2 ⟨_, rfl⟩]
  rw [show (60 :: 47 :: nm ++ c :: r).drop (2 + nm.length) = c :: r by
    rw [show 2 + nm.length = (60 :: 47 :: nm).length by simp; omega, List.drop_left]]
  simp
theorem endR_cut (nm : Txt) : endR nm (60 :: 47 :: nm) = false := by
  unfold endR
  rw [show (60 :: 47 :: nm).drop (2 + nm.length) = [] from List.drop_eq_nil_of_le (by simp; omega)]
  simp
theorem endR_letter (nm : Txt) (c : UInt8) (t : Txt) (h : c ≠ 60) : endR nm (c :: t) = false := by
  rw [Bool.eq_false_iff]; exact fun e => h (endR_head nm c t e)
/-- what is written -/
theorem find_told (nm s : Txt) (hn : nm ≠ []) (hl : lowL nm = nm) (h60 : 60 ∉ s) (hnm : 60 ∉ nm) :
    findV nm s 0 = s.length ∧ findV nm (s ++ [60, 47] ++ nm ++ [62] ++ s) 0 = s.length ∧ findV nm (s ++ [60, 47] ++ nm) 0 = s.length + 2 + nm.length ∧ findV nm (s ++ [60, 47] ++ nm ++ [120, 62]) 0 = s.length + 4 + nm.length := by
  have h0 : ∀ l : Txt, findV nm l 0 = findL nm l := fun l => by
    rw [show (0 : Int) = ((0 : Nat) : Int) from rfl, findV_in nm l 0 (Nat.zero_le _), List.drop_zero, Nat.zero_add]
  have hx : 60 ∉ nm ++ [120, 62] := by simp [hnm]
  refine ⟨?_, ?_, ?_, ?_⟩
  · rw [h0]
    exact find_one nm s s.length (Nat.le_refl _) (fun i hi => by have := endR_plain nm s [] i hi h60; rwa [List.append_nil] at this) (.inl rfl)
  · rw [h0, show s ++ [60, 47] ++ nm ++ [62] ++ s = s ++ (60 :: 47 :: nm ++ 62 :: s) by simp]
    refine find_one nm _ s.length (by simp) (fun i hi => endR_plain nm s _ i hi h60) (.inr ?_)
    rw [List.drop_left, endR_tag nm s 62 hn hl]; decide
  · rw [h0, show s ++ [60, 47] ++ nm = s ++ (60 :: 47 :: nm) by simp]
    refine find_one nm _ _ (by simp; omega) (fun i hi => ?_) (.inl (by simp; omega))
    rcases Nat.lt_trichotomy i s.length with h | h | h
    · exact endR_plain nm s _ i h h60
    · rw [h, List.drop_left, endR_cut]
    · obtain ⟨j, rfl⟩ : ∃ j, i = s.length + (j + 1) := ⟨i - s.length - 1, by omega⟩
      rw [← List.drop_drop, List.drop_left, List.drop_succ_cons]
      cases j with
      | zero => exact endR_letter nm 47 _ (by decide)
      | succ j =>
        rw [List.drop_succ_cons]
        have := endR_plain nm nm [] j (by omega) hnm
        rwa [List.append_nil] at this
  · rw [h0, show s ++ [60, 47] ++ nm ++ [120, 62] = s ++ (60 :: 47 :: nm ++ 120 :: [62]) by simp]
    refine find_one nm _ _ (by simp; omega) (fun i hi => ?_) (.inl (by simp; omega))
    rcases Nat.lt_trichotomy i s.length with h | h | h
    · exact endR_plain nm s _ i h h60
    · rw [h, List.drop_left, endR_tag nm _ 120 hn hl]; decide
    · obtain ⟨j, rfl⟩ : ∃ j, i = s.length + (j + 1) := ⟨i - s.length - 1, by omega⟩
      rw [← List.drop_drop, List.drop_left, List.cons_append, List.drop_succ_cons]
      cases j with
      | zero => exact endR_letter nm 47 _ (by decide)
      | succ j =>
        rw [List.cons_append, List.drop_succ_cons, show nm ++ 120 :: [62] = nm ++ [120, 62] ++ [] by simp]
        exact endR_plain nm (nm ++ [120, 62]) [] j (by simp; omega) hx
end Go.Proofs.Ythmfjnjjkcaalaa
