/-
  The places of a mark, one behind the other: plain mathematics.
-/
import Derived.Test.YthmfjnjjkcaalaaRawMath
import Derived.Lib.IndexMore
namespace Go.Proofs.Ythmfjnjjkcaalaa
open Go.RowKit Go.Lib

/-- does a mark stand ahead? -/
def mkL (l : Txt) : Bool := [60, 47].isPrefixOf l
/-- each place of a mark, counted from k on -/
def marksL (k : Nat) : Txt → List Nat
  | [] => []
  | c :: t => if mkL (c :: t) = true then k :: marksL (k + 1) t else marksL (k + 1) t
theorem endR_mk (nm l : Txt) (h : endR nm l = true) : mkL l = true := by
  unfold endR at h
  rw [Bool.and_eq_true, Bool.and_eq_true] at h
  obtain ⟨-, h, -⟩ := h
  match l with
  | [] => simp [lowL] at h
  | [c] => simp [lowL, List.isPrefixOf] at h
  | c :: d :: t =>
    rw [lowL_cons, lowL_cons, List.isPrefixOf_cons_cons, List.isPrefixOf_cons_cons, Bool.and_eq_true, Bool.and_eq_true, beq_iff_eq, beq_iff_eq] at h
    have hlow : ∀ (x q : UInt8), q.toNat < 65 → q = lowB x → x = q := fun x q hq hx => by
      have h1 := lowB_int x
      rw [← hx] at h1
      unfold lowI at h1
      rw [← UInt8.toNat_inj]
      split at h1
      · omega
      · omega
    unfold mkL
    rw [hlow c 60 (by decide) h.1, hlow d 47 (by decide) h.2.1]
    simp [List.isPrefixOf]
theorem marks_none (k : Nat) : ∀ (l : Txt), (∀ j, j < l.length → mkL (l.drop j) = false) → marksL k l = []
  | [], _ => rfl
  | c :: t, h => by
    have h0 := h 0 (by simp)
    rw [List.drop_zero] at h0
    rw [marksL, h0, if_neg Bool.false_ne_true]
    exact marks_none (k + 1) t fun j hj => by have := h (j + 1) (by simp; omega); rwa [List.drop_succ_cons] at this
theorem marks_hit : ∀ (n k : Nat) (l : Txt), n < l.length → (∀ j, j < n → mkL (l.drop j) = false) → mkL (l.drop n) = true → marksL k l = (k + n) :: marksL (k + n + 2) (l.drop (n + 2))
  | 0, k, c :: t, _, _, h => by
    rw [List.drop_zero] at h
    rw [marksL, h, if_pos rfl]
    match t, h with
    | [], h => simp [mkL, List.isPrefixOf] at h
    | d :: r, h =>
      have hd : d = 47 := by simp [mkL, List.isPrefixOf] at h; exact h.2.symm
      subst hd
      have hf : mkL (47 :: r) = false := by simp [mkL, List.isPrefixOf]
      rw [marksL, hf, if_neg Bool.false_ne_true]
      rfl
  | n + 1, k, c :: t, hl, hn, h => by
    have h0 := hn 0 (by omega)
    rw [List.drop_zero] at h0
    rw [marksL, h0, if_neg Bool.false_ne_true, marks_hit n (k + 1) t (by simpa using hl) (fun j hj => by have := hn (j + 1) (by omega); rwa [List.drop_succ_cons] at this) (by rwa [List.drop_succ_cons] at h)]
    rw [show n + 1 + 2 = (n + 2) + 1 by omega, List.drop_succ_cons, show k + 1 + n = k + (n + 1) by omega]
/-- what strings.Index finds -/
theorem marks_index_none (k : Nat) (l : Txt) (h : Lib.index l [60, 47] = -1) : marksL k l = [] := by
  rcases Lib.index_spec l [60, 47] with ⟨_, h2⟩ | ⟨i, h1, _⟩
  · exact marks_none k l fun j hj => h2 j (by omega)
  · omega
theorem marks_index_some (k : Nat) (l : Txt) (n : Nat) (h : Lib.index l [60, 47] = n) : n + 2 ≤ l.length ∧ marksL k l = (k + n) :: marksL (k + n + 2) (l.drop (n + 2)) := by
  have hr := Lib.index_room l [60, 47] (by omega)
  rw [h] at hr
  have hr : n + 2 ≤ l.length := by simp at hr; omega
  refine ⟨hr, ?_⟩
  rcases Lib.index_spec l [60, 47] with ⟨h1, _⟩ | ⟨i, h1, _, h3, h4⟩
  · omega
  · obtain rfl : i = n := by omega
    exact marks_hit i k l (by omega) (fun j hj => h4 j hj) h3
/-- which places there are -/
theorem mem_marks : ∀ (l : Txt) (k x : Nat), x ∈ marksL k l ↔ ∃ j, x = k + j ∧ j < l.length ∧ mkL (l.drop j) = true
  | [], k, x => by simp [marksL]
  | c :: t, k, x => by
    have ih := mem_marks t (k + 1) x
    rw [marksL]
    constructor
    · intro h
      by_cases h0 : mkL (c :: t) = true
      · rw [if_pos h0, List.mem_cons] at h
        rcases h with rfl | h
        · exact ⟨0, rfl, by simp, by rwa [List.drop_zero]⟩
        · obtain ⟨j, h1, h2, h3⟩ := ih.1 h
          exact ⟨j + 1, by omega, by simp; omega, by rwa [List.drop_succ_cons]⟩
      · rw [if_neg h0] at h
        obtain ⟨j, h1, h2, h3⟩ := ih.1 h
        exact ⟨j + 1, by omega, by simp; omega, by rwa [List.drop_succ_cons]⟩
    · rintro ⟨j, h1, h2, h3⟩
      cases j with
      | zero =>
        rw [List.drop_zero] at h3
        rw [if_pos h3, List.mem_cons]; exact .inl h1
      | succ j =>
        rw [List.drop_succ_cons] at h3
        have := ih.2 ⟨j, by omega, by simpa using h2, h3⟩
        by_cases h0 : mkL (c :: t) = true
        · rw [if_pos h0]; exact List.mem_cons_of_mem _ this
        · rwa [if_neg h0]
theorem marks_sorted : ∀ (l : Txt) (k : Nat) (p : List Nat) (x : Nat) (r : List Nat), marksL k l = p ++ x :: r → ∀ y ∈ marksL k l, y < x → y ∈ p
  | [], k, p, x, r, h => by simp [marksL] at h
  | c :: t, k, p, x, r, h => by
    intro y hy hlt
    rw [marksL] at h hy
    by_cases h0 : mkL (c :: t) = true
    · rw [if_pos h0] at h hy
      cases p with
      | nil =>
        simp only [List.nil_append, List.cons.injEq] at h
        obtain ⟨rfl, h⟩ := h
        rcases List.mem_cons.1 hy with rfl | hy
        · omega
        · obtain ⟨j, h1, _⟩ := (mem_marks t (k + 1) y).1 hy; omega
      | cons a p =>
        simp only [List.cons_append, List.cons.injEq] at h
        obtain ⟨rfl, h⟩ := h
        rcases List.mem_cons.1 hy with rfl | hy
        · exact List.mem_cons_self
        · exact List.mem_cons_of_mem _ (marks_sorted t (k + 1) p x r h y hy hlt)
    · rw [if_neg h0] at h hy
      exact marks_sorted t (k + 1) p x r h y hy hlt
/-- all places have come, and the name ends at none -/
theorem find_marks_none (nm s : Txt) (k : Nat) (hk : k ≤ s.length) (h : ∀ y ∈ marksL k (s.drop k), endR nm (s.drop y) = false) : findV nm s (k : Int) = s.length := by
  rw [findV_in nm s k hk, find_one nm (s.drop k) (s.length - k) (by rw [List.length_drop]; exact Nat.le_refl _) (fun i hi => ?_) (.inl (by rw [List.length_drop]))]
  · omega
  · rw [Bool.eq_false_iff]
    intro e
    have := h (k + i) ((mem_marks _ _ _).2 ⟨i, rfl, by rw [List.length_drop]; omega, endR_mk nm _ e⟩)
    rw [List.drop_drop] at e
    rw [e] at this; cases this
/-- it ends at the last one of those that have come -/
theorem find_marks_hit (nm s : Txt) (k x : Nat) (p : List Nat) (hk : k ≤ s.length) (hp : (p ++ [x]) <+: marksL k (s.drop k)) (h : ∀ y ∈ p, endR nm (s.drop y) = false) (hx : endR nm (s.drop x) = true) : findV nm s (k : Int) = x := by
  obtain ⟨r, hr⟩ := hp
  rw [List.append_assoc, List.singleton_append] at hr
  have hm : x ∈ marksL k (s.drop k) := by rw [← hr]; simp
  obtain ⟨j, h1, h2, h3⟩ := (mem_marks _ _ _).1 hm
  rw [List.length_drop] at h2
  rw [findV_in nm s k hk, find_one nm (s.drop k) j (by rw [List.length_drop]; omega) (fun i hi => ?_) (.inr (by rw [List.drop_drop, ← h1]; exact hx)), h1]
  rw [Bool.eq_false_iff]
  intro e
  have hy := marks_sorted _ _ p x r hr.symm (k + i) ((mem_marks _ _ _).2 ⟨i, rfl, by rw [List.length_drop]; omega, endR_mk nm _ e⟩) (by omega)
  rw [List.drop_drop] at e
  have := h _ hy
  rw [e] at this; cases this
theorem marks_le (s : Txt) (k : Nat) : ∀ y ∈ marksL k (s.drop k), k ≤ y ∧ y < s.length := fun y hy => by
  obtain ⟨j, h1, h2, _⟩ := (mem_marks _ _ _).1 hy
  rw [List.length_drop] at h2; omega
end Go.Proofs.Ythmfjnjjkcaalaa
