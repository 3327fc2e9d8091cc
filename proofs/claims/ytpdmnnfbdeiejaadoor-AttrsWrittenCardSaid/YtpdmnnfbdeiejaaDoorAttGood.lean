/-
  What follows of what stands in a tag: where it ends, what its names are like, what plays no part: plain mathematics.
-/
import Derived.Test.YtpdmnnfbdeiejaaDoorAttMath
namespace Go.Proofs.YtpdmnnfbdeiejaaDoor
open Go.RowKit Go.Lib

/-- a name's bytes, as they stand there -/
def RawP (nm : Txt) : Prop := ∃ c t, nm = c :: t ∧ spB c = false ∧ c ≠ 62 ∧ c ≠ 47 ∧ ∀ x ∈ t, endB x = false
def InvA (P : List Ln → Prop) : At → Prop
  | .s0 l => P l
  | .s1 l nm => P l ∧ RawP nm
  | .s2 l nm => P l ∧ RawP nm
  | .s3 l nm => P l ∧ RawP nm
  | .s4 l nm _ _ => P l ∧ RawP nm
  | .s5 l nm _ => P l ∧ RawP nm
def StepP (P : List Ln → Prop) : Step → Prop
  | .more a => InvA P a
  | .done l _ _ => P l
theorem go0_inv {P : List Ln → Prop} {l : List Ln} {c : UInt8} {t : Txt} (h : P l) : StepP P (go0 l c t) := by
  unfold go0
  by_cases hs : spB c = true
  · rw [if_pos hs]; exact h
  · rw [if_neg hs]
    by_cases h62 : c = 62
    · rw [if_pos h62]; exact h
    · rw [if_neg h62]
      by_cases h47 : c = 47
      · rw [if_pos h47]; split <;> exact h
      · rw [if_neg h47]
        exact ⟨h, c, [], rfl, by simpa using hs, h62, h47, by simp⟩
theorem go2_inv {P : List Ln → Prop} (hadd : ∀ l nm v, P l → RawP nm → P (addL l nm v)) {l : List Ln} {nm : Txt} {c : UInt8} {t : Txt} (h : P l ∧ RawP nm) : StepP P (go2 l nm c t) := by
  unfold go2
  split
  · exact h
  · split
    · exact h
    · exact go0_inv (hadd _ _ _ h.1 h.2)
theorem go5_inv {P : List Ln → Prop} (hadd : ∀ l nm v, P l → RawP nm → P (addL l nm v)) {l : List Ln} {nm v : Txt} {c : UInt8} {t : Txt} (h : P l ∧ RawP nm) : StepP P (go5 l nm v c t) := by
  unfold go5
  split
  · exact go0_inv (hadd _ _ _ h.1 h.2)
  · exact h
theorem goA_inv {P : List Ln → Prop} (hadd : ∀ l nm v, P l → RawP nm → P (addL l nm v)) {a : At} {c : UInt8} {t : Txt} (h : InvA P a) : StepP P (goA a c t) := by
  cases a with
  | s0 l => exact go0_inv h
  | s1 l nm =>
    show StepP P (go1 l nm c t)
    unfold go1
    split
    · exact go2_inv hadd h
    · rename_i he
      obtain ⟨hl, d, r, rfl, h1, h2, h3, h4⟩ := h
      refine ⟨hl, d, r ++ [c], rfl, h1, h2, h3, fun x hx => ?_⟩
      rcases List.mem_append.1 hx with hx | hx
      · exact h4 x hx
      · rw [List.mem_singleton.1 hx]; simpa using he
  | s2 l nm => exact go2_inv hadd h
  | s3 l nm =>
    show StepP P (go3 l nm c t)
    unfold go3
    split
    · exact h
    · split
      · exact h
      · split
        · exact go0_inv (hadd _ _ _ h.1 h.2)
        · exact go5_inv hadd h
  | s4 l nm v q =>
    show StepP P (go4 l nm v q c)
    unfold go4
    split
    · exact hadd _ _ _ h.1 h.2
    · exact h
  | s5 l nm v => exact go5_inv hadd h
theorem run_inv {P : List Ln → Prop} (hadd : ∀ l nm v, P l → RawP nm → P (addL l nm v)) : ∀ (t : Txt) (a : At) (l : List Ln) (self : Bool) (n : Nat), InvA P a → runA a t = some (l, self, n) → P l
  | [], a, l, self, n, _, h => by rw [run_nil] at h; exact absurd h (by simp)
  | c :: t, a, l, self, n, hi, h => by
    have hs := goA_inv hadd (c := c) (t := t) hi
    cases hg : goA a c t with
    | done l' self' n' =>
      rw [hg] at hs
      rw [run_done hg] at h
      simp only [Option.some.injEq, Prod.mk.injEq] at h
      rw [← h.1]; exact hs
    | more a' =>
      rw [hg] at hs
      rw [run_more hg] at h
      cases hr : runA a' t with
      | none => rw [hr] at h; exact absurd h (by simp)
      | some r =>
        obtain ⟨l', self', n'⟩ := r
        rw [hr] at h
        simp only [Option.map_some, upN, Option.some.injEq, Prod.mk.injEq] at h
        rw [← h.1]
        exact run_inv hadd t a' l' self' n' hs hr

/-- where a tag ends -/
theorem go0_done {l0 : List Ln} {c : UInt8} {t : Txt} {l : List Ln} {self : Bool} {n : Nat} (h : go0 l0 c t = .done l self n) : (self = false ∧ n = 1 ∧ c = 62) ∨ (self = true ∧ n = 2 ∧ c = 47 ∧ t.head? = some 62) := by
  unfold go0 at h
  by_cases hs : spB c = true
  · rw [if_pos hs] at h; cases h
  · rw [if_neg hs] at h
    by_cases h62 : c = 62
    · rw [if_pos h62] at h; cases h; exact .inl ⟨rfl, rfl, h62⟩
    · rw [if_neg h62] at h
      by_cases h47 : c = 47
      · rw [if_pos h47] at h
        by_cases ht : t.head? = some 62
        · rw [if_pos ht] at h; cases h; exact .inr ⟨rfl, rfl, h47, ht⟩
        · rw [if_neg ht] at h; cases h
      · rw [if_neg h47] at h; cases h
theorem goA_done {a : At} {c : UInt8} {t : Txt} {l : List Ln} {self : Bool} {n : Nat} (h : goA a c t = .done l self n) : (self = false ∧ n = 1 ∧ c = 62) ∨ (self = true ∧ n = 2 ∧ c = 47 ∧ t.head? = some 62) := by
  have h2 : ∀ l0 nm, go2 l0 nm c t = .done l self n → (self = false ∧ n = 1 ∧ c = 62) ∨ (self = true ∧ n = 2 ∧ c = 47 ∧ t.head? = some 62) := by
    intro l0 nm h
    unfold go2 at h
    split at h
    · cases h
    · split at h
      · cases h
      · exact go0_done h
  have h5 : ∀ l0 nm v, go5 l0 nm v c t = .done l self n → (self = false ∧ n = 1 ∧ c = 62) ∨ (self = true ∧ n = 2 ∧ c = 47 ∧ t.head? = some 62) := by
    intro l0 nm v h
    unfold go5 at h
    split at h
    · exact go0_done h
    · cases h
  cases a with
  | s0 l0 => exact go0_done h
  | s1 l0 nm =>
    have h : go1 l0 nm c t = .done l self n := h
    unfold go1 at h
    split at h
    · exact h2 _ _ h
    · cases h
  | s2 l0 nm => exact h2 _ _ h
  | s3 l0 nm =>
    have h : go3 l0 nm c t = .done l self n := h
    unfold go3 at h
    split at h
    · cases h
    · split at h
      · cases h
      · split at h
        · exact go0_done h
        · exact h5 _ _ _ h
  | s4 l0 nm v q =>
    have h : go4 l0 nm v q c = .done l self n := h
    unfold go4 at h
    split at h <;> cases h
  | s5 l0 nm v => exact h5 _ _ _ h
theorem run_ends : ∀ (t : Txt) (a : At) (l : List Ln) (self : Bool) (n : Nat), runA a t = some (l, self, n) → 1 ≤ n ∧ n ≤ t.length ∧ t.getD (n - 1) 0 = 62 ∧ (self = true → 2 ≤ n ∧ t.getD (n - 2) 0 = 47)
  | [], a, l, self, n, h => by rw [run_nil] at h; exact absurd h (by simp)
  | c :: t, a, l, self, n, h => by
    cases hg : goA a c t with
    | done l' self' n' =>
      rw [run_done hg] at h
      simp only [Option.some.injEq, Prod.mk.injEq] at h
      obtain ⟨-, rfl, rfl⟩ := h
      rcases goA_done hg with ⟨rfl, rfl, rfl⟩ | ⟨rfl, rfl, rfl, ht⟩
      · exact ⟨Nat.le_refl _, by simp, rfl, fun h => by cases h⟩
      · cases t with
        | nil => exact absurd ht (by simp)
        | cons d r =>
          simp only [List.head?_cons, Option.some.injEq] at ht
          subst ht
          exact ⟨by decide, by simp, rfl, fun _ => ⟨Nat.le_refl _, rfl⟩⟩
    | more a' =>
      rw [run_more hg] at h
      cases hr : runA a' t with
      | none => rw [hr] at h; exact absurd h (by simp)
      | some r =>
        obtain ⟨l', self', n'⟩ := r
        rw [hr] at h
        simp only [Option.map_some, upN, Option.some.injEq, Prod.mk.injEq] at h
        obtain ⟨-, rfl, rfl⟩ := h
        obtain ⟨h1, h2, h3, h4⟩ := run_ends t a' l' self' n' hr
        refine ⟨by omega, by rw [List.length_cons]; omega, ?_, fun hs => ?_⟩
        · rw [show n' + 1 - 1 = (n' - 1) + 1 by omega, List.getD_cons_succ]; exact h3
        · obtain ⟨h5, h6⟩ := h4 hs
          refine ⟨by omega, ?_⟩
          rw [show n' + 1 - 2 = (n' - 2) + 1 by omega, List.getD_cons_succ]; exact h6

/-- P8.2: what names are like, as they are told -/
def byteOk (y : UInt8) : Prop := y.toNat ≠ 32 ∧ y.toNat ≠ 10 ∧ y.toNat ≠ 9 ∧ y.toNat ≠ 12 ∧ y.toNat ≠ 47 ∧ y.toNat ≠ 62 ∧ y.toNat ≠ 0 ∧ ¬ (65 ≤ y.toNat ∧ y.toNat ≤ 90)
def NameOk (n : Txt) : Prop := ∃ c t, n = c :: t ∧ byteOk c ∧ ∀ x ∈ t, byteOk x ∧ x.toNat ≠ 61
theorem mem_clean (y : UInt8) : ∀ l : Txt, y ∈ cleanL l → (y ∈ l ∧ y ≠ 0) ∨ y = 239 ∨ y = 191 ∨ y = 189
  | [], h => by simp [cleanL] at h
  | c :: l, h => by
    have ih := mem_clean y l
    rw [cleanL] at h
    by_cases hc : c = 0
    · rw [if_pos hc] at h
      simp only [List.mem_cons] at h
      rcases h with h | h | h | h
      · exact .inr (.inl h)
      · exact .inr (.inr (.inl h))
      · exact .inr (.inr (.inr h))
      · rcases ih h with h | h
        · exact .inl ⟨List.mem_cons_of_mem _ h.1, h.2⟩
        · exact .inr h
    · rw [if_neg hc] at h
      rcases List.mem_cons.1 h with h | h
      · exact .inl ⟨by rw [h]; exact List.mem_cons_self, by rw [h]; exact hc⟩
      · rcases ih h with h | h
        · exact .inl ⟨List.mem_cons_of_mem _ h.1, h.2⟩
        · exact .inr h
theorem clean_no0 (l : Txt) : 0 ∉ cleanL l := by
  intro h
  rcases mem_clean 0 l h with h | h | h | h
  · exact h.2 rfl
  · exact absurd h (by decide)
  · exact absurd h (by decide)
  · exact absurd h (by decide)
theorem bad_ok : byteOk 239 ∧ byteOk 191 ∧ byteOk 189 := by refine ⟨?_, ?_, ?_⟩ <;> (unfold byteOk; decide)
theorem low_ok (c : UInt8) (hs : spB c = false) (h62 : c ≠ 62) (h47 : c ≠ 47) (h0 : lowB c ≠ 0) : byteOk (lowB c) ∧ (c ≠ 61 → (lowB c).toNat ≠ 61) := by
  have h := lowB_int c
  unfold spB spaceI at hs
  rw [decide_eq_false_iff_not] at hs
  have h1 : c.toNat ≠ 62 := fun e => h62 (by rw [← UInt8.toNat_inj, e]; rfl)
  have h2 : c.toNat ≠ 47 := fun e => h47 (by rw [← UInt8.toNat_inj, e]; rfl)
  have h3 : (lowB c).toNat ≠ 0 := fun e => h0 (by rw [← UInt8.toNat_inj, e]; rfl)
  unfold byteOk
  unfold lowI at h
  refine ⟨?_, fun h61 => ?_⟩
  · split at h <;> omega
  · have h4 : c.toNat ≠ 61 := fun e => h61 (by rw [← UInt8.toNat_inj, e]; rfl)
    split at h <;> omega
theorem end_parts (x : UInt8) (h : endB x = false) : spB x = false ∧ x ≠ 47 ∧ x ≠ 62 ∧ x ≠ 61 := by
  unfold endB at h
  rw [Bool.or_eq_false_iff, Bool.or_eq_false_iff, Bool.or_eq_false_iff] at h
  exact ⟨h.1.1.1, by simpa using h.1.1.2, by simpa using h.1.2, by simpa using h.2⟩
theorem tellN_ok (nm : Txt) (h : RawP nm) : NameOk (tellN nm) := by
  obtain ⟨c, t, rfl, h1, h2, h3, h4⟩ := h
  have ht : ∀ y ∈ cleanL (lowL t), byteOk y ∧ y.toNat ≠ 61 := by
    intro y hy
    rcases mem_clean y _ hy with ⟨hm, h0⟩ | rfl | rfl | rfl
    · unfold lowL at hm
      obtain ⟨x, hx, rfl⟩ := List.mem_map.1 hm
      obtain ⟨e1, e2, e3, e4⟩ := end_parts x (h4 x hx)
      obtain ⟨k1, k2⟩ := low_ok x e1 e3 e2 h0
      exact ⟨k1, k2 e4⟩
    · exact ⟨bad_ok.1, by decide⟩
    · exact ⟨bad_ok.2.1, by decide⟩
    · exact ⟨bad_ok.2.2, by decide⟩
  unfold tellN
  rw [lowL_cons, cleanL]
  by_cases h0 : lowB c = 0
  · rw [if_pos h0]
    refine ⟨239, _, rfl, bad_ok.1, fun x hx => ?_⟩
    simp only [List.mem_cons] at hx
    rcases hx with rfl | rfl | hx
    · exact ⟨bad_ok.2.1, by decide⟩
    · exact ⟨bad_ok.2.2, by decide⟩
    · exact ht x hx
  · rw [if_neg h0]
    exact ⟨_, _, rfl, (low_ok c h1 h2 h3 h0).1, ht⟩
/-- attributes as they are told -/
def GoodA (l : List Ln) : Prop := l.Pairwise (fun a b => a.1 ≠ b.1) ∧ ∀ r ∈ l, NameOk r.1 ∧ 0 ∉ r.2
theorem good_add (l : List Ln) (nm v : Txt) (h : GoodA l) (hr : RawP nm) : GoodA (addL l nm v) := by
  unfold addL
  by_cases ha : l.any (fun r => r.1 == tellN nm) = true
  · rw [if_pos ha]; exact h
  · rw [if_neg ha]
    rw [Bool.not_eq_true, List.any_eq_false] at ha
    refine ⟨List.pairwise_append.2 ⟨h.1, List.pairwise_singleton .., fun a hm b hb => ?_⟩, fun r hm => ?_⟩
    · rw [List.mem_singleton.1 hb]
      simpa using ha a hm
    · rcases List.mem_append.1 hm with hm | hm
      · exact h.2 r hm
      · rw [List.mem_singleton.1 hm]
        exact ⟨tellN_ok nm hr, clean_no0 _⟩
theorem run_good (t : Txt) (l : List Ln) (self : Bool) (n : Nat) (h : runA (.s0 []) t = some (l, self, n)) : GoodA l :=
  run_inv (P := GoodA) good_add t (.s0 []) l self n ⟨.nil, by simp⟩ h
end Go.Proofs.YtpdmnnfbdeiejaaDoor
