/-
  What stands in a tag, read on: what stands behind its end, and blanks ahead, play no part; values in quotes and without: plain mathematics.
-/
import Derived.Test.YtpdmnnfbdeiejaaDoorAttGood
namespace Go.Proofs.YtpdmnnfbdeiejaaDoor
open Go.RowKit Go.Lib

theorem up_up (a b : Nat) (r : Option Told) : (r.map (upN a)).map (upN b) = r.map (upN (a + b)) := by
  cases r with
  | none => rfl
  | some r => simp [upN, Nat.add_assoc]
theorem up_zero (r : Option Told) : r.map (upN 0) = r := by
  cases r <;> rfl

/-- of what stands behind a byte a step asks one thing alone -/
theorem go0_next {l : List Ln} {c : UInt8} {t t' : Txt} (h : c = 47 → (t.head? = some 62 ↔ t'.head? = some 62)) : go0 l c t = go0 l c t' := by
  unfold go0
  by_cases h47 : c = 47
  · by_cases h1 : t.head? = some 62
    · rw [if_pos h1, if_pos ((h h47).1 h1)]
    · rw [if_neg h1, if_neg (fun h2 => h1 ((h h47).2 h2))]
  · rw [if_neg h47, if_neg h47]
theorem go2_next {l : List Ln} {nm : Txt} {c : UInt8} {t t' : Txt} (h : c = 47 → (t.head? = some 62 ↔ t'.head? = some 62)) : go2 l nm c t = go2 l nm c t' := by
  unfold go2; rw [go0_next h]
theorem go5_next {l : List Ln} {nm v : Txt} {c : UInt8} {t t' : Txt} (h : c = 47 → (t.head? = some 62 ↔ t'.head? = some 62)) : go5 l nm v c t = go5 l nm v c t' := by
  unfold go5; rw [go0_next h]
theorem goA_next {a : At} {c : UInt8} {t t' : Txt} (h : c = 47 → (t.head? = some 62 ↔ t'.head? = some 62)) : goA a c t = goA a c t' := by
  cases a with
  | s0 l => exact go0_next h
  | s1 l nm => show go1 l nm c t = go1 l nm c t'; unfold go1; rw [go2_next h]
  | s2 l nm => exact go2_next h
  | s3 l nm => show go3 l nm c t = go3 l nm c t'; unfold go3; rw [go0_next h, go5_next h]
  | s4 l nm v q => rfl
  | s5 l nm v => exact go5_next h
/-- P8.1: what stands behind a tag's end plays no part -/
theorem run_cut (m : Txt) : ∀ (t : Txt) (a : At) (l : List Ln) (self : Bool) (n : Nat), runA a t = some (l, self, n) → runA a (t.take n ++ m) = some (l, self, n)
  | [], a, l, self, n, h => by rw [run_nil] at h; exact absurd h (by simp)
  | c :: t, a, l, self, n, h => by
    cases hg : goA a c t with
    | done l' self' n' =>
      rw [run_done hg] at h
      simp only [Option.some.injEq, Prod.mk.injEq] at h
      obtain ⟨rfl, rfl, rfl⟩ := h
      rcases goA_done hg with ⟨-, rfl, rfl⟩ | ⟨-, rfl, rfl, ht⟩
      · have e := goA_next (a := a) (c := 62) (t := t) (t' := m) (fun h => absurd h (by decide))
        rw [hg] at e
        exact run_done e.symm
      · cases t with
        | nil => exact absurd ht (by simp)
        | cons d r =>
          simp only [List.head?_cons, Option.some.injEq] at ht
          subst ht
          have e := goA_next (a := a) (c := 47) (t := 62 :: r) (t' := 62 :: m) (fun _ => by simp)
          rw [hg] at e
          exact run_done e.symm
    | more a' =>
      rw [run_more hg] at h
      cases hr : runA a' t with
      | none => rw [hr] at h; exact absurd h (by simp)
      | some r =>
        obtain ⟨l', self', n'⟩ := r
        rw [hr] at h
        simp only [Option.map_some, upN, Option.some.injEq, Prod.mk.injEq] at h
        obtain ⟨rfl, rfl, rfl⟩ := h
        have h1 := run_ends t a' _ _ n' hr
        have ih := run_cut m t a' _ _ n' hr
        have e := goA_next (a := a) (c := c) (t := t) (t' := t.take n' ++ m) (fun _ => by
          cases t with
          | nil => exact absurd h1.2.1 (by simp; omega)
          | cons d r =>
            obtain ⟨k, rfl⟩ : ∃ k, n' = k + 1 := ⟨n' - 1, by omega⟩
            simp)
        rw [hg] at e
        rw [List.take_succ_cons, List.cons_append, run_more e.symm, ih]; rfl

/-- blanks and strokes ahead -/
def aheadL : Nat → Txt
  | 0 => [32]
  | j + 1 => 32 :: 47 :: 10 :: aheadL j
theorem ahead_len (j : Nat) : (aheadL j).length = 3 * j + 1 := by
  induction j with
  | zero => rfl
  | succ j ih => rw [aheadL, List.length_cons, List.length_cons, List.length_cons, ih]; omega
theorem run_ahead (l : List Ln) (t : Txt) : ∀ j : Nat, runA (.s0 l) (aheadL j ++ t) = (runA (.s0 l) t).map (upN (3 * j + 1))
  | 0 => by
    rw [aheadL, List.cons_append, List.nil_append, run_more (go0_space (by decide))]
  | j + 1 => by
    rw [aheadL, List.cons_append, List.cons_append, List.cons_append, run_more (go0_space (by decide)), run_more (go0_stroke rfl (by simp)), run_more (go0_space (by decide)), run_ahead l t j, up_up, up_up, up_up]
    congr 2

/-- a value in quotes -/
theorem run_quote (l : List Ln) (nm : Txt) (q : UInt8) (rest : Txt) : ∀ (v acc : Txt), q ∉ v → runA (.s4 l nm acc q) (v ++ q :: rest) = (runA (.s0 (addL l nm (acc ++ v))) rest).map (upN (v.length + 1))
  | [], acc, _ => by
    rw [List.nil_append, run_more (go4_end rfl), List.append_nil]; rfl
  | c :: v, acc, h => by
    rw [List.mem_cons, not_or] at h
    rw [List.cons_append, run_more (go4_more (fun e => h.1 e.symm)), run_quote l nm q rest v (acc ++ [c]) h.2, up_up, List.append_assoc, List.length_cons]
    rfl
/-- a value without -/
theorem run_bare (l : List Ln) (nm : Txt) (e : UInt8) (rest : Txt) (he : (spB e || e == 62) = true) : ∀ (v acc : Txt), (∀ x ∈ v, (spB x || x == 62) = false) → runA (.s5 l nm acc) (v ++ e :: rest) = (runA (.s0 (addL l nm (acc ++ v))) (e :: rest)).map (upN v.length)
  | [], acc, _ => by
    rw [List.nil_append, run_same (go5_end he), List.append_nil]; exact (up_zero _).symm
  | c :: v, acc, h => by
    rw [List.cons_append, run_more (go5_more (h c List.mem_cons_self)), run_bare l nm e rest he v (acc ++ [c]) (fun x hx => h x (List.mem_cons_of_mem _ hx)), up_up, List.append_assoc, List.length_cons]
    rfl
/-- what is told of a plain value -/
theorem tellV_plain (v : Txt) (h38 : 38 ∉ v) (h0 : 0 ∉ v) : tellV v = v := by
  unfold tellV
  rw [dd_stays true v h38]
  exact (cleanL_iff v).2 h0
/-- from a text's beginning on -/
theorem zero_some (s : Txt) (l : List Ln) (self : Bool) (n : Nat) (h : runA (.s0 []) s = some (l, self, n)) : attrsV s 0 = (l, self, (n : Int), true) := by
  refine attrs_some s 0 (Nat.zero_le _) l self n ?_
  unfold runI
  rw [List.drop_zero, h]; rfl
theorem zero_none (s : Txt) (h : runA (.s0 []) s = none) : attrsV s 0 = ([], false, (s.length : Int), false) := by
  refine attrs_none s 0 (Nat.zero_le _) ?_
  unfold runI
  rw [List.drop_zero, h]; rfl
/-- how long what is told may be -/
def SmL (M : Nat) (l : List Ln) : Prop := ∀ r ∈ l, r.1.length ≤ 3 * M ∧ r.2.length ≤ 9 * M
def SmallA (M k : Nat) : At → Prop
  | .s0 l => SmL M l ∧ k ≤ M
  | .s1 l nm => SmL M l ∧ nm.length + k ≤ M
  | .s2 l nm => SmL M l ∧ nm.length + k ≤ M
  | .s3 l nm => SmL M l ∧ nm.length + k ≤ M
  | .s4 l nm v _ => SmL M l ∧ nm.length + k ≤ M ∧ v.length + k ≤ M
  | .s5 l nm v => SmL M l ∧ nm.length + k ≤ M ∧ v.length + k ≤ M
def SmallS (M k : Nat) : Step → Prop
  | .more a => SmallA M k a
  | .done l _ _ => SmL M l
theorem small_add {M : Nat} {l : List Ln} {nm v : Txt} (h : SmL M l) (hn : nm.length ≤ M) (hv : v.length ≤ M) : SmL M (addL l nm v) := by
  unfold addL
  split
  · exact h
  · intro r hr
    rcases List.mem_append.1 hr with hr | hr
    · exact h r hr
    · rw [List.mem_singleton.1 hr]
      have h1 := (cleanL_len (lowL nm)).2
      have h2 := (cleanL_len (ddL true v)).2
      have h3 := dd_len true v.length v (Nat.le_refl _)
      rw [lowL_len] at h1
      unfold tellN tellV
      simp only
      omega
theorem small0 {M k : Nat} {l : List Ln} {c : UInt8} {t : Txt} (h : SmL M l) (hk : k + 1 ≤ M) : SmallS M k (go0 l c t) := by
  unfold go0
  split
  · exact ⟨h, by omega⟩
  · split
    · exact h
    · split
      · split
        · exact h
        · exact ⟨h, by omega⟩
      · exact ⟨h, by simp; omega⟩
theorem small2 {M k : Nat} {l : List Ln} {nm : Txt} {c : UInt8} {t : Txt} (h : SmL M l) (hk : nm.length + (k + 1) ≤ M) : SmallS M k (go2 l nm c t) := by
  unfold go2
  split
  · exact ⟨h, by omega⟩
  · split
    · exact ⟨h, by omega⟩
    · exact small0 (small_add h (by omega) (by simp)) (by omega)
theorem small5 {M k : Nat} {l : List Ln} {nm v : Txt} {c : UInt8} {t : Txt} (h : SmL M l) (hk : nm.length + (k + 1) ≤ M) (hv : v.length + (k + 1) ≤ M) : SmallS M k (go5 l nm v c t) := by
  unfold go5
  split
  · exact small0 (small_add h (by omega) (by omega)) (by omega)
  · exact ⟨h, by omega, by simp; omega⟩
theorem smallA {M k : Nat} {a : At} {c : UInt8} {t : Txt} (h : SmallA M (k + 1) a) : SmallS M k (goA a c t) := by
  cases a with
  | s0 l => exact small0 h.1 h.2
  | s1 l nm =>
    show SmallS M k (go1 l nm c t)
    unfold go1
    split
    · exact small2 h.1 h.2
    · exact ⟨h.1, by have := h.2; simp; omega⟩
  | s2 l nm => exact small2 h.1 h.2
  | s3 l nm =>
    have h2 := h.2
    show SmallS M k (go3 l nm c t)
    unfold go3
    split
    · exact ⟨h.1, by omega⟩
    · split
      · exact ⟨h.1, by omega, by simp; omega⟩
      · split
        · exact small0 (small_add h.1 (by omega) (by simp)) (by omega)
        · exact small5 h.1 h.2 (by simp; omega)
  | s4 l nm v q =>
    obtain ⟨h1, h2, h3⟩ := h
    show SmallS M k (go4 l nm v q c)
    unfold go4
    split
    · exact ⟨small_add h1 (by omega) (by omega), by omega⟩
    · exact ⟨h1, by omega, by simp; omega⟩
  | s5 l nm v => exact small5 h.1 h.2.1 h.2.2
theorem run_small (M : Nat) : ∀ (t : Txt) (a : At) (l : List Ln) (self : Bool) (n : Nat), SmallA M t.length a → runA a t = some (l, self, n) → SmL M l
  | [], a, l, self, n, _, h => by rw [run_nil] at h; exact absurd h (by simp)
  | c :: t, a, l, self, n, hi, h => by
    have hs := smallA (c := c) (t := t) hi
    cases hg : goA a c t with
    | done l' self' n' =>
      rw [hg] at hs
      rw [run_done hg] at h
      simp only [Option.some.injEq, Prod.mk.injEq] at h
      rw [← h.1]; exact hs
    | more a' =>
      rw [hg] at hs
      rw [run_more hg] at h
      cases hr : runA a' t with
      | none => rw [hr] at h; exact absurd h (by simp)
      | some r =>
        obtain ⟨l', self', n'⟩ := r
        rw [hr] at h
        simp only [Option.map_some, upN, Option.some.injEq, Prod.mk.injEq] at h
        rw [← h.1]
        exact run_small M t a' l' self' n' hs hr
/-- what Read tells from a text's beginning on is good, and small -/
theorem zero_good (s : Txt) (l : List Ln) (self : Bool) (n : Int) (ok : Bool) (h : attrsV s 0 = (l, self, n, ok)) : GoodA l ∧ SmL s.length l := by
  cases hr : runA (.s0 []) s with
  | none =>
    rw [zero_none s hr] at h
    simp only [Prod.mk.injEq] at h
    rw [← h.1]
    exact ⟨⟨.nil, by simp⟩, by intro r hr; simp at hr⟩
  | some r =>
    obtain ⟨l', self', n'⟩ := r
    rw [zero_some s _ _ _ hr] at h
    simp only [Prod.mk.injEq] at h
    rw [← h.1]
    exact ⟨run_good s _ _ _ hr, run_small s.length s (.s0 []) l' self' n' ⟨by intro r hr; simp at hr, Nat.le_refl _⟩ hr⟩
end Go.Proofs.YtpdmnnfbdeiejaaDoor
