/-
  Rows of a text, and lists of rows: plain mathematics. No program.
-/
import Derived.Test.YtanlneaolnkojaaSrchMath
namespace Go.Proofs.Ytanlneaolnkojaa

def rowsF : Txt → List Ln → Txt → Txt → Bool → List Ln
  | [], out, k, r, _ => out ++ [(k, r)]
  | c :: t, out, k, r, b =>
    if c = 10 then rowsF t (out ++ [(k, r)]) [] [] false
    else if b then rowsF t out k (r ++ [c]) b
    else if c = 32 then rowsF t out k r true
    else rowsF t out (k ++ [c]) r b
def rowsL (t : Txt) : List Ln := if t = [] then [] else rowsF t [] [] [] false

theorem rowsF_rest : ∀ (s t : Txt) (out : List Ln) (k r : Txt), 10 ∉ s → rowsF (s ++ t) out k r true = rowsF t out k (r ++ s) true
  | [], t, out, k, r, _ => by simp
  | c :: s, t, out, k, r, h => by
    rw [List.mem_cons, not_or] at h
    rw [List.cons_append, rowsF, if_neg (fun e => h.1 e.symm), if_pos rfl, rowsF_rest s t out k (r ++ [c]) h.2]
    simp
theorem rowsF_key : ∀ (s t : Txt) (out : List Ln) (k r : Txt), 10 ∉ s → 32 ∉ s → rowsF (s ++ t) out k r false = rowsF t out (k ++ s) r false
  | [], t, out, k, r, _, _ => by simp
  | c :: s, t, out, k, r, h, h' => by
    rw [List.mem_cons, not_or] at h h'
    rw [List.cons_append, rowsF, if_neg (fun e => h.1 e.symm), if_neg (by decide), if_neg (fun e => h'.1 e.symm), rowsF_key s t out (k ++ [c]) r h.2 h'.2]
    simp
theorem rowsF_line (x : Ln) (hx : Good x) (t : Txt) (out : List Ln) : rowsF (lineL x ++ t) out [] [] false = rowsF t out x.1 x.2 true := by
  unfold lineL
  rw [List.append_assoc, rowsF_key x.1 _ out [] [] hx.2.2.1 hx.2.1, List.cons_append, rowsF, if_neg (by decide), if_neg (by decide), if_pos rfl, rowsF_rest x.2 t out _ _ hx.2.2.2]
  simp
theorem flatN_eq (rs : List Ln) (h : rs ≠ []) : flatN rs = flatL rs ++ [10] := by
  have e : ∀ (a : List Ln) (x : Ln), flatN (a ++ [x]) = (flatN a ++ lineL x) ++ [10] := by intro a x; rw [flatN_append]; simp [flatN]
  obtain ⟨a, x, rfl⟩ := (List.eq_nil_or_concat rs).resolve_left h
  rw [List.concat_eq_append]
  unfold flatL
  rw [e, List.dropLast_concat]
theorem flatL_cons (x : Ln) (rs : List Ln) (h : rs ≠ []) : flatL (x :: rs) = lineL x ++ 10 :: flatL rs := by
  have : flatN (x :: rs) = (lineL x ++ 10 :: flatL rs) ++ [10] := by rw [flatN, flatN_eq rs h]; simp
  unfold flatL
  rw [this, List.dropLast_concat]
  rfl
theorem flatL_one (x : Ln) : flatL [x] = lineL x := by
  unfold flatL
  rw [show flatN [x] = lineL x ++ [10] from rfl, List.dropLast_concat]
theorem flatL_add (rs : List Ln) (x : Ln) (h : rs ≠ []) : flatL (rs ++ [x]) = flatL rs ++ 10 :: lineL x := by
  have : flatN (rs ++ [x]) = (flatL rs ++ 10 :: lineL x) ++ [10] := by
    rw [flatN_append, flatN_eq rs h]; simp [flatN]
  unfold flatL
  rw [this, List.dropLast_concat]
  rfl
theorem rowsF_flat : ∀ (rs : List Ln) (out : List Ln), rs ≠ [] → (∀ r ∈ rs, Good r) → rowsF (flatL rs) out [] [] false = out ++ rs
  | [], _, h, _ => absurd rfl h
  | [x], out, _, hg => by
    have := rowsF_line x (hg x List.mem_cons_self) [] out
    rw [List.append_nil] at this
    rw [flatL_one, this]; rfl
  | x :: y :: rs, out, _, hg => by
    rw [flatL_cons x (y :: rs) (by simp), rowsF_line x (hg x List.mem_cons_self), rowsF, if_pos rfl, rowsF_flat (y :: rs) _ (by simp) (fun r hr => hg r (List.mem_cons_of_mem _ hr))]
    simp
theorem flatL_pos (rs : List Ln) (h : rs ≠ []) : flatL rs ≠ [] := by
  intro e
  have h1 := flatN_eq rs h
  cases rs with
  | nil => exact h rfl
  | cons x rs =>
    rw [e] at h1
    have := congrArg List.length h1
    simp [flatN, lineL] at this
    omega
theorem rowsL_flat (rs : List Ln) (hv : Valid rs) : rowsL (flatL rs) = rs := by
  unfold rowsL
  by_cases h : rs = []
  · subst h; rfl
  · rw [if_neg (flatL_pos rs h), rowsF_flat rs [] h hv.1]; rfl

/-- the rows that a list takes -/
def plainB (l : Txt) (key : Bool) : Bool := l.all fun c => !(c == 10 || (key && c == 32))
def lastK (st : List Ln) : Txt := match st.getLast? with | some r => r.1 | none => []
def okR (st : List Ln) (x : Ln) : Bool := decide (lastK st < x.1) && (decide (x.1.length ≤ 40) && (decide (x.2.length ≤ 40) && (plainB x.1 true && plainB x.2 false)))
def takeR (st : List Ln) (x : Ln) : List Ln := if okR st x then st ++ [x] else st
def pickL (l : List Ln) : List Ln := l.foldl takeR []

theorem plainB_key {l : Txt} (h : plainB l true = true) : 10 ∉ l ∧ 32 ∉ l := by
  unfold plainB at h
  rw [List.all_eq_true] at h
  exact ⟨fun hm => by simpa using h _ hm, fun hm => by simpa using h _ hm⟩
theorem plainB_rest {l : Txt} (h : plainB l false = true) : 10 ∉ l := by
  unfold plainB at h
  rw [List.all_eq_true] at h
  exact fun hm => by simpa using h _ hm
theorem lastK_add (st : List Ln) (x : Ln) : lastK (st ++ [x]) = x.1 := by simp [lastK]
theorem lastK_nil : lastK [] = [] := rfl
theorem lastK_ne {st : List Ln} (hv : Valid st) (h : st ≠ []) : lastK st ≠ [] := by
  obtain ⟨a, x, rfl⟩ := (List.eq_nil_or_concat st).resolve_left h
  rw [List.concat_eq_append, lastK_add]
  exact (hv.1 x (by simp)).1
theorem lastK_ge {st : List Ln} (hv : Valid st) (r : Ln) (hr : r ∈ st) : r.1 = lastK st ∨ r.1 < lastK st := by
  rcases List.eq_nil_or_concat st with rfl | ⟨a, x, rfl⟩
  · cases hr
  · rw [List.concat_eq_append] at hr hv ⊢
    rw [lastK_add]
    rcases List.mem_append.1 hr with hr | hr
    · exact .inr ((List.pairwise_append.1 hv.2).2.2 r hr x (by simp))
    · rw [List.mem_singleton] at hr; subst hr; exact .inl rfl
def Small (st : List Ln) : Prop := ∀ r ∈ st, r.1.length ≤ 40 ∧ r.2.length ≤ 40
theorem okR_parts {st : List Ln} {x : Ln} (h : okR st x = true) : lastK st < x.1 ∧ x.1.length ≤ 40 ∧ x.2.length ≤ 40 ∧ plainB x.1 true = true ∧ plainB x.2 false = true := by
  unfold okR at h
  simpa only [Bool.and_eq_true, decide_eq_true_eq] using h
theorem takeR_valid {st : List Ln} {x : Ln} (hv : Valid st) (hs : Small st) : Valid (takeR st x) ∧ Small (takeR st x) ∧ (takeR st x).length ≤ st.length + 1 := by
  unfold takeR
  split
  · rename_i h
    obtain ⟨h1, h2, h3, h4, h5⟩ := okR_parts h
    have hk := plainB_key h4
    have hg : Good x := ⟨fun e => by rw [e] at h1; exact List.not_lt_nil _ h1, hk.2, hk.1, plainB_rest h5⟩
    refine ⟨⟨?_, ?_⟩, ?_, by simp⟩
    · intro r hr
      rcases List.mem_append.1 hr with hr | hr
      · exact hv.1 r hr
      · rw [List.mem_singleton] at hr; subst hr; exact hg
    · rw [List.pairwise_append]
      refine ⟨hv.2, by simp, fun a ha b hb => ?_⟩
      rw [List.mem_singleton] at hb; subst hb
      rcases lastK_ge hv a ha with e | e
      · rw [e]; exact h1
      · exact List.lt_trans e h1
    · intro r hr
      rcases List.mem_append.1 hr with hr | hr
      · exact hs r hr
      · rw [List.mem_singleton] at hr; subst hr; exact ⟨h2, h3⟩
  · exact ⟨hv, hs, Nat.le_succ _⟩
theorem fold_valid : ∀ (l st : List Ln), Valid st → Small st → Valid (l.foldl takeR st) ∧ Small (l.foldl takeR st) ∧ (l.foldl takeR st).length ≤ st.length + l.length
  | [], st, hv, hs => ⟨hv, hs, Nat.le_refl _⟩
  | x :: l, st, hv, hs => by
    obtain ⟨h1, h2, h3⟩ := takeR_valid (x := x) hv hs
    obtain ⟨a, b, c⟩ := fold_valid l (takeR st x) h1 h2
    exact ⟨a, b, by rw [List.foldl_cons, List.length_cons]; omega⟩
theorem valid_nil : Valid [] := ⟨fun _ h => (by cases h), List.Pairwise.nil⟩
theorem small_nil : Small [] := fun _ h => (by cases h)
theorem pickL_valid (l : List Ln) : Valid (pickL l) := (fold_valid l [] valid_nil small_nil).1
theorem pickL_small (l : List Ln) : Small (pickL l) := (fold_valid l [] valid_nil small_nil).2.1
theorem pickL_len (l : List Ln) : (pickL l).length ≤ l.length := by have := (fold_valid l [] valid_nil small_nil).2.2; rw [List.length_nil, Nat.zero_add] at this; exact this
theorem flat_small : ∀ (st : List Ln), Small st → (flatN st).length ≤ 82 * st.length
  | [], _ => Nat.le_refl _
  | x :: st, h => by
    have h1 := h x List.mem_cons_self
    have h2 := flat_small st fun r hr => h r (List.mem_cons_of_mem _ hr)
    rw [flatN, List.length_append, List.length_cons, lineL_len, List.length_cons]
    omega
theorem flat_pick (l : List Ln) : (flatL (pickL l)).length ≤ 82 * l.length := by
  have := flat_small _ (pickL_small l)
  have := pickL_len l
  have := flatL_len (pickL l)
  omega
theorem flat_take (st : List Ln) (x : Ln) (h : okR st x = true) : flatL (takeR st x) = (if st = [] then [] else flatL st ++ [10]) ++ lineL x := by
  unfold takeR
  rw [if_pos h]
  split
  · rename_i h0; subst h0; rw [List.nil_append, flatL_one]; rfl
  · rename_i h0; rw [flatL_add st x h0]; simp

end Go.Proofs.Ytanlneaolnkojaa
