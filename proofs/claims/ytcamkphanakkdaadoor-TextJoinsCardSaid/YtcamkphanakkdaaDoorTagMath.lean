/-
  What a tag is: its beginning, its name, its attributes: plain mathematics.
-/
import Derived.Test.YtcamkphanakkdaaDoorP7
import Derived.Test.YtcamkphanakkdaaDoorPT
import Derived.Test.YtcamkphanakkdaaDoorP1
namespace Go.Proofs.YtcamkphanakkdaaDoor
open Go.RowKit Go.Lib

/-- a tag's name goes on; a letter -/
def tagB (c : UInt8) : Bool := !(spB c || c == 47 || c == 62)
def letB (c : UInt8) : Bool := letterI (c.toNat : Int)
/-- how many bytes stand ahead of a tag's name; 0: none begins -/
def begT (l : Txt) : Nat :=
  if l.head? = some 60 then
    (if (l.drop 1).head? = some 47 then (if (l.drop 2).head?.any letB = true then 2 else 0) else (if (l.drop 1).head?.any letB = true then 1 else 0))
  else 0
/-- a tag whose name is 'nm', with k bytes ahead of it -/
def tokT (k : Nat) (nm : Txt) (l : List Ln) (self : Bool) : TokP := if k = 1 then ⟨1, tellN nm, [], l, self⟩ else ⟨2, tellN nm, [], [], false⟩
/-- the name's bytes -/
def tgN (l : Txt) : Txt := (l.drop (begT l)).takeWhile tagB
/-- what is read, if a tag begins -/
def tagR (l : Txt) : Option (TokP × Nat) :=
  (runA (.s0 []) (l.drop (begT l + (tgN l).length))).map fun r => (tokT (begT l) (tgN l) r.1 r.2.1, begT l + (tgN l).length + r.2.2)
/-- P9.1, P9.2 for any place -/
def begV (s : Txt) (a : Int) : Bool := decide (0 ≤ a ∧ begT (s.drop a.toNat) ≠ 0)
def tagV (s : Txt) (a : Int) : TokP × Int × Bool :=
  if 0 ≤ a ∧ begT (s.drop a.toNat) ≠ 0 then match tagR (s.drop a.toNat) with
    | none => (zeroT, (s.length : Int), false)
    | some (t, n) => (t, a + (n : Int), true)
  else (zeroT, a, false)
theorem tag_out (s : Txt) (a : Int) (h : ¬ (0 ≤ a ∧ begT (s.drop a.toNat) ≠ 0)) : tagV s a = (zeroT, a, false) ∧ begV s a = false := ⟨if_neg h, decide_eq_false h⟩
theorem tag_none (s : Txt) (k : Nat) (hb : begT (s.drop k) ≠ 0) (h : tagR (s.drop k) = none) : tagV s (k : Int) = (zeroT, (s.length : Int), false) := by
  unfold tagV
  rw [show ((k : Nat) : Int).toNat = k by omega, if_pos ⟨by omega, hb⟩, h]
theorem tag_some (s : Txt) (k : Nat) (hb : begT (s.drop k) ≠ 0) (t : TokP) (n : Nat) (h : tagR (s.drop k) = some (t, n)) : tagV s (k : Int) = (t, ((k + n : Nat) : Int), true) := by
  unfold tagV
  rw [show ((k : Nat) : Int).toNat = k by omega, if_pos ⟨by omega, hb⟩, h]
  simp only [Int.natCast_add]
theorem beg_in (s : Txt) (k : Nat) : begV s (k : Int) = decide (begT (s.drop k) ≠ 0) := by
  unfold begV
  rw [show ((k : Nat) : Int).toNat = k by omega]
  simp
theorem beg_nil : begT [] = 0 := by decide

/-- what begins a tag -/
theorem beg_cases (l : Txt) (h : begT l ≠ 0) : ∃ c t, letB c = true ∧ ((l = 60 :: c :: t ∧ begT l = 1 ∧ c ≠ 47) ∨ (l = 60 :: 47 :: c :: t ∧ begT l = 2)) := by
  unfold begT at h ⊢
  by_cases h60 : l.head? = some 60
  · rw [if_pos h60] at h
    simp only [if_pos h60]
    cases l with
    | nil => simp at h60
    | cons d r =>
      simp only [List.head?_cons, Option.some.injEq] at h60
      subst h60
      simp only [List.drop_succ_cons, List.drop_zero] at h ⊢
      by_cases h47 : r.head? = some 47
      · rw [if_pos h47] at h
        simp only [if_pos h47]
        cases r with
        | nil => simp at h47
        | cons e z =>
          simp only [List.head?_cons, Option.some.injEq] at h47
          subst h47
          simp only [List.drop_succ_cons, List.drop_zero] at h ⊢
          cases z with
          | nil => simp at h
          | cons c t =>
            simp only [List.head?_cons, Option.any_some] at h ⊢
            by_cases hc : letB c = true
            · exact ⟨c, t, hc, .inr ⟨rfl, by simp [hc]⟩⟩
            · simp [hc] at h
      · rw [if_neg h47] at h
        simp only [if_neg h47]
        cases r with
        | nil => simp at h
        | cons c t =>
          simp only [List.head?_cons, Option.any_some] at h ⊢
          by_cases hc : letB c = true
          · exact ⟨c, t, hc, .inl ⟨rfl, by simp [hc], fun e => h47 (by rw [e]; rfl)⟩⟩
          · simp [hc] at h
  · rw [if_neg h60] at h; exact absurd rfl h

theorem let_facts : ∀ n, n < 256 → letB (UInt8.ofNat n) = true → tagB (UInt8.ofNat n) = true ∧ (97 ≤ (lowB (UInt8.ofNat n)).toNat ∧ (lowB (UInt8.ofNat n)).toNat ≤ 122) := by decide +kernel
theorem low_facts : ∀ n, n < 256 → spB (lowB (UInt8.ofNat n)) = spB (UInt8.ofNat n) ∧ letB (lowB (UInt8.ofNat n)) = letB (UInt8.ofNat n) ∧ tagB (lowB (UInt8.ofNat n)) = tagB (UInt8.ofNat n) ∧
    (lowB (UInt8.ofNat n) = 62 ↔ UInt8.ofNat n = 62) ∧ (lowB (UInt8.ofNat n) = 47 ↔ UInt8.ofNat n = 47) ∧ (lowB (UInt8.ofNat n) = 61 ↔ UInt8.ofNat n = 61) ∧ (lowB (UInt8.ofNat n) = 34 ↔ UInt8.ofNat n = 34) ∧ (lowB (UInt8.ofNat n) = 39 ↔ UInt8.ofNat n = 39) ∧ (lowB (UInt8.ofNat n) = 60 ↔ UInt8.ofNat n = 60) := by decide +kernel
theorem of_toNat (c : UInt8) : UInt8.ofNat c.toNat = c := by
  rw [← UInt8.toNat_inj, UInt8.toNat_ofNat']; exact Nat.mod_eq_of_lt c.toNat_lt
theorem let_is (c : UInt8) (h : letB c = true) : tagB c = true ∧ 97 ≤ (lowB c).toNat ∧ (lowB c).toNat ≤ 122 := by
  have := let_facts c.toNat c.toNat_lt
  rw [of_toNat] at this
  exact this h
theorem low_keeps (c : UInt8) : spB (lowB c) = spB c ∧ letB (lowB c) = letB c ∧ tagB (lowB c) = tagB c ∧ (lowB c = 62 ↔ c = 62) ∧ (lowB c = 47 ↔ c = 47) ∧ (lowB c = 61 ↔ c = 61) ∧ (lowB c = 34 ↔ c = 34) ∧ (lowB c = 39 ↔ c = 39) ∧ (lowB c = 60 ↔ c = 60) := by
  have := low_facts c.toNat c.toNat_lt
  rwa [of_toNat] at this

/-- the name begins with a letter -/
theorem tgN_head (l : Txt) (h : begT l ≠ 0) : ∃ c t, tgN l = c :: t ∧ letB c = true := by
  obtain ⟨c, t, hc, ⟨rfl, hk, -⟩ | ⟨rfl, hk⟩⟩ := beg_cases l h
  · refine ⟨c, t.takeWhile tagB, ?_, hc⟩
    unfold tgN
    rw [hk, List.drop_succ_cons, List.drop_zero, List.takeWhile_cons, if_pos (let_is c hc).1]
  · refine ⟨c, t.takeWhile tagB, ?_, hc⟩
    unfold tgN
    rw [hk, List.drop_succ_cons, List.drop_succ_cons, List.drop_zero, List.takeWhile_cons, if_pos (let_is c hc).1]
theorem mem_tw (p : UInt8 → Bool) : ∀ (l : Txt) (x : UInt8), x ∈ l.takeWhile p → p x = true
  | c :: l, x, h => by
    rw [List.takeWhile_cons] at h
    by_cases hc : p c = true
    · rw [if_pos hc] at h
      rcases List.mem_cons.1 h with rfl | h
      · exact hc
      · exact mem_tw p l x h
    · rw [if_neg hc] at h; simp at h
theorem tgN_all (l : Txt) (x : UInt8) (h : x ∈ tgN l) : tagB x = true := mem_tw tagB _ x h
theorem tg_split (l : Txt) : l.drop (begT l) = tgN l ++ l.drop (begT l + (tgN l).length) := by
  unfold tgN
  rw [← List.drop_drop]
  conv => rhs; arg 2; arg 2; rw [← List.takeWhile_append_dropWhile (p := tagB) (l := l.drop (begT l))]
  rw [List.drop_left, List.takeWhile_append_dropWhile]
theorem tg_len (l : Txt) (h : begT l ≠ 0) : begT l + (tgN l).length ≤ l.length ∧ 1 ≤ (tgN l).length := by
  obtain ⟨c, t, h1, -⟩ := tgN_head l h
  have h2 := congrArg List.length (tg_split l)
  rw [List.length_drop, List.length_append, List.length_drop] at h2
  have h3 : 1 ≤ (tgN l).length := by rw [h1]; simp
  omega
/-- where what is read ends -/
theorem tag_ends (l : Txt) (t : TokP) (n : Nat) (hr : tagR l = some (t, n)) :
    begT l + (tgN l).length + 1 ≤ n ∧ n ≤ l.length ∧ l.getD (n - 1) 0 = 62 ∧ ∃ al self, t = tokT (begT l) (tgN l) al self ∧ runA (.s0 []) (l.drop (begT l + (tgN l).length)) = some (al, self, n - (begT l + (tgN l).length)) := by
  unfold tagR at hr
  cases hx : runA (.s0 []) (l.drop (begT l + (tgN l).length)) with
  | none => rw [hx] at hr; simp at hr
  | some r =>
    obtain ⟨al, self, m⟩ := r
    rw [hx] at hr
    simp only [Option.map_some, Option.some.injEq, Prod.mk.injEq] at hr
    obtain ⟨rfl, rfl⟩ := hr
    obtain ⟨e1, e2, e3, -⟩ := run_ends _ _ _ _ _ hx
    rw [List.length_drop] at e2
    refine ⟨by omega, by omega, ?_, al, self, rfl, by rw [Nat.add_sub_cancel_left]⟩
    rw [List.getD_eq_getElem?_getD, List.getElem?_drop] at e3
    rw [List.getD_eq_getElem?_getD, show begT l + (tgN l).length + m - 1 = begT l + (tgN l).length + (m - 1) by omega]
    exact e3
/-- what stands behind plays no part -/
theorem tw_app (p : UInt8 → Bool) : ∀ (a b : Txt), (∀ x ∈ a, p x = true) → (∀ c, b.head? = some c → p c = false) → (a ++ b).takeWhile p = a
  | [], [], _, _ => rfl
  | [], c :: b, _, h => by rw [List.nil_append, List.takeWhile_cons, h c rfl]; rfl
  | c :: a, b, h1, h2 => by
    rw [List.cons_append, List.takeWhile_cons, if_pos (h1 c List.mem_cons_self), tw_app p a b (fun x hx => h1 x (List.mem_cons_of_mem _ hx)) h2]
theorem rest_head (l : Txt) (c : UInt8) (h : (l.drop (begT l + (tgN l).length)).head? = some c) : tagB c = false := by
  cases hb : tagB c
  · rfl
  · exfalso
    have h1 := tg_split l
    cases hd : l.drop (begT l + (tgN l).length) with
    | nil => rw [hd] at h; simp at h
    | cons d z =>
      rw [hd] at h h1
      simp only [List.head?_cons, Option.some.injEq] at h
      subst h
      have h2 : (tgN l ++ d :: z).takeWhile tagB = tgN l := by rw [← h1]; rfl
      have h3 : ∀ (a : Txt), (∀ x ∈ a, tagB x = true) → (a ++ d :: z).takeWhile tagB = a ++ d :: z.takeWhile tagB := by
        intro a
        induction a with
        | nil => intro _; rw [List.nil_append, List.takeWhile_cons, if_pos hb]; rfl
        | cons e a ih =>
          intro he
          rw [List.cons_append, List.takeWhile_cons, if_pos (he e List.mem_cons_self), ih fun x hx => he x (List.mem_cons_of_mem _ hx)]; rfl
      rw [h3 _ (tgN_all l)] at h2
      have := congrArg List.length h2
      simp at this
theorem tag_is (k : Nat) (pre nm rest : Txt) (hk : pre.length = k) (hb : begT (pre ++ nm ++ rest) = k) (hn : ∀ x ∈ nm, tagB x = true) (hr : ∀ c, rest.head? = some c → tagB c = false) :
    tgN (pre ++ nm ++ rest) = nm ∧ tagR (pre ++ nm ++ rest) = (runA (.s0 []) rest).map fun r => (tokT k nm r.1 r.2.1, k + nm.length + r.2.2) := by
  have h1 : tgN (pre ++ nm ++ rest) = nm := by
    unfold tgN
    rw [hb, ← hk, List.append_assoc, List.drop_left, tw_app tagB nm rest hn hr]
  refine ⟨h1, ?_⟩
  unfold tagR
  rw [h1, hb, ← List.drop_drop]
  conv => lhs; arg 2; arg 2; arg 2; rw [← hk, List.append_assoc, List.drop_left]
  rw [List.drop_left]
theorem tag_rest (l m : Txt) (h : begT l ≠ 0) (t : TokP) (n : Nat) (hr : tagR l = some (t, n)) : begT (l.take n ++ m) = begT l ∧ tagR (l.take n ++ m) = some (t, n) := by
  obtain ⟨h1, h2, -, al, self, ht, hx⟩ := tag_ends l t n hr
  have hl := tg_len l h
  obtain ⟨P, hP⟩ : ∃ P, l.take (begT l) = P := ⟨_, rfl⟩
  have hPl : P.length = begT l := by rw [← hP, List.length_take]; omega
  obtain ⟨R, hR⟩ : ∃ R, l.drop (begT l + (tgN l).length) = R := ⟨_, rfl⟩
  have hsp : l = P ++ tgN l ++ R := by
    rw [List.append_assoc, ← hR, ← tg_split, ← hP, List.take_append_drop]
  have hRl : R.length = l.length - (begT l + (tgN l).length) := by rw [← hR, List.length_drop]
  rw [hR] at hx
  have hcut := run_cut m R _ _ _ _ hx
  have htk : l.take n = P ++ tgN l ++ R.take (n - (begT l + (tgN l).length)) := by
    conv => lhs; arg 2; rw [hsp]
    rw [List.take_append, List.take_of_length_le (by rw [List.length_append, hPl]; omega), List.length_append, hPl]
  have hhd : ∀ c, (R.take (n - (begT l + (tgN l).length)) ++ m).head? = some c → tagB c = false := by
    intro c hc
    cases hRR : R with
    | nil => rw [hRR] at hRl; simp at hRl; omega
    | cons d z =>
      rw [hRR] at hc
      obtain ⟨j, hj⟩ : ∃ j, n - (begT l + (tgN l).length) = j + 1 := ⟨n - (begT l + (tgN l).length) - 1, by omega⟩
      rw [hj, List.take_succ_cons, List.cons_append, List.head?_cons, Option.some.injEq] at hc
      subst hc
      exact rest_head l d (by rw [hR, hRR]; rfl)
  have hbeg : begT (P ++ tgN l ++ (R.take (n - (begT l + (tgN l).length)) ++ m)) = begT l := by
    obtain ⟨c, t', hc, ⟨e, hk, h47⟩ | ⟨e, hk⟩⟩ := beg_cases l h
    · obtain ⟨c2, t2, hn2, hc2⟩ := tgN_head l h
      have : P = [60] := by rw [← hP, hk, e]; rfl
      have hcc : c2 ≠ 47 := by
        intro e2; rw [e2] at hc2; exact absurd hc2 (by decide)
      rw [this, hn2, hk]
      unfold begT
      simp [hc2, hcc]
    · obtain ⟨c2, t2, hn2, hc2⟩ := tgN_head l h
      have : P = [60, 47] := by rw [← hP, hk, e]; rfl
      rw [this, hn2, hk]
      unfold begT
      simp [hc2]
  rw [htk, List.append_assoc (P ++ tgN l)]
  refine ⟨hbeg, ?_⟩
  rw [(tag_is (begT l) P (tgN l) _ hPl hbeg (tgN_all l) hhd).2, hcut, ht]
  simp only [Option.map_some, Option.some.injEq, Prod.mk.injEq, true_and]
  omega
end Go.Proofs.YtcamkphanakkdaaDoor
