/-
  Texts laid together: TagMath, TagSim, TagTok.
-/
import Derived.Test.YtdgebenkhcaijaaDoorP7
import Derived.Test.YtdgebenkhcaijaaDoorPT
import Derived.Test.YtdgebenkhcaijaaDoorP1
/-! What a tag is: its beginning, its name, its attributes: plain mathematics. -/
namespace Go.Proofs.YtdgebenkhcaijaaDoor
open Go.RowKit Go.Lib

/-- a tag's name goes on; a letter -/
def tagB (c : UInt8) : Bool := !(spB c || c == 47 || c == 62)
def letB (c : UInt8) : Bool := letterI (c.toNat : Int)
/-- how many bytes stand ahead of a tag's name; 0: none begins -/
def begT (l : Txt) : Nat :=
  if l.head? = some 60 then
    (if (l.drop 1).head? = some 47 then (if (l.drop 2).head?.any letB = true then 2 else 0) else (if (l.drop 1).head?.any letB = true then 1 else 0))
  else 0
/-- a tag whose name is 'nm', with k bytes ahead of it -/
def tokT (k : Nat) (nm : Txt) (l : List Ln) (self : Bool) : TokP := if k = 1 then ⟨1, tellN nm, [], l, self⟩ else ⟨2, tellN nm, [], [], false⟩
/-- the name's bytes -/
def tgN (l : Txt) : Txt := (l.drop (begT l)).takeWhile tagB
/-- what is read, if a tag begins -/
def tagR (l : Txt) : Option (TokP × Nat) :=
  (runA (.s0 []) (l.drop (begT l + (tgN l).length))).map fun r => (tokT (begT l) (tgN l) r.1 r.2.1, begT l + (tgN l).length + r.2.2)
/-- P9.1, P9.2 for any place -/
def begV (s : Txt) (a : Int) : Bool := decide (0 ≤ a ∧ begT (s.drop a.toNat) ≠ 0)
def tagV (s : Txt) (a : Int) : TokP × Int × Bool :=
  if 0 ≤ a ∧ begT (s.drop a.toNat) ≠ 0 then match tagR (s.drop a.toNat) with
    | none => (zeroT, (s.length : Int), false)
    | some (t, n) => (t, a + (n : Int), true)
  else (zeroT, a, false)
theorem tag_out (s : Txt) (a : Int) (h : ¬ (0 ≤ a ∧ begT (s.drop a.toNat) ≠ 0)) : tagV s a = (zeroT, a, false) ∧ begV s a = false := ⟨if_neg h, decide_eq_false h⟩
theorem tag_none (s : Txt) (k : Nat) (hb : begT (s.drop k) ≠ 0) (h : tagR (s.drop k) = none) : tagV s (k : Int) = (zeroT, (s.length : Int), false) := by
  unfold tagV
  rw [show ((k : Nat) : Int).toNat = k by omega, if_pos ⟨by omega, hb⟩, h]
theorem tag_some (s : Txt) (k : Nat) (hb : begT (s.drop k) ≠ 0) (t : TokP) (n : Nat) (h : tagR (s.drop k) = some (t, n)) : tagV s (k : Int) = (t, ((k + n : Nat) : Int), true) := by
  unfold tagV
  rw [show ((k : Nat) : Int).toNat = k by omega, if_pos ⟨by omega, hb⟩, h]
  simp only [Int.natCast_add]
theorem beg_in (s : Txt) (k : Nat) : begV s (k : Int) = decide (begT (s.drop k) ≠ 0) := by
  unfold begV
  rw [show ((k : Nat) : Int).toNat = k by omega]
  simp
theorem beg_nil : begT [] = 0 := by decide

/-- what begins a tag -/
theorem beg_cases (l : Txt) (h : begT l ≠ 0) : ∃ c t, letB c = true ∧ ((l = 60 :: c :: t ∧ begT l = 1 ∧ c ≠ 47) ∨ (l = 60 :: 47 :: c :: t ∧ begT l = 2)) := by
  unfold begT at h ⊢
  by_cases h60 : l.head? = some 60
  · rw [if_pos h60] at h
    simp only [if_pos h60]
    cases l with
    | nil => simp at h60
    | cons d r =>
      simp only [List.head?_cons, Option.some.injEq] at h60
      subst h60
      simp only [List.drop_succ_cons, List.drop_zero] at h ⊢
      by_cases h47 : r.head? = some 47
      · rw [if_pos h47] at h
        simp only [if_pos h47]
        cases r with
        | nil => simp at h47
        | cons e z =>
          simp only [List.head?_cons, Option.some.injEq] at h47
          subst h47
          simp only [List.drop_succ_cons, List.drop_zero] at h ⊢
          cases z with
          | nil => simp at h
          | cons c t =>
            simp only [List.head?_cons, Option.any_some] at h ⊢
            by_cases hc : letB c = true
            · exact ⟨c, t, hc, .inr ⟨rfl, by simp [hc]⟩⟩
            · simp [hc] at h
      · rw [if_neg h47] at h
        simp only [if_neg h47]
        cases r with
        | nil => simp at h
        | cons c t =>
          simp only [List.head?_cons, Option.any_some] at h ⊢
          by_cases hc : letB c = true
          · exact ⟨c, t, hc, .inl ⟨rfl, by simp [hc], fun e => h47 (by rw [e]; rfl)⟩⟩
          · simp [hc] at h
  · rw [if_neg h60] at h; exact absurd rfl h

theorem let_facts : ∀ n, n < 256 → letB (UInt8.ofNat n) = true → tagB (UInt8.ofNat n) = true ∧ (97 ≤ (lowB (UInt8.ofNat n)).toNat ∧ (lowB (UInt8.ofNat n)).toNat ≤ 122) := by decide +kernel
theorem low_facts : ∀ n, n < 256 → spB (lowB (UInt8.ofNat n)) = spB (UInt8.ofNat n) ∧ letB (lowB (UInt8.ofNat n)) = letB (UInt8.ofNat n) ∧ tagB (lowB (UInt8.ofNat n)) = tagB (UInt8.ofNat n) ∧
    (lowB (UInt8.ofNat n) = 62 ↔ UInt8.ofNat n = 62) ∧ (lowB (UInt8.ofNat n) = 47 ↔ UInt8.ofNat n = 47) ∧ (lowB (UInt8.ofNat n) = 61 ↔ UInt8.ofNat n = 61) ∧ (lowB (UInt8.ofNat n) = 34 ↔ UInt8.ofNat n = 34) ∧ (lowB (UInt8.ofNat n) = 39 ↔ UInt8.ofNat n = 39) ∧ (lowB (UInt8.ofNat n) = 60 ↔ UInt8.ofNat n = 60) := by decide +kernel
theorem of_toNat (c : UInt8) : UInt8.ofNat c.toNat = c := by
  rw [← UInt8.toNat_inj, UInt8.toNat_ofNat']; exact Nat.mod_eq_of_lt c.toNat_lt
theorem let_is (c : UInt8) (h : letB c = true) : tagB c = true ∧ 97 ≤ (lowB c).toNat ∧ (lowB c).toNat ≤ 122 := by
  have := let_facts c.toNat c.toNat_lt
  rw [of_toNat] at this
  exact this h
theorem low_keeps (c : UInt8) : spB (lowB c) = spB c ∧ letB (lowB c) = letB c ∧ tagB (lowB c) = tagB c ∧ (lowB c = 62 ↔ c = 62) ∧ (lowB c = 47 ↔ c = 47) ∧ (lowB c = 61 ↔ c = 61) ∧ (lowB c = 34 ↔ c = 34) ∧ (lowB c = 39 ↔ c = 39) ∧ (lowB c = 60 ↔ c = 60) := by
  have := low_facts c.toNat c.toNat_lt
  rwa [of_toNat] at this

/-- the name begins with a letter -/
theorem tgN_head (l : Txt) (h : begT l ≠ 0) : ∃ c t, tgN l = c :: t ∧ letB c = true := by
  obtain ⟨c, t, hc, ⟨rfl, hk, -⟩ | ⟨rfl, hk⟩⟩ := beg_cases l h
  · refine ⟨c, t.takeWhile tagB, ?_, hc⟩
    unfold tgN
    rw [hk, List.drop_succ_cons, List.drop_zero, List.takeWhile_cons, if_pos (let_is c hc).1]
  · refine ⟨c, t.takeWhile tagB, ?_, hc⟩
    unfold tgN
    rw [hk, List.drop_succ_cons, List.drop_succ_cons, List.drop_zero, List.takeWhile_cons, if_pos (let_is c hc).1]
theorem mem_tw (p : UInt8 → Bool) : ∀ (l : Txt) (x : UInt8), x ∈ l.takeWhile p → p x = true
  | c :: l, x, h => by
    rw [List.takeWhile_cons] at h
    by_cases hc : p c = true
    · rw [if_pos hc] at h
      rcases List.mem_cons.1 h with rfl | h
      · exact hc
      · exact mem_tw p l x h
    · rw [if_neg hc] at h; simp at h
theorem tgN_all (l : Txt) (x : UInt8) (h : x ∈ tgN l) : tagB x = true := mem_tw tagB _ x h
theorem tg_split (l : Txt) : l.drop (begT l) = tgN l ++ l.drop (begT l + (tgN l).length) := by
  unfold tgN
  rw [← List.drop_drop]
  conv => rhs; arg 2; arg 2; rw [← List.takeWhile_append_dropWhile (p := tagB) (l := l.drop (begT l))]
  rw [List.drop_left, List.takeWhile_append_dropWhile]
theorem tg_len (l : Txt) (h : begT l ≠ 0) : begT l + (tgN l).length ≤ l.length ∧ 1 ≤ (tgN l).length := by
  obtain ⟨c, t, h1, -⟩ := tgN_head l h
  have h2 := congrArg List.length (tg_split l)
  rw [List.length_drop, List.length_append, List.length_drop] at h2
  have h3 : 1 ≤ (tgN l).length := by rw [h1]; simp
  omega
/-- where what is read ends -/
theorem tag_ends (l : Txt) (t : TokP) (n : Nat) (hr : tagR l = some (t, n)) :
    begT l + (tgN l).length + 1 ≤ n ∧ n ≤ l.length ∧ l.getD (n - 1) 0 = 62 ∧ ∃ al self, t = tokT (begT l) (tgN l) al self ∧ runA (.s0 []) (l.drop (begT l + (tgN l).length)) = some (al, self, n - (begT l + (tgN l).length)) := by
  unfold tagR at hr
  cases hx : runA (.s0 []) (l.drop (begT l + (tgN l).length)) with
  | none => rw [hx] at hr; simp at hr
  | some r =>
    obtain ⟨al, self, m⟩ := r
    rw [hx] at hr
    simp only [Option.map_some, Option.some.injEq, Prod.mk.injEq] at hr
    obtain ⟨rfl, rfl⟩ := hr
    obtain ⟨e1, e2, e3, -⟩ := run_ends _ _ _ _ _ hx
    rw [List.length_drop] at e2
    refine ⟨by omega, by omega, ?_, al, self, rfl, by rw [Nat.add_sub_cancel_left]⟩
    rw [List.getD_eq_getElem?_getD, List.getElem?_drop] at e3
    rw [List.getD_eq_getElem?_getD, show begT l + (tgN l).length + m - 1 = begT l + (tgN l).length + (m - 1) by omega]
    exact e3
/-- what stands behind plays no part -/
theorem tw_app (p : UInt8 → Bool) : ∀ (a b : Txt), (∀ x ∈ a, p x = true) → (∀ c, b.head? = some c → p c = false) → (a ++ b).takeWhile p = a
  | [], [], _, _ => rfl
  | [], c :: b, _, h => by rw [List.nil_append, List.takeWhile_cons, h c rfl]; rfl
  | c :: a, b, h1, h2 => by
    rw [List.cons_append, List.takeWhile_cons, if_pos (h1 c List.mem_cons_self), tw_app p a b (fun x hx => h1 x (List.mem_cons_of_mem _ hx)) h2]
theorem rest_head (l : Txt) (c : UInt8) (h : (l.drop (begT l + (tgN l).length)).head? = some c) : tagB c = false := by
  cases hb : tagB c
  · rfl
  · exfalso
    have h1 := tg_split l
    cases hd : l.drop (begT l + (tgN l).length) with
    | nil => rw [hd] at h; simp at h
    | cons d z =>
      rw [hd] at h h1
      simp only [List.head?_cons, Option.some.injEq] at h
      subst h
      have h2 : (tgN l ++ d :: z).takeWhile tagB = tgN l := by rw [← h1]; rfl
      have h3 : ∀ (a : Txt), (∀ x ∈ a, tagB x = true) → (a ++ d :: z).takeWhile tagB = a ++ d :: z.takeWhile tagB := by
        intro a
        induction a with
        | nil => intro _; rw [List.nil_append, List.takeWhile_cons, if_pos hb]; rfl
        | cons e a ih =>
          intro he
          rw [List.cons_append, List.takeWhile_cons, if_pos (he e List.mem_cons_self), ih fun x hx => he x (List.mem_cons_of_mem _ hx)]; rfl
      rw [h3 _ (tgN_all l)] at h2
      have := congrArg List.length h2
      simp at this
theorem tag_is (k : Nat) (pre nm rest : Txt) (hk : pre.length = k) (hb : begT (pre ++ nm ++ rest) = k) (hn : ∀ x ∈ nm, tagB x = true) (hr : ∀ c, rest.head? = some c → tagB c = false) :
    tgN (pre ++ nm ++ rest) = nm ∧ tagR (pre ++ nm ++ rest) = (runA (.s0 []) rest).map fun r => (tokT k nm r.1 r.2.1, k + nm.length + r.2.2) := by
  have h1 : tgN (pre ++ nm ++ rest) = nm := by
    unfold tgN
    rw [hb, ← hk, List.append_assoc, List.drop_left, tw_app tagB nm rest hn hr]
  refine ⟨h1, ?_⟩
  unfold tagR
  rw [h1, hb, ← List.drop_drop]
  conv => lhs; arg 2; arg 2; arg 2; rw [← hk, List.append_assoc, List.drop_left]
  rw [List.drop_left]
theorem tag_rest (l m : Txt) (h : begT l ≠ 0) (t : TokP) (n : Nat) (hr : tagR l = some (t, n)) : begT (l.take n ++ m) = begT l ∧ tagR (l.take n ++ m) = some (t, n) := by
  obtain ⟨h1, h2, -, al, self, ht, hx⟩ := tag_ends l t n hr
  have hl := tg_len l h
  obtain ⟨P, hP⟩ : ∃ P, l.take (begT l) = P := ⟨_, rfl⟩
  have hPl : P.length = begT l := by rw [← hP, List.length_take]; omega
  obtain ⟨R, hR⟩ : ∃ R, l.drop (begT l + (tgN l).length) = R := ⟨_, rfl⟩
  have hsp : l = P ++ tgN l ++ R := by
    rw [List.append_assoc, ← hR, ← tg_split, ← hP, List.take_append_drop]
  have hRl : R.length = l.length - (begT l + (tgN l).length) := by rw [← hR, List.length_drop]
  rw [hR] at hx
  have hcut := run_cut m R _ _ _ _ hx
  have htk : l.take n = P ++ tgN l ++ R.take (n - (begT l + (tgN l).length)) := by
    conv => lhs; arg 2; rw [hsp]
    rw [List.take_append, List.take_of_length_le (by rw [List.length_append, hPl]; omega), List.length_append, hPl]
  have hhd : ∀ c, (R.take (n - (begT l + (tgN l).length)) ++ m).head? = some c → tagB c = false := by
    intro c hc
    cases hRR : R with
    | nil => rw [hRR] at hRl; simp at hRl; omega
    | cons d z =>
      rw [hRR] at hc
      obtain ⟨j, hj⟩ : ∃ j, n - (begT l + (tgN l).length) = j + 1 := ⟨n - (begT l + (tgN l).length) - 1, by omega⟩
      rw [hj, List.take_succ_cons, List.cons_append, List.head?_cons, Option.some.injEq] at hc
      subst hc
      exact rest_head l d (by rw [hR, hRR]; rfl)
  have hbeg : begT (P ++ tgN l ++ (R.take (n - (begT l + (tgN l).length)) ++ m)) = begT l := by
    obtain ⟨c, t', hc, ⟨e, hk, h47⟩ | ⟨e, hk⟩⟩ := beg_cases l h
    · obtain ⟨c2, t2, hn2, hc2⟩ := tgN_head l h
      have : P = [60] := by rw [← hP, hk, e]; rfl
      have hcc : c2 ≠ 47 := by
        intro e2; rw [e2] at hc2; exact absurd hc2 (by decide)
      rw [this, hn2, hk]
      unfold begT
      simp [hc2, hcc]
    · obtain ⟨c2, t2, hn2, hc2⟩ := tgN_head l h
      have : P = [60, 47] := by rw [← hP, hk, e]; rfl
      rw [this, hn2, hk]
      unfold begT
      simp [hc2]
  rw [htk, List.append_assoc (P ++ tgN l)]
  refine ⟨hbeg, ?_⟩
  rw [(tag_is (begT l) P (tgN l) _ hPl hbeg (tgN_all l) hhd).2, hcut, ht]
  simp only [Option.map_some, Option.some.injEq, Prod.mk.injEq, true_and]
  omega
end Go.Proofs.YtdgebenkhcaijaaDoor

/-! In whatever letters a tag is written its name, its attributes' names, and where it ends are the same: plain mathematics. -/
namespace Go.Proofs.YtdgebenkhcaijaaDoor
open Go.RowKit Go.Lib

def SimN (a b : List Ln) : Prop := a.map Prod.fst = b.map Prod.fst
def SimA : At → At → Prop
  | .s0 l, .s0 l' => SimN l l'
  | .s1 l nm, .s1 l' nm' => SimN l l' ∧ lowL nm = lowL nm'
  | .s2 l nm, .s2 l' nm' => SimN l l' ∧ lowL nm = lowL nm'
  | .s3 l nm, .s3 l' nm' => SimN l l' ∧ lowL nm = lowL nm'
  | .s4 l nm _ q, .s4 l' nm' _ q' => SimN l l' ∧ lowL nm = lowL nm' ∧ q' = q ∧ (q = 34 ∨ q = 39)
  | .s5 l nm _, .s5 l' nm' _ => SimN l l' ∧ lowL nm = lowL nm'
  | _, _ => False
def SimS : Step → Step → Prop
  | .more a, .more b => SimA a b
  | .done l s n, .done l' s' n' => SimN l l' ∧ s' = s ∧ n' = n
  | _, _ => False
def SimR : Option Told → Option Told → Prop
  | none, none => True
  | some r, some r' => SimN r.1 r'.1 ∧ r'.2 = r.2
  | _, _ => False
theorem any_fst (l : List Ln) (N : Txt) : l.any (fun r => r.1 == N) = (l.map Prod.fst).any (fun x => x == N) := by
  rw [List.any_map]; rfl
theorem sim_add {l l' : List Ln} {nm nm' v v' : Txt} (h : SimN l l') (hn : lowL nm = lowL nm') : SimN (addL l nm v) (addL l' nm' v') := by
  have ht : tellN nm = tellN nm' := by unfold tellN; rw [hn]
  unfold SimN at h ⊢
  unfold addL
  rw [any_fst, any_fst, h, ht]
  split
  · exact h
  · rw [List.map_append, List.map_append, h]; rfl
theorem low_app {a b : Txt} (h : lowL a = lowL b) (c : UInt8) : lowL (a ++ [c]) = lowL (b ++ [lowB c]) := by
  rw [lowL_app, lowL_app, h]
  show _ = lowL b ++ [lowB (lowB c)]
  rw [lowB_twice]; rfl
theorem low_head62 (t : Txt) : (lowL t).head? = some 62 ↔ t.head? = some 62 := by
  cases t with
  | nil => exact Iff.rfl
  | cons c t =>
    rw [lowL_cons, List.head?_cons, List.head?_cons, Option.some.injEq, Option.some.injEq]
    exact (low_keeps c).2.2.2.1
theorem sim0 {l l' : List Ln} (c : UInt8) (t : Txt) (h : SimN l l') : SimS (go0 l c t) (go0 l' (lowB c) (lowL t)) := by
  obtain ⟨k1, -, -, k2, k3, -, -, -, -⟩ := low_keeps c
  unfold go0
  rw [k1]
  cases hs : spB c
  · rw [if_neg Bool.false_ne_true, if_neg Bool.false_ne_true]
    by_cases h62 : c = 62
    · rw [if_pos h62, if_pos (k2.2 h62)]; exact ⟨h, rfl, rfl⟩
    · rw [if_neg h62, if_neg (fun e => h62 (k2.1 e))]
      by_cases h47 : c = 47
      · rw [if_pos h47, if_pos (k3.2 h47)]
        by_cases ht : t.head? = some 62
        · rw [if_pos ht, if_pos ((low_head62 t).2 ht)]; exact ⟨h, rfl, rfl⟩
        · rw [if_neg ht, if_neg (fun e => ht ((low_head62 t).1 e))]; exact h
      · rw [if_neg h47, if_neg (fun e => h47 (k3.1 e))]
        exact ⟨h, low_app (a := []) (b := []) rfl c⟩
  · rw [if_pos rfl, if_pos rfl]; exact h
theorem sim2 {l l' : List Ln} {nm nm' : Txt} (c : UInt8) (t : Txt) (h : SimN l l') (hn : lowL nm = lowL nm') : SimS (go2 l nm c t) (go2 l' nm' (lowB c) (lowL t)) := by
  obtain ⟨k1, -, -, -, -, k2, -, -, -⟩ := low_keeps c
  unfold go2
  rw [k1]
  cases hs : spB c
  · rw [if_neg Bool.false_ne_true, if_neg Bool.false_ne_true]
    by_cases h61 : c = 61
    · rw [if_pos h61, if_pos (k2.2 h61)]; exact ⟨h, hn⟩
    · rw [if_neg h61, if_neg (fun e => h61 (k2.1 e))]
      exact sim0 c t (sim_add h hn)
  · rw [if_pos rfl, if_pos rfl]; exact ⟨h, hn⟩
theorem beq_low {c d : UInt8} (h : lowB c = d ↔ c = d) : (lowB c == d) = (c == d) := by
  rw [Bool.eq_iff_iff, beq_iff_eq, beq_iff_eq]; exact h
theorem sim5 {l l' : List Ln} {nm nm' : Txt} (v v' : Txt) (c : UInt8) (t : Txt) (h : SimN l l') (hn : lowL nm = lowL nm') : SimS (go5 l nm v c t) (go5 l' nm' v' (lowB c) (lowL t)) := by
  obtain ⟨k1, -, -, k2, -, -, -, -, -⟩ := low_keeps c
  unfold go5
  rw [k1, beq_low k2]
  split
  · exact sim0 c t (sim_add h hn)
  · exact ⟨h, hn⟩
theorem simA {a b : At} (c : UInt8) (t : Txt) (h : SimA a b) : SimS (goA a c t) (goA b (lowB c) (lowL t)) := by
  obtain ⟨k1, -, -, k62, k47, k61, k34, k39, -⟩ := low_keeps c
  cases a with
  | s0 l => cases b with
    | s0 l' => exact sim0 c t h
    | _ => exact h.elim
  | s1 l nm => cases b with
    | s1 l' nm' =>
      show SimS (go1 l nm c t) (go1 l' nm' (lowB c) (lowL t))
      unfold go1
      have he : endB (lowB c) = endB c := by unfold endB; rw [k1, beq_low k47, beq_low k62, beq_low k61]
      rw [he]
      split
      · exact sim2 c t h.1 h.2
      · exact ⟨h.1, low_app h.2 c⟩
    | _ => exact h.elim
  | s2 l nm => cases b with
    | s2 l' nm' => exact sim2 c t h.1 h.2
    | _ => exact h.elim
  | s3 l nm => cases b with
    | s3 l' nm' =>
      show SimS (go3 l nm c t) (go3 l' nm' (lowB c) (lowL t))
      unfold go3
      rw [k1]
      cases hs : spB c
      · rw [if_neg Bool.false_ne_true, if_neg Bool.false_ne_true]
        by_cases hq : c = 34 ∨ c = 39
        · rw [if_pos hq, if_pos (hq.imp k34.2 k39.2)]
          exact ⟨h.1, h.2, by rcases hq with e | e <;> rw [e] <;> decide, hq⟩
        · rw [if_neg hq, if_neg (show ¬ (lowB c = 34 ∨ lowB c = 39) from fun e => hq (e.imp k34.1 k39.1))]
          by_cases h62 : c = 62
          · rw [if_pos h62, if_pos (k62.2 h62)]; exact sim0 c t (sim_add h.1 h.2)
          · rw [if_neg h62, if_neg (fun e => h62 (k62.1 e))]; exact sim5 [] [] c t h.1 h.2
      · rw [if_pos rfl, if_pos rfl]; exact h
    | _ => exact h.elim
  | s4 l nm v q => cases b with
    | s4 l' nm' v' q' =>
      obtain ⟨h1, h2, rfl, h4⟩ := h
      show SimS (go4 l nm v q' c) (go4 l' nm' v' q' (lowB c))
      unfold go4
      have hk : lowB c = q' ↔ c = q' := by rcases h4 with e | e <;> rw [e] <;> assumption
      by_cases hc : c = q'
      · rw [if_pos hc, if_pos (hk.2 hc)]; exact sim_add h1 h2
      · rw [if_neg hc, if_neg (fun e => hc (hk.1 e))]; exact ⟨h1, h2, rfl, h4⟩
    | _ => exact h.elim
  | s5 l nm v => cases b with
    | s5 l' nm' v' => exact sim5 v v' c t h.1 h.2
    | _ => exact h.elim
theorem run_sim : ∀ (t : Txt) (a b : At), SimA a b → SimR (runA a t) (runA b (lowL t))
  | [], a, b, _ => by rw [run_nil, show lowL [] = [] from rfl, run_nil]; trivial
  | c :: t, a, b, h => by
    have hs := simA c t h
    rw [lowL_cons]
    cases ha : goA a c t with
    | done l s n =>
      rw [ha] at hs
      cases hb : goA b (lowB c) (lowL t) with
      | done l' s' n' =>
        rw [hb] at hs
        rw [run_done ha, run_done hb]
        obtain ⟨h1, rfl, rfl⟩ := hs
        exact ⟨h1, rfl⟩
      | more b' => rw [hb] at hs; exact hs.elim
    | more a' =>
      rw [ha] at hs
      cases hb : goA b (lowB c) (lowL t) with
      | done l' s' n' => rw [hb] at hs; exact hs.elim
      | more b' =>
        rw [hb] at hs
        rw [run_more ha, run_more hb]
        have ih := run_sim t a' b' hs
        cases h1 : runA a' t with
        | none =>
          rw [h1] at ih
          cases h2 : runA b' (lowL t) with
          | none => trivial
          | some r' => rw [h2] at ih; exact ih.elim
        | some r =>
          rw [h1] at ih
          cases h2 : runA b' (lowL t) with
          | none => rw [h2] at ih; exact ih.elim
          | some r' =>
            rw [h2] at ih
            obtain ⟨l, s, n⟩ := r
            obtain ⟨l', s', n'⟩ := r'
            obtain ⟨i1, i2⟩ := ih
            simp only [Prod.mk.injEq] at i2
            obtain ⟨rfl, rfl⟩ := i2
            exact ⟨i1, rfl⟩
/-- what tokens have in common -/
def SimT (a b : TokP) : Prop := a.kind = b.kind ∧ a.name = b.name ∧ a.self = b.self ∧ SimN a.attrs b.attrs
theorem beg_low (l : Txt) : begT (lowL l) = begT l := by
  have hh : ∀ (k : UInt8) (m : Txt), (∀ c, lowB c = k ↔ c = k) → ((lowL m).head? = some k ↔ m.head? = some k) := by
    intro k m hk
    cases m with
    | nil => exact Iff.rfl
    | cons c m => rw [lowL_cons, List.head?_cons, List.head?_cons, Option.some.injEq, Option.some.injEq]; exact hk c
  have hl : ∀ m : Txt, (lowL m).head?.any letB = m.head?.any letB := by
    intro m
    cases m with
    | nil => rfl
    | cons c m => rw [lowL_cons, List.head?_cons, List.head?_cons, Option.any_some, Option.any_some]; exact (low_keeps c).2.1
  unfold begT
  rw [← lowL_drop, ← lowL_drop, hl, hl]
  simp only [hh 60 l (fun c => (low_keeps c).2.2.2.2.2.2.2.2), hh 47 (l.drop 1) (fun c => (low_keeps c).2.2.2.2.1)]
theorem tw_low (l : Txt) : (lowL l).takeWhile tagB = lowL (l.takeWhile tagB) := by
  induction l with
  | nil => rfl
  | cons c l ih =>
    rw [lowL_cons, List.takeWhile_cons, List.takeWhile_cons, (low_keeps c).2.2.1]
    split
    · rw [ih]; rfl
    · rfl
theorem tgN_low (l : Txt) : tgN (lowL l) = lowL (tgN l) := by
  unfold tgN
  rw [beg_low, ← lowL_drop, tw_low]
theorem tellN_low (nm : Txt) : tellN (lowL nm) = tellN nm := by unfold tellN; rw [lowL_twice]
theorem tag_sim (l : Txt) : (tagR l = none ∧ tagR (lowL l) = none) ∨ ∃ t t' n, tagR l = some (t, n) ∧ tagR (lowL l) = some (t', n) ∧ SimT t t' := by
  have h := run_sim (l.drop (begT l + (tgN l).length)) (.s0 []) (.s0 []) rfl
  unfold tagR
  rw [beg_low, tgN_low, lowL_len, ← lowL_drop]
  cases h1 : runA (.s0 []) (l.drop (begT l + (tgN l).length)) with
  | none =>
    rw [h1] at h
    cases h2 : runA (.s0 []) (lowL (l.drop (begT l + (tgN l).length))) with
    | none => exact .inl ⟨rfl, rfl⟩
    | some r' => rw [h2] at h; exact h.elim
  | some r =>
    rw [h1] at h
    cases h2 : runA (.s0 []) (lowL (l.drop (begT l + (tgN l).length))) with
    | none => rw [h2] at h; exact h.elim
    | some r' =>
      rw [h2] at h
      obtain ⟨al, s, n⟩ := r
      obtain ⟨al', s', n'⟩ := r'
      obtain ⟨i1, i2⟩ := h
      simp only [Prod.mk.injEq] at i2
      obtain ⟨rfl, rfl⟩ := i2
      refine .inr ⟨_, _, _, rfl, rfl, ?_⟩
      unfold tokT
      rw [tellN_low]
      split
      · exact ⟨rfl, rfl, rfl, i1⟩
      · exact ⟨rfl, rfl, rfl, rfl⟩
end Go.Proofs.YtdgebenkhcaijaaDoor

/-! What tag's Read answers, as a statement asks for it. -/
namespace Go.Proofs.YtdgebenkhcaijaaDoor
open Go.RowKit Go.Lib

/-- what tag's Read answers -/
def TellT (s : ByteArray) (a : Int) (w : World) (e : Ending) (w' : World) : Prop :=
  ∃ t ad len cap n ok, e = .returned (.tuple #[tokA t ad len cap, .int .i64 n, .bool ok]) ∧ IsRows w' ad len cap t.attrs ∧ tagV s.data.toList a = (t, n, ok) ∧ Below w.heap.size w w'
end Go.Proofs.YtdgebenkhcaijaaDoor
