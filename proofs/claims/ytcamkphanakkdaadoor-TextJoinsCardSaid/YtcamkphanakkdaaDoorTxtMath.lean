/-
  Where markup begins, and what text is ahead of it: plain mathematics.
-/
import Derived.Test.YtcamkphanakkdaaDoorTagMath
import Derived.Test.YtcamkphanakkdaaDoorComMath
import Derived.Test.YtcamkphanakkdaaDoorDtMath
import Derived.Test.YtcamkphanakkdaaDoorP6
namespace Go.Proofs.YtcamkphanakkdaaDoor
open Go.RowKit Go.Lib

/-- P14.1, of what stands at a place -/
def begE (l : Txt) : Bool := [60, 47, 62].isPrefixOf l
def mkB (l : Txt) : Bool := decide (begT l ≠ 0) || begC l || begD l || begE l
/-- how many bytes stand ahead of markup -/
def nextN : Txt → Nat
  | [] => 0
  | c :: t => if mkB (c :: t) = true then 0 else nextN t + 1
/-- a place as it counts -/
def atN (s : Txt) (a : Int) : Nat := (max 0 (min a (s.length : Int))).toNat
def mkV (s : Txt) (a : Int) : Bool := decide (0 ≤ a) && mkB (s.drop a.toNat)
def nextV (s : Txt) (a : Int) : Nat := atN s a + nextN (s.drop (atN s a))
/-- P14.2 -/
def txtV (s : Txt) (a : Int) : Txt := ddL false ((s.drop (atN s a)).take (nextN (s.drop (atN s a))))

theorem atN_le (s : Txt) (a : Int) : atN s a ≤ s.length := by unfold atN; omega
theorem atN_in (s : Txt) (k : Nat) (h : k ≤ s.length) : atN s (k : Int) = k := by unfold atN; omega
theorem mk_in (s : Txt) (k : Nat) : mkV s (k : Int) = mkB (s.drop k) := by
  unfold mkV
  rw [decide_eq_true (by omega), Bool.true_and, show ((k : Nat) : Int).toNat = k by omega]
/-- the five ways of what may begin -/
inductive Kinds : Bool → Bool → Bool → Bool → Prop
  | none : Kinds false false false false
  | tag : Kinds true false false false
  | com : Kinds false true false false
  | doc : Kinds false false true false
  | emp : Kinds false false false true
theorem begD_is (c d : UInt8) (t : Txt) : begD (c :: d :: t) = (c == 60 && d == 33 && dtL.isPrefixOf (lowL t)) := by
  unfold begD
  have h : ∀ (x y : UInt8), (x.toNat : Int) < 65 → (x == lowB y) = (y == x) := fun x y hx => by
    have h3 := lowB_int y
    unfold lowI at h3
    rw [Bool.eq_iff_iff, beq_iff_eq, beq_iff_eq, ← UInt8.toNat_inj, ← UInt8.toNat_inj]
    split at h3 <;> omega
  rw [lowL_cons, lowL_cons]
  show [60, 33, 100, 111, 99, 116, 121, 112, 101].isPrefixOf (lowB c :: lowB d :: lowL t) = _
  rw [List.isPrefixOf_cons_cons, List.isPrefixOf_cons_cons, h 60 c (by decide), h 33 d (by decide), Bool.and_assoc]
  rfl
theorem mk_one (c : UInt8) : begT [c] = 0 ∧ begC [c] = false ∧ begD [c] = false ∧ begE [c] = false := by
  refine ⟨?_, ?_, ?_, ?_⟩
  · unfold begT; simp
  · unfold begC; split <;> simp_all
  · unfold begD
    rw [Bool.eq_false_iff]; intro e
    have := (List.isPrefixOf_iff_prefix.1 e).length_le
    rw [lowL_len] at this
    simp [dctL] at this
  · simp [begE, List.isPrefixOf]
/-- what begins with any two bytes -/
theorem mk_two (c d : UInt8) (t : Txt) : decide (begT (c :: d :: t) ≠ 0) = (c == 60 && (if d = 47 then t.head?.any letB else letB d)) ∧
    begC (c :: d :: t) = (c == 60 && (if d = 33 then !(dtL.isPrefixOf (lowL t)) else if d = 63 then true else if d = 47 then t.head?.any (fun e => !(e == 62) && !(letB e)) else false)) ∧
    begD (c :: d :: t) = (c == 60 && d == 33 && dtL.isPrefixOf (lowL t)) ∧ begE (c :: d :: t) = (c == 60 && d == 47 && t.head?.any (fun e => e == 62)) := by
  refine ⟨?_, ?_, begD_is c d t, ?_⟩
  · unfold begT
    by_cases hc : c = 60
    · rw [if_pos (by rw [hc]; rfl), show (c == 60) = true from beq_iff_eq.2 hc, Bool.true_and]
      simp only [List.drop_succ_cons, List.drop_zero, List.head?_cons, Option.some.injEq, Option.any_some]
      by_cases hd : d = 47
      · rw [if_pos hd, if_pos hd]
        cases h : t.head?.any letB
        · rfl
        · rfl
      · rw [if_neg hd, if_neg hd]
        cases h : letB d
        · rfl
        · rfl
    · rw [if_neg (by simpa using hc), show (c == 60) = false from beq_eq_false_iff_ne.2 hc, Bool.false_and]; rfl
  · by_cases hc : c = 60
    · subst hc
      by_cases h1 : d = 33
      · subst h1; rfl
      · by_cases h2 : d = 63
        · subst h2; rfl
        · by_cases h3 : d = 47
          · subst h3
            cases t with
            | nil => rfl
            | cons e t => rfl
          · rw [if_neg h1, if_neg h2, if_neg h3, Bool.and_false]
            unfold begC
            split <;> simp_all
    · rw [show (c == 60) = false from beq_eq_false_iff_ne.2 hc, Bool.false_and]
      unfold begC
      split <;> simp_all
  · unfold begE
    cases t with
    | nil => simp [List.isPrefixOf]
    | cons e t => simp [List.isPrefixOf, BEq.comm, Bool.and_assoc]
theorem let_not (n : UInt8) (h : letB n = true) : n ≠ 33 ∧ n ≠ 63 ∧ n ≠ 47 ∧ n ≠ 62 := by
  refine ⟨?_, ?_, ?_, ?_⟩ <;> (rintro rfl; exact absurd h (by decide))
theorem kinds_of (l : Txt) : Kinds (decide (begT l ≠ 0)) (begC l) (begD l) (begE l) := by
  match l with
  | [] => exact Kinds.none
  | [c] =>
    obtain ⟨h1, h2, h3, h4⟩ := mk_one c
    rw [h1, h2, h3, h4]; exact Kinds.none
  | c :: d :: t =>
    obtain ⟨h1, h2, h3, h4⟩ := mk_two c d t
    rw [h1, h2, h3, h4]
    cases c == 60
    · exact Kinds.none
    · simp only [Bool.true_and]
      by_cases d33 : d = 33
      · subst d33
        rw [if_neg (by decide), if_pos rfl, show letB 33 = false by decide]
        cases dtL.isPrefixOf (lowL t)
        · exact Kinds.com
        · exact Kinds.doc
      · rw [show (d == 33) = false from beq_eq_false_iff_ne.2 d33, if_neg d33]
        by_cases d63 : d = 63
        · subst d63
          exact Kinds.com
        · rw [if_neg d63]
          by_cases d47 : d = 47
          · subst d47
            simp only [if_true, beq_self_eq_true, Bool.true_and, Bool.false_and]
            cases t with
            | nil => exact Kinds.none
            | cons e t =>
              simp only [List.head?_cons, Option.any_some]
              cases he : letB e
              · cases e == 62
                · exact Kinds.com
                · exact Kinds.emp
              · have := (let_not e he).2.2.2
                rw [show (e == 62) = false from beq_eq_false_iff_ne.2 this]
                exact Kinds.tag
          · simp only [if_neg d47, show (d == 47) = false from beq_eq_false_iff_ne.2 d47, Bool.false_and]
            cases letB d
            · exact Kinds.none
            · exact Kinds.tag
theorem mk_head (l : Txt) (h : mkB l = true) : ∃ t, l = 60 :: t := by
  match l with
  | [] => exact absurd h (by decide)
  | [c] =>
    obtain ⟨h1, h2, h3, h4⟩ := mk_one c
    unfold mkB at h
    rw [h1, h2, h3, h4] at h
    exact absurd h (by decide)
  | c :: d :: t =>
    obtain ⟨h1, h2, h3, h4⟩ := mk_two c d t
    unfold mkB at h
    rw [h1, h2, h3, h4] at h
    cases hc : c == 60
    · rw [hc] at h; simp at h
    · exact ⟨d :: t, by rw [beq_iff_eq.1 hc]⟩
/-- what begins behind a bracket -/
theorem mk_yes (d : UInt8) (t : Txt) (h : letB d = true ∨ d = 33 ∨ d = 63 ∨ d = 47 ∧ t ≠ []) : mkB (60 :: d :: t) = true := by
  obtain ⟨h1, h2, h3, h4⟩ := mk_two 60 d t
  unfold mkB
  rw [h1, h2, h3, h4]
  rcases h with h | rfl | rfl | ⟨rfl, h⟩
  · obtain ⟨-, -, n3, -⟩ := let_not d h
    rw [if_neg n3, h]; rfl
  · rw [if_pos rfl]
    cases dtL.isPrefixOf (lowL t) <;> simp
  · simp
  · cases t with
    | nil => exact absurd rfl h
    | cons e t =>
      simp only [List.head?_cons, Option.any_some]
      cases letB e
      · cases e == 62 <;> simp
      · rfl
theorem mk_no (d : UInt8) (t : Txt) (h1 : letB d = false) (h2 : d ≠ 33) (h3 : d ≠ 63) (h4 : d = 47 → t = []) : mkB (60 :: d :: t) = false := by
  obtain ⟨e1, e2, e3, e4⟩ := mk_two 60 d t
  unfold mkB
  rw [e1, e2, e3, e4, if_neg h2, if_neg h3, show (d == 33) = false from beq_eq_false_iff_ne.2 h2]
  by_cases h : d = 47
  · rw [h4 h, h]; rfl
  · rw [if_neg h, if_neg h, h1, show (d == 47) = false from beq_eq_false_iff_ne.2 h]; rfl

theorem next_le : ∀ l : Txt, nextN l ≤ l.length
  | [] => Nat.le_refl _
  | c :: t => by
    rw [nextN]
    split
    · omega
    · have := next_le t; simp; omega
theorem next_here (l : Txt) (h : mkB l = true) : nextN l = 0 := by
  cases l with
  | nil => rfl
  | cons c t => rw [nextN, if_pos h]
theorem next_skip : ∀ (a z : Txt), 60 ∉ a → nextN (a ++ z) = a.length + nextN z
  | [], z, _ => by simp
  | c :: a, z, h => by
    rw [List.mem_cons, not_or] at h
    have : mkB (c :: (a ++ z)) = false := by
      rw [Bool.eq_false_iff]; intro e
      obtain ⟨t, e⟩ := mk_head _ e
      exact h.1 (List.cons.inj e).1.symm
    rw [List.cons_append, nextN, this, if_neg Bool.false_ne_true, next_skip a z h.2, List.length_cons]; omega
theorem next_all (a : Txt) (h : 60 ∉ a) : nextN a = a.length := by
  have := next_skip a [] h
  rw [List.append_nil] at this
  rw [this]; rfl
theorem next_ahead : ∀ (l : Txt) (i : Nat), i < nextN l → mkB (l.drop i) = false
  | [], i, h => absurd h (Nat.not_lt_zero _)
  | c :: t, i, h => by
    rw [nextN] at h
    split at h
    · exact absurd h (Nat.not_lt_zero _)
    · rename_i hm
      cases i with
      | zero => exact Bool.eq_false_iff.2 hm
      | succ i => exact next_ahead t i (by omega)
theorem next_at : ∀ (l : Txt), nextN l < l.length → mkB (l.drop (nextN l)) = true
  | [], h => absurd h (Nat.not_lt_zero _)
  | c :: t, h => by
    rw [nextN] at h ⊢
    split
    · rename_i hm; exact hm
    · rename_i hm
      rw [if_neg hm, List.length_cons] at h
      exact next_at t (by omega)
theorem next_step (s : ByteArray) (i : Nat) (h : i < s.size) (hm : mkB (s.data.toList.drop i) = false) : i + nextN (s.data.toList.drop i) = i + 1 + nextN (s.data.toList.drop (i + 1)) := by
  rw [drop_at s i h] at hm ⊢
  rw [nextN, hm, if_neg Bool.false_ne_true]; omega
theorem next_stop (s : ByteArray) (i : Nat) (hm : mkB (s.data.toList.drop i) = true) : i + nextN (s.data.toList.drop i) = i := by
  rw [next_here _ hm]; rfl
theorem next_end (s : ByteArray) : s.size + nextN (s.data.toList.drop s.size) = s.size := by
  rw [List.drop_eq_nil_of_le (by rw [← Lib.size_eq]; exact Nat.le_refl _)]; rfl
/-- what no markup is within is told up to what begins -/
theorem txt_ahead (a z : Txt) (h : 60 ∉ a) (hz : nextN z = 0) : txtV (a ++ z) 0 = ddL false a ∧ nextV (a ++ z) 0 = a.length := by
  have h0 : atN (a ++ z) 0 = 0 := by unfold atN; omega
  have hn := next_skip a z h
  rw [hz, Nat.add_zero] at hn
  unfold txtV nextV
  rw [h0, List.drop_zero, hn, List.take_left]
  exact ⟨rfl, Nat.zero_add _⟩
theorem txt_all (a : Txt) (h : 60 ∉ a) : txtV a 0 = ddL false a ∧ nextV a 0 = a.length := by
  have := txt_ahead a [] h rfl
  rwa [List.append_nil] at this
theorem no60 (l : Txt) (h : ∀ i, i < l.length → l[i]? ≠ some 60) : 60 ∉ l := fun e => by
  obtain ⟨i, hi⟩ := List.mem_iff_getElem?.1 e
  exact h i (List.getElem?_eq_some_iff.1 hi).1 hi
theorem low_mark : ∀ (p l : Txt), (∀ c ∈ p, (c.toNat : Int) < 65) → p.isPrefixOf (lowL l) = p.isPrefixOf l
  | [], l, _ => by simp
  | c :: p, [], _ => rfl
  | c :: p, d :: l, h => by
    rw [lowL_cons, List.isPrefixOf_cons_cons, List.isPrefixOf_cons_cons, low_mark p l (fun x hx => h x (.tail _ hx))]
    congr 1
    have h1 := h c (.head _)
    have h3 := lowB_int d
    unfold lowI at h3
    rw [Bool.eq_iff_iff, beq_iff_eq, beq_iff_eq, ← UInt8.toNat_inj, ← UInt8.toNat_inj]
    split at h3 <;> omega
/-- nothing between its brackets, for any place -/
def ebegV (s : Txt) (a : Int) : Bool := decide (0 ≤ a) && begE (s.drop a.toNat)
theorem beg_emp (s : ByteArray) (a : Int) : begS s a ⟨#[60, 47, 62]⟩ = ebegV s.data.toList a := by
  unfold begS ebegV begE
  rw [low_mark _ _ (by decide), show (⟨#[60, 47, 62]⟩ : ByteArray).data.toList = [60, 47, 62] from rfl]
  by_cases h : a ≤ (s.size : Int)
  · by_cases h0 : 0 ≤ a
    · rw [decide_eq_true ⟨h0, h⟩, decide_eq_true h0]
    · rw [decide_eq_false (fun e => h0 e.1), decide_eq_false h0]
  · rw [decide_eq_false (fun e => h e.2), List.drop_eq_nil_of_le (by rw [← Lib.size_eq]; omega), Bool.false_and]
    simp [List.isPrefixOf]
theorem mk_four (s : Txt) (a : Int) : mkV s a = (begV s a || (cbegV s a || (dbegV s a || ebegV s a))) := by
  unfold mkV begV cbegV dbegV ebegV mkB
  by_cases h : 0 ≤ a
  · rw [decide_eq_true h]
    simp [h, Bool.or_assoc]
  · rw [decide_eq_false h]
    simp [h]
theorem next_in (s : ByteArray) (i : Nat) (h : i ≤ s.size) : nextV s.data.toList (i : Int) = i + nextN (s.data.toList.drop i) := by
  unfold nextV; rw [atN_in _ _ (by rw [← Lib.size_eq]; exact h)]
theorem next_neg (s : Txt) (a : Int) (h : a ≤ 0) : nextV s a = nextV s 0 := by
  unfold nextV atN
  rw [show max 0 (min a (s.length : Int)) = max 0 (min 0 (s.length : Int)) by omega]
theorem next_far (s : Txt) (a : Int) (h : (s.length : Int) ≤ a) : nextV s a = s.length := by
  unfold nextV
  rw [show atN s a = s.length by unfold atN; omega, List.drop_length]; rfl
theorem next_top (s : Txt) (a : Int) : nextV s a ≤ s.length ∧ atN s a ≤ nextV s a := by
  have h1 := next_le (s.drop (atN s a))
  have h2 := atN_le s a
  rw [List.length_drop] at h1
  unfold nextV
  omega
end Go.Proofs.YtcamkphanakkdaaDoor
