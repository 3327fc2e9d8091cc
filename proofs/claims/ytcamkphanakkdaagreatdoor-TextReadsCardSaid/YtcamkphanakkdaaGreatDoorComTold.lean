/-
  What is told of comments in the laws of layer 10: plain mathematics.
-/
import Derived.Test.YtcamkphanakkdaaGreatDoorComLaws
namespace Go.Proofs.YtcamkphanakkdaaGreatDoor
open Go.RowKit Go.Lib

theorem com_zero (s : Txt) (x : Txt) (n : Nat) (h : begC s = true) (hr : comR s = (x, n)) : comV s 0 = (comT x, (n : Int), true) := by
  have := com_in s 0 (by rw [List.drop_zero]; exact h)
  rw [List.drop_zero, hr] at this
  rw [show ((0 : Nat) : Int) = 0 from rfl] at this
  rw [this]; simp
theorem comR_plain (l : Txt) : comR (60 :: 33 :: 45 :: 45 :: l) = ((plainC l).1, (plainC l).2 + 4) := by
  unfold comR; rw [if_pos (by simp [List.isPrefixOf])]; rfl
theorem begC_plain (l : Txt) : begC (60 :: 33 :: 45 :: l) = true := by
  show (!(dtL.isPrefixOf (lowL (45 :: l)))) = true
  rw [lowL_cons]
  simp [dtL, List.isPrefixOf, show lowB 45 = 45 by decide]
/-- behind a comment's end nothing plays a part -/
theorem told_ends (l more e : Txt) (k : Nat) (h : OpenT l) (h0 : 0 ∉ l) (he : e = [45, 45, 62] ∧ k = 3 ∨ e = [45, 45, 33, 62] ∧ k = 4) :
    comV ([60, 33, 45, 45] ++ l ++ e ++ more) 0 = (⟨3, [], l, [], false⟩, ((l.length + k + 4 : Nat) : Int), true) ∧ comV ([60, 33, 45, 45] ++ l) 0 = (⟨3, [], l, [], false⟩, ((l.length + 4 : Nat) : Int), true) := by
  have hc : comT l = ⟨3, [], l, [], false⟩ := by unfold comT; rw [(cleanL_iff l).2 h0]
  refine ⟨?_, ?_⟩
  · have e1 : [60, 33, 45, 45] ++ l ++ e ++ more = 60 :: 33 :: 45 :: 45 :: (l ++ (e ++ more)) := by simp
    rw [e1, com_zero _ _ _ (begC_plain _) (comR_plain _), plain_ends h e more k he, hc]
  · have e1 : [60, 33, 45, 45] ++ l = 60 :: 33 :: 45 :: 45 :: l := rfl
    rw [e1, com_zero _ _ _ (begC_plain _) (comR_plain _), plain_open h, hc]
theorem comR_ask (l : Txt) : comR (60 :: 63 :: l) = ((bogC (63 :: l)).1, (bogC (63 :: l)).2 + 1) := by
  unfold comR; rw [if_neg (by simp [List.isPrefixOf])]; rfl
theorem comR_else (c : UInt8) (l : Txt) (hc : c ≠ 63) (h : [60, 33, 45, 45].isPrefixOf (60 :: c :: l) = false) : comR (60 :: c :: l) = ((bogC l).1, (bogC l).2 + 2) := by
  unfold comR
  rw [h, if_neg Bool.false_ne_true, if_neg (by simp [hc])]; rfl
/-- what is no tag -/
theorem told_bogus (l more : Txt) (h62 : 62 ∉ l) (h0 : 0 ∉ l) :
    comV ([60, 63] ++ l ++ [62] ++ more) 0 = (⟨3, [], 63 :: l, [], false⟩, ((l.length + 3 : Nat) : Int), true) ∧
    comV ([60, 33, 91] ++ l ++ [62] ++ more) 0 = (⟨3, [], 91 :: l, [], false⟩, ((l.length + 4 : Nat) : Int), true) ∧
    comV ([60, 47, 49] ++ l) 0 = (⟨3, [], 49 :: l, [], false⟩, ((l.length + 3 : Nat) : Int), true) := by
  have hc : ∀ c : UInt8, c ≠ 0 → comT (c :: l) = ⟨3, [], c :: l, [], false⟩ := fun c hc => by
    unfold comT
    rw [(cleanL_iff (c :: l)).2 (by rw [List.mem_cons, not_or]; exact ⟨fun e => hc e.symm, h0⟩)]
  have hn : ∀ c : UInt8, c ≠ 62 → 62 ∉ c :: l := fun c hc => by
    rw [List.mem_cons, not_or]; exact ⟨fun e => hc e.symm, h62⟩
  refine ⟨?_, ?_, ?_⟩
  · have e1 : [60, 63] ++ l ++ [62] ++ more = 60 :: 63 :: (l ++ 62 :: more) := by simp
    have e2 := bog_ends (63 :: l) more (hn 63 (by decide))
    rw [List.cons_append] at e2
    rw [e1, com_zero _ _ _ rfl (comR_ask _), e2, hc 63 (by decide)]; rfl
  · have e1 : [60, 33, 91] ++ l ++ [62] ++ more = 60 :: 33 :: (91 :: l ++ 62 :: more) := by simp
    have e2 := bog_ends (91 :: l) more (hn 91 (by decide))
    have hb : begC (60 :: 33 :: (91 :: l ++ 62 :: more)) = true := by
      show (!(dtL.isPrefixOf (lowL (91 :: l ++ 62 :: more)))) = true
      rw [List.cons_append, lowL_cons]
      simp [dtL, List.isPrefixOf, show lowB 91 = 91 by decide]
    rw [e1, com_zero _ _ _ hb (comR_else 33 _ (by decide) (by simp [List.isPrefixOf])), e2, hc 91 (by decide)]; rfl
  · have e1 : [60, 47, 49] ++ l = 60 :: 47 :: (49 :: l) := rfl
    have e2 := bog_open (49 :: l) (hn 49 (by decide))
    rw [e1, com_zero _ _ _ (by rfl) (comR_else 47 _ (by decide) (by simp [List.isPrefixOf])), e2, hc 49 (by decide)]; rfl
/-- what has no end -/
theorem told_open (l : Txt) (h62 : 62 ∉ l) (h45 : 45 ∉ l) (h0 : 0 ∉ l) :
    comV ([60, 33, 45, 45] ++ l) 0 = (⟨3, [], l, [], false⟩, ((l.length + 4 : Nat) : Int), true) ∧
    comV ([60, 33, 45, 45] ++ l ++ [45, 45, 33]) 0 = (⟨3, [], l, [], false⟩, ((l.length + 7 : Nat) : Int), true) ∧
    comV ([60, 33, 45, 45, 32] ++ l) 0 = (⟨3, [], 32 :: l, [], false⟩, ((l.length + 5 : Nat) : Int), true) ∧
    (comV ([60, 33] ++ l ++ [45]) 0 = (⟨3, [], l ++ [45], [], false⟩, ((l.length + 3 : Nat) : Int), true) ∨ comV ([60, 33] ++ l ++ [45]) 0 = (zeroT, 0, false)) := by
  have two : ∀ z : List UInt8, 45 ∉ z → NoTwo z := fun z hz i hi => (hz (List.mem_of_getElem? hi)).elim
  have lst : ∀ z : List UInt8, 45 ∉ z → z.getLast? ≠ some 45 := fun z hz e => hz (List.mem_of_getLast? e)
  have fst : ∀ (z : List UInt8) (c : UInt8), c ∉ z → z.head? ≠ some c := fun z c hz e => hz (List.mem_of_head? e)
  have o1 : OpenT l := ⟨two l h45, lst l h45, fst l 45 h45, fst l 62 h62⟩
  have k45 : 45 ∉ 32 :: l := by rw [List.mem_cons, not_or]; exact ⟨by decide, h45⟩
  have k62 : 62 ∉ 32 :: l := by rw [List.mem_cons, not_or]; exact ⟨by decide, h62⟩
  have o2 : OpenT (32 :: l) := ⟨two _ k45, lst _ k45, fst _ 45 k45, fst _ 62 k62⟩
  have hc : comT l = ⟨3, [], l, [], false⟩ := by unfold comT; rw [(cleanL_iff l).2 h0]
  have hc2 : comT (32 :: l) = ⟨3, [], 32 :: l, [], false⟩ := by
    unfold comT; rw [(cleanL_iff (32 :: l)).2 (by rw [List.mem_cons, not_or]; exact ⟨by decide, h0⟩)]
  have hc3 : comT (l ++ [45]) = ⟨3, [], l ++ [45], [], false⟩ := by
    unfold comT; rw [(cleanL_iff (l ++ [45])).2 (by rw [List.mem_append, not_or]; exact ⟨h0, by decide⟩)]
  refine ⟨?_, ?_, ?_, ?_⟩
  · rw [show [60, 33, 45, 45] ++ l = 60 :: 33 :: 45 :: 45 :: l from rfl, com_zero _ _ _ (begC_plain _) (comR_plain _), plain_open o1, hc]
  · rw [show [60, 33, 45, 45] ++ l ++ [45, 45, 33] = 60 :: 33 :: 45 :: 45 :: (l ++ [45, 45, 33]) from rfl, com_zero _ _ _ (begC_plain _) (comR_plain _), plain_bang o1, hc]
  · rw [show [60, 33, 45, 45, 32] ++ l = 60 :: 33 :: 45 :: 45 :: (32 :: l) from rfl, com_zero _ _ _ (begC_plain _) (comR_plain _), plain_open o2, hc2]; rfl
  · have e1 : [60, 33] ++ l ++ [45] = 60 :: 33 :: (l ++ [45]) := rfl
    rw [e1]
    cases hb : begC (60 :: 33 :: (l ++ [45])) with
    | false => exact .inr (com_no _ 0 (by show (decide ((0 : Int) ≤ 0) && begC (60 :: 33 :: (l ++ [45]))) = false; rw [hb]; rfl))
    | true =>
      left
      have hp : [60, 33, 45, 45].isPrefixOf (60 :: 33 :: (l ++ [45])) = false := by
        rw [Bool.eq_false_iff]; intro e
        cases l with
        | nil => simp [List.isPrefixOf] at e
        | cons c l =>
          simp [List.isPrefixOf] at e
          exact h45 (by rw [← e.1]; exact List.mem_cons_self)
      rw [com_zero _ _ _ hb (comR_else 33 _ (by decide) hp), bog_open (l ++ [45]) (by rw [List.mem_append, not_or]; exact ⟨h62, by decide⟩), hc3, List.length_append]; rfl
/-- what stands behind -/
theorem plain_cut (l m : Txt) (h : (plainC l).2 ≠ l.length) : (plainC l).2 < l.length ∧ 1 ≤ (plainC l).2 ∧ l.getD ((plainC l).2 - 1) 0 = 62 ∧ plainC (l.take (plainC l).2 ++ m) = plainC l := by
  by_cases h1 : [62].isPrefixOf l = true
  · obtain ⟨q, rfl⟩ := List.isPrefixOf_iff_prefix.1 h1
    have e : ∀ z : Txt, plainC ([62] ++ z) = ([], 1) := fun z => by unfold plainC; rw [if_pos (by simp [List.isPrefixOf])]
    rw [e] at h ⊢
    refine ⟨?_, by simp, rfl, ?_⟩
    · simp at h ⊢; exact Nat.pos_of_ne_zero fun e => h (by rw [List.length_eq_zero_iff.1 e])
    · exact e m
  · by_cases h2 : [45, 62].isPrefixOf l = true
    · obtain ⟨q, rfl⟩ := List.isPrefixOf_iff_prefix.1 h2
      have e : ∀ z : Txt, plainC ([45, 62] ++ z) = ([], 2) := fun z => by unfold plainC; rw [if_neg (by simp [List.isPrefixOf]), if_pos (by simp [List.isPrefixOf])]
      rw [e] at h ⊢
      refine ⟨?_, by simp, rfl, ?_⟩
      · simp at h ⊢; exact Nat.pos_of_ne_zero fun e => h (by rw [List.length_eq_zero_iff.1 e])
      · exact e m
    · cases hs : scanC l with
      | none =>
        have : plainC l = (tailC l, l.length) := by unfold plainC; rw [if_neg h1, if_neg h2, hs]
        rw [this] at h; exact absurd rfl h
      | some r =>
        obtain ⟨x, n⟩ := r
        have hp : plainC l = (x, n) := by unfold plainC; rw [if_neg h1, if_neg h2, hs]
        rw [hp] at h ⊢
        obtain ⟨e1, e2, e3, e4⟩ := scan_ends l x n hs
        have hcut := scan_cut m l x n hs
        refine ⟨by simp only at h ⊢; omega, by simp only; omega, e4, ?_⟩
        simp only
        have key : ∀ p : Txt, p.length ≤ 3 → ¬ p.isPrefixOf l = true → ¬ p.isPrefixOf (l.take n ++ m) = true := by
          intro p hp hf e
          refine hf (List.isPrefixOf_iff_prefix.2 ?_)
          have e := List.isPrefixOf_iff_prefix.1 e
          rw [List.prefix_iff_eq_take] at e ⊢
          rw [List.take_append_of_le_length (by rw [List.length_take]; omega), List.take_take, Nat.min_eq_left (by omega)] at e
          exact e
        unfold plainC
        rw [if_neg (key _ (by decide) h1), if_neg (key _ (by decide) h2), hcut]
theorem bog_le (l : Txt) : (bogC l).2 ≤ l.length ∧ (bogC l).1.length ≤ l.length := ⟨Nat.sub_le _ _, (List.takeWhile_sublist _).length_le⟩
theorem tail_le (l : Txt) : (tailC l).length ≤ l.length := by
  unfold tailC
  split
  · rw [List.length_take]; omega
  · split
    · rw [List.length_take]; omega
    · split
      · rw [List.length_take]; omega
      · exact Nat.le_refl _
theorem plain_le (l : Txt) : (plainC l).1.length ≤ l.length + 1 := by
  unfold plainC
  split
  · simp
  · split
    · simp
    · cases h : scanC l with
      | none => have := tail_le l; simp only; omega
      | some r =>
        obtain ⟨x, n⟩ := r
        have := scan_ends l x n h
        simp only; omega
/-- how the three kinds begin -/
theorem begC_cases (s : Txt) (h : begC s = true) : (∃ t, s = 60 :: 33 :: t ∧ dtL.isPrefixOf (lowL t) = false) ∨ (∃ t, s = 60 :: 63 :: t) ∨ ∃ c t, s = 60 :: 47 :: c :: t ∧ c ≠ 62 ∧ letterI (c.toNat : Int) = false := by
  unfold begC at h
  split at h
  · exact .inl ⟨_, rfl, by simpa using h⟩
  · exact .inr (.inl ⟨_, rfl⟩)
  · refine .inr (.inr ⟨_, _, rfl, ?_⟩)
    simpa using h
  · cases h
/-- a doctype doesn't begin behind a bracket -/
theorem dt_cut (t m : Txt) (k : Nat) (hk : 1 ≤ k ∧ k ≤ t.length) (h62 : t.getD (k - 1) 0 = 62) (h : dtL.isPrefixOf (lowL t) = false) : dtL.isPrefixOf (lowL (t.take k ++ m)) = false := by
  rw [Bool.eq_false_iff] at h ⊢
  intro e
  have e := List.isPrefixOf_iff_prefix.1 e
  have hlow : (lowL t)[k - 1]? = some 62 := by
    unfold lowL
    rw [List.getElem?_map]
    have : t[k - 1]? = some 62 := by
      rw [List.getD_eq_getElem?_getD] at h62
      rw [List.getElem?_eq_getElem (by omega)] at h62 ⊢
      exact congrArg some h62
    rw [this]; rfl
  by_cases h7 : 7 ≤ k - 1
  · refine h (List.isPrefixOf_iff_prefix.2 ?_)
    rw [List.prefix_iff_eq_take] at e ⊢
    rw [show dtL.length = 7 from rfl] at e ⊢
    rw [lowL_app, List.take_append_of_le_length (by rw [lowL_len, List.length_take]; omega)] at e
    unfold lowL at e ⊢
    rw [List.map_take, List.take_take, Nat.min_eq_left (by omega)] at e
    exact e
  · obtain ⟨q, hq⟩ := e
    have h1 : (lowL (t.take k ++ m))[k - 1]? = some 62 := by
      rw [lowL_app, List.getElem?_append_left (by rw [lowL_len, List.length_take]; omega)]
      unfold lowL at hlow ⊢
      rw [List.map_take, List.getElem?_take_of_lt (by omega)]; exact hlow
    rw [← hq, List.getElem?_append_left (by show k - 1 < 7; omega)] at h1
    have h2 : ∀ j, j < 7 → dtL[j]? ≠ some 62 := by decide
    exact h2 (k - 1) (by omega) h1
theorem cut_pre (q t m : Txt) (k : Nat) (hq : 62 ∉ q) (hk : 1 ≤ k ∧ k ≤ t.length) (h62 : t.getD (k - 1) 0 = 62) (h : q.isPrefixOf t = false) : q.isPrefixOf (t.take k ++ m) = false := by
  rw [Bool.eq_false_iff] at h ⊢
  intro e
  have e := List.isPrefixOf_iff_prefix.1 e
  by_cases hl : q.length ≤ k
  · refine h (List.isPrefixOf_iff_prefix.2 ?_)
    rw [List.prefix_iff_eq_take] at e ⊢
    rw [List.take_append_of_le_length (by rw [List.length_take]; omega), List.take_take, Nat.min_eq_left hl] at e
    exact e
  · obtain ⟨r, hr⟩ := e
    have h1 : (t.take k ++ m)[k - 1]? = some 62 := by
      rw [List.getElem?_append_left (by rw [List.length_take]; omega), List.getElem?_take_of_lt (by omega)]
      rw [List.getD_eq_getElem?_getD] at h62
      rw [List.getElem?_eq_getElem (by omega)] at h62 ⊢
      exact congrArg some h62
    rw [← hr, List.getElem?_append_left (by omega)] at h1
    exact hq (List.mem_of_getElem? h1)
theorem plain_n (l : Txt) : (plainC l).2 ≤ l.length := by
  by_cases h : (plainC l).2 = l.length
  · exact Nat.le_of_eq h
  · exact Nat.le_of_lt (plain_cut l [] h).1
theorem told_rest (s m : Txt) (h : begC s = true) : 2 ≤ (comR s).2 ∧ (comR s).2 ≤ s.length ∧ (comR s).1.length ≤ s.length + 1 ∧
    ((comR s).2 ≠ s.length → s.getD ((comR s).2 - 1) 0 = 62 ∧ begC (s.take (comR s).2 ++ m) = true ∧ comR (s.take (comR s).2 ++ m) = comR s) := by
  by_cases hp : [60, 33, 45, 45].isPrefixOf s = true
  · obtain ⟨l, rfl⟩ := List.isPrefixOf_iff_prefix.1 hp
    have e : ∀ z : Txt, [60, 33, 45, 45] ++ z = 60 :: 33 :: 45 :: 45 :: z := fun z => rfl
    rw [e, comR_plain]
    have h1 := plain_n l
    have h2 := plain_le l
    refine ⟨by simp only; omega, by simp only [List.length_cons]; omega, by simp only [List.length_cons]; omega, fun hn => ?_⟩
    obtain ⟨c1, c2, c3, c4⟩ := plain_cut l m (fun e => hn (by simp only [List.length_cons]; omega))
    obtain ⟨n, hn'⟩ : ∃ n, (plainC l).2 = n := ⟨_, rfl⟩
    rw [hn'] at c1 c2 c3 c4 ⊢
    simp only
    refine ⟨?_, ?_, ?_⟩
    · rw [show n + 4 - 1 = (n - 1) + 1 + 1 + 1 + 1 by omega, List.getD_cons_succ, List.getD_cons_succ, List.getD_cons_succ, List.getD_cons_succ]; exact c3
    · rw [show n + 4 = n + 1 + 1 + 1 + 1 from rfl, List.take_succ_cons, List.take_succ_cons, List.take_succ_cons]
      exact begC_plain _
    · rw [show n + 4 = n + 1 + 1 + 1 + 1 from rfl, List.take_succ_cons, List.take_succ_cons, List.take_succ_cons, List.take_succ_cons]
      rw [List.cons_append, List.cons_append, List.cons_append, List.cons_append, comR_plain, c4, hn']
  · have hp : [60, 33, 45, 45].isPrefixOf s = false := Bool.eq_false_iff.2 hp
    rcases begC_cases s h with ⟨t, rfl, hd⟩ | ⟨t, rfl⟩ | ⟨c, t, rfl, hc, hl⟩
    · rw [comR_else 33 t (by decide) hp]
      have h1 := bog_le t
      refine ⟨by simp only; omega, by simp only [List.length_cons]; omega, by simp only [List.length_cons]; omega, fun hn => ?_⟩
      obtain ⟨c1, c2, c3, c4⟩ := bog_cut t m (fun e => hn (by simp only [List.length_cons]; omega))
      obtain ⟨n, hn'⟩ : ∃ n, (bogC t).2 = n := ⟨_, rfl⟩
      rw [hn'] at c1 c2 c3 c4 ⊢
      simp only
      have e : (60 :: 33 :: t).take (n + 2) ++ m = 60 :: 33 :: (t.take n ++ m) := by
        rw [show n + 2 = n + 1 + 1 from rfl, List.take_succ_cons, List.take_succ_cons]; rfl
      have hp2 : [60, 33, 45, 45].isPrefixOf (60 :: 33 :: (t.take n ++ m)) = false := by
        have : [45, 45].isPrefixOf t = false := by simpa [List.isPrefixOf] using hp
        have := cut_pre [45, 45] t m n (by decide) ⟨c2, by omega⟩ c3 this
        simpa [List.isPrefixOf] using this
      refine ⟨?_, ?_, ?_⟩
      · rw [show n + 2 - 1 = (n - 1) + 1 + 1 by omega, List.getD_cons_succ, List.getD_cons_succ]; exact c3
      · rw [e]
        show (!(dtL.isPrefixOf (lowL (t.take n ++ m)))) = true
        rw [dt_cut t m n ⟨c2, by omega⟩ c3 hd]; rfl
      · rw [e, comR_else 33 _ (by decide) hp2, c4, hn']
    · rw [comR_ask]
      have h1 := bog_le (63 :: t)
      rw [List.length_cons] at h1
      refine ⟨?_, by simp only [List.length_cons]; omega, by simp only [List.length_cons]; omega, fun hn => ?_⟩
      · simp only
        by_cases e : (bogC (63 :: t)).2 = (63 :: t).length
        · rw [e]; simp
        · have := (bog_cut (63 :: t) [] e).2.1; omega
      obtain ⟨c1, c2, c3, c4⟩ := bog_cut (63 :: t) m (fun e => hn (by simp only [List.length_cons] at e ⊢; omega))
      obtain ⟨n, hn'⟩ : ∃ n, (bogC (63 :: t)).2 = n := ⟨_, rfl⟩
      rw [hn'] at c1 c2 c3 c4 ⊢
      obtain ⟨j, rfl⟩ : ∃ j, n = j + 1 := ⟨n - 1, by omega⟩
      rw [List.take_succ_cons, List.cons_append] at c4
      simp only
      have e : (60 :: 63 :: t).take (j + 1 + 1) ++ m = 60 :: 63 :: (t.take j ++ m) := by
        rw [List.take_succ_cons, List.take_succ_cons]; rfl
      refine ⟨?_, ?_, ?_⟩
      · rw [show j + 1 + 1 - 1 = (j + 1 - 1) + 1 by omega, List.getD_cons_succ]; exact c3
      · rw [e]; rfl
      · rw [e, comR_ask, c4, hn']
    · rw [comR_else 47 (c :: t) (by decide) hp]
      have h1 := bog_le (c :: t)
      rw [List.length_cons] at h1
      refine ⟨by simp only; omega, by simp only [List.length_cons]; omega, by simp only [List.length_cons]; omega, fun hn => ?_⟩
      obtain ⟨c1, c2, c3, c4⟩ := bog_cut (c :: t) m (fun e => hn (by simp only [List.length_cons] at e ⊢; omega))
      obtain ⟨n, hn'⟩ : ∃ n, (bogC (c :: t)).2 = n := ⟨_, rfl⟩
      rw [hn'] at c1 c2 c3 c4 ⊢
      obtain ⟨j, rfl⟩ : ∃ j, n = j + 1 := ⟨n - 1, by omega⟩
      rw [List.take_succ_cons, List.cons_append] at c4
      simp only
      have e : (60 :: 47 :: c :: t).take (j + 1 + 2) ++ m = 60 :: 47 :: c :: (t.take j ++ m) := by
        rw [show j + 1 + 2 = j + 1 + 1 + 1 from rfl, List.take_succ_cons, List.take_succ_cons, List.take_succ_cons]; rfl
      refine ⟨?_, ?_, ?_⟩
      · rw [show j + 1 + 2 - 1 = (j + 1 - 1) + 1 + 1 by omega, List.getD_cons_succ, List.getD_cons_succ]; exact c3
      · rw [e]
        show (!(c == 62) && !(letterI (c.toNat : Int))) = true
        rw [hl, beq_eq_false_iff_ne.2 hc]; rfl
      · rw [e, comR_else 47 _ (by decide) (by simp [List.isPrefixOf]), c4, hn']
end Go.Proofs.YtcamkphanakkdaaGreatDoor
