/-
  A text's pieces, each read in its state: plain mathematics.
-/
import Derived.Test.YtdcbjgmjmdgmmaaGreatDoorQB
namespace Go.Proofs.YtdcbjgmjmdgmmaaGreatDoor
open Go.RowKit Go.Lib

/-- P16.1: the ten names and their states -/
def stTab : List (Txt × Int) := [([116, 105, 116, 108, 101], 1), ([116, 101, 120, 116, 97, 114, 101, 97], 1), ([115, 116, 121, 108, 101], 2), ([120, 109, 112], 2), ([105, 102, 114, 97, 109, 101], 2), ([110, 111, 101, 109, 98, 101, 100], 2), ([110, 111, 102, 114, 97, 109, 101, 115], 2), ([110, 111, 115, 99, 114, 105, 112, 116], 2), ([115, 99, 114, 105, 112, 116], 3), ([112, 108, 97, 105, 110, 116, 101, 120, 116], 4)]
def drvN (nm : Txt) : Int := ((stTab.find? fun p => decide (p.1 = nm)).map Prod.snd).getD 0
theorem st_cases (nm : Txt) : (∃ p ∈ stTab, p.1 = nm ∧ drvN nm = p.2) ∨ ((∀ p ∈ stTab, p.1 ≠ nm) ∧ drvN nm = 0) := by
  unfold drvN
  cases h : stTab.find? (fun p => decide (p.1 = nm)) with
  | none =>
    refine .inr ⟨fun p hp e => ?_, rfl⟩
    have := List.find?_eq_none.1 h p hp
    simp [e] at this
  | some p => exact .inl ⟨p, List.mem_of_find?_eq_some h, of_decide_eq_true (List.find?_some (p := fun p : Txt × Int => decide (p.1 = nm)) h), rfl⟩
theorem st_tab : ∀ p ∈ stTab, 1 ≤ p.2 ∧ p.2 ≤ 4 ∧ drvN p.1 = p.2 ∧ (p.2 = 3 → p.1 = scL) ∧ p.1.head?.any letB = true ∧ lowL p.1 = p.1 ∧ cleanL p.1 = p.1 ∧ ∀ c ∈ p.1, tagB c = true := by decide +kernel
theorem st_range (nm : Txt) : 0 ≤ drvN nm ∧ drvN nm ≤ 4 := by
  rcases st_cases nm with ⟨p, hp, -, e⟩ | ⟨-, e⟩
  · have := st_tab p hp
    rw [e]; omega
  · rw [e]; decide
theorem st_some (nm : Txt) (h : drvN nm ≠ 0) : ∃ p ∈ stTab, p.1 = nm ∧ drvN nm = p.2 := by
  rcases st_cases nm with h1 | ⟨-, e⟩
  · exact h1
  · exact absurd e h
/-- a start tag behind which a text is read otherwise -/
abbrev SpecT (t : TokP) : Prop := t.kind = 1 ∧ drvN t.name ≠ 0
/-- P16.2, of what stands at a place: pieces, and how many bytes -/
def drvS (l : Txt) : List TokP × Nat :=
  if (nx l).2.2 = true then
    (if SpecT (nx l).1 then ((nx l).1 :: (restK (drvN (nx l).1.name) (nx l).1.name (l.drop (nx l).2.1)).1, (nx l).2.1 + (restK (drvN (nx l).1.name) (nx l).1.name (l.drop (nx l).2.1)).2)
     else ([(nx l).1], (nx l).2.1))
  else ([], (nx l).2.1)
def drvR : Nat → Txt → List TokP
  | 0, _ => []
  | f + 1, l => if l = [] then [] else (drvS l).1 ++ drvR f (l.drop (drvS l).2)
def drvP (l : Txt) : List TokP := drvR l.length l
def drvL (l : Txt) : List TokP := joinL (drvP l)
theorem drvS_in (l : Txt) : (drvS l).2 ≤ l.length ∧ (l ≠ [] → 1 ≤ (drvS l).2) := by
  have h := nx_in l
  unfold drvS
  split
  · split
    · have h2 := (rest_in (drvN (nx l).1.name) (nx l).1.name (l.drop (nx l).2.1)).1
      rw [List.length_drop] at h2
      exact ⟨by simp only; omega, fun hl => by have := h.2 hl; simp only; omega⟩
    · exact h
  · exact h
theorem drv_fuel : ∀ (f g : Nat) (l : Txt), l.length ≤ f → l.length ≤ g → drvR f l = drvR g l
  | 0, 0, l, _, _ => rfl
  | 0, g + 1, l, h, _ => by
    have : l = [] := List.eq_nil_of_length_eq_zero (by omega)
    subst this; rfl
  | f + 1, 0, l, _, h => by
    have : l = [] := List.eq_nil_of_length_eq_zero (by omega)
    subst this; rfl
  | f + 1, g + 1, l, h1, h2 => by
    unfold drvR
    by_cases hl : l = []
    · rw [if_pos hl, if_pos hl]
    · rw [if_neg hl, if_neg hl]
      have := (drvS_in l).2 hl
      rw [drv_fuel f g _ (by rw [List.length_drop]; omega) (by rw [List.length_drop]; omega)]
theorem drv_nil : drvP [] = [] := rfl
theorem drvR_nil (f : Nat) : drvR f [] = [] := by cases f <;> rfl
theorem drv_step (l : Txt) (h : l ≠ []) : drvP l = (drvS l).1 ++ drvP (l.drop (drvS l).2) := by
  have hp := (drvS_in l).2 h
  have hl := List.length_pos_iff.2 h
  unfold drvP
  rw [drv_fuel l.length ((l.length - 1) + 1) l (Nat.le_refl _) (by omega), drvR, if_neg h]
  rw [drv_fuel (l.length - 1) (l.drop (drvS l).2).length _ (by rw [List.length_drop]; omega) (Nat.le_refl _)]

/-! what stands behind such a start tag -/
theorem tail_tag (c : UInt8) (h : tailB c = true) : tagB c = false := by
  unfold tailB at h
  unfold tagB spB
  rw [h]; rfl
theorem tw_name : ∀ (nm l : Txt), nm.isPrefixOf (lowL l) = true → (∀ c ∈ nm, tagB c = true) → (l.drop nm.length).head?.any tailB = true → lowL (l.takeWhile tagB) = nm
  | [], l, _, _, h => by
    cases l with
    | nil => rfl
    | cons c t =>
      have hc : tailB c = true := by simpa using h
      rw [List.takeWhile_cons, tail_tag c hc]; rfl
  | d :: nm, l, hp, ht, h => by
    cases l with
    | nil => simp [lowL] at hp
    | cons e l =>
      rw [lowL_cons, List.isPrefixOf_cons_cons, Bool.and_eq_true, beq_iff_eq] at hp
      have hte : tagB e = true := by
        have := ht d (.head _)
        rw [hp.1, (low_keeps e).2.2.1] at this
        exact this
      rw [List.takeWhile_cons, if_pos hte, lowL_cons, tw_name nm l hp.2 (fun c hc => ht c (.tail _ hc)) (by simpa using h), hp.1]
theorem end_beg (nm l : Txt) (hl : nm.head?.any letB = true) (ht : ∀ c ∈ nm, tagB c = true) (hc : cleanL nm = nm) (h : endR nm l = true) : begT l = 2 ∧ tellN (tgN l) = nm := by
  unfold endR at h
  rw [Bool.and_eq_true, Bool.and_eq_true] at h
  obtain ⟨-, hp, htl⟩ := h
  obtain ⟨a, b, r, rfl⟩ : ∃ a b r, l = a :: b :: r := by
    match l, hp with
    | [], hp => simp [lowL] at hp
    | [c], hp => simp [lowL, List.isPrefixOf] at hp
    | a :: b :: r, _ => exact ⟨a, b, r, rfl⟩
  rw [lowL_cons, lowL_cons, List.isPrefixOf_cons_cons, List.isPrefixOf_cons_cons, Bool.and_eq_true, Bool.and_eq_true, beq_iff_eq, beq_iff_eq] at hp
  obtain ⟨h60, h47, hp⟩ := hp
  have e60 : a = 60 := (low_keeps a).2.2.2.2.2.2.2.2.1 h60.symm
  have e47 : b = 47 := (low_keeps b).2.2.2.2.1.1 h47.symm
  subst e60
  subst e47
  have htl' : (r.drop nm.length).head?.any tailB = true := by
    rw [show (60 :: 47 :: r).drop (2 + nm.length) = r.drop nm.length by rw [Nat.add_comm]; rfl] at htl
    exact htl
  have hw := tw_name nm r hp ht htl'
  have hbt : begT (60 :: 47 :: r) = 2 := by
    cases nm with
    | nil => simp at hl
    | cons d nm =>
      cases r with
      | nil => simp [lowL] at hp
      | cons e r =>
        rw [lowL_cons, List.isPrefixOf_cons_cons, Bool.and_eq_true, beq_iff_eq] at hp
        have hd : letB d = true := by simpa using hl
        rw [hp.1, (low_keeps e).2.1] at hd
        unfold begT
        simp [hd]
  refine ⟨hbt, ?_⟩
  unfold tgN tellN
  rw [hbt]
  show cleanL (lowL (r.takeWhile tagB)) = nm
  rw [hw, hc]
theorem end_read (nm l : Txt) (hs : drvN nm ≠ 0) (h : endR nm l = true) : begT l ≠ 0 ∧ ∀ t n, tagR l = some (t, n) → t = ⟨2, nm, [], [], false⟩ := by
  obtain ⟨p, hp, rfl, -⟩ := st_some nm hs
  obtain ⟨-, -, -, -, h1, -, h2, h3⟩ := st_tab p hp
  obtain ⟨e1, e2⟩ := end_beg p.1 l h1 h3 h2 h
  refine ⟨by rw [e1]; decide, fun t n hr => ?_⟩
  obtain ⟨-, -, -, al, self, ht, -⟩ := tag_ends l t n hr
  rw [ht, e1]
  unfold tokT
  rw [if_neg (by decide), e2]
theorem end_at (nm l : Txt) (hs : drvN nm ≠ 0) (hlt : endN15 (drvN nm) nm l < l.length) : endR nm (l.drop (endN15 (drvN nm) nm l)) = true := by
  obtain ⟨p, hp, rfl, -⟩ := st_some nm hs
  obtain ⟨h1, h2, h0, h3, -⟩ := st_tab p hp
  rw [h0] at hlt ⊢
  unfold endN15 at hlt ⊢
  by_cases h12 : p.2 = 1 ∨ p.2 = 2
  · rw [if_pos h12] at hlt ⊢
    exact (find_is p.1 l).2.2 hlt
  · rw [if_neg h12] at hlt ⊢
    by_cases h4 : p.2 = 3
    · rw [if_pos h4] at hlt ⊢
      rw [h3 h4]
      exact ((scr_is 0 0 l (by decide)).2.2 hlt).1
    · rw [if_neg h4] at hlt
      exact absurd hlt (Nat.lt_irrefl _)
/-- what is read behind such a start tag -/
theorem rest_shape (nm l : Txt) (hs : drvN nm ≠ 0) : ∃ x, ((restK (drvN nm) nm l).1 = emitT x ∧ (restK (drvN nm) nm l).2 = l.length) ∨ (restK (drvN nm) nm l).1 = emitT x ++ [⟨2, nm, [], [], false⟩] := by
  have hr := st_range nm
  have hle := endN_le (drvN nm) nm l
  refine ⟨saysR (drvN nm) nm l, ?_⟩
  unfold restK
  rw [if_pos (by omega)]
  by_cases he : endN15 (drvN nm) nm l = l.length
  · rw [if_pos he]; exact .inl ⟨rfl, rfl⟩
  · rw [if_neg he]
    obtain ⟨h1, h2⟩ := end_read nm _ hs (end_at nm l hs (by omega))
    rw [if_pos h1]
    cases hx : tagR (l.drop (endN15 (drvN nm) nm l)) with
    | none => exact .inl ⟨rfl, rfl⟩
    | some r =>
      obtain ⟨t, n⟩ := r
      refine .inr ?_
      rw [h2 t n hx]

/-! P16.3 -/
inductive ShR : List TokP → Prop
  | nil : ShR []
  | other (t : TokP) (L : List TokP) : ¬ SpecT t → ShR L → ShR (t :: L)
  | last (t : TokP) (x : Txt) : SpecT t → ShR (t :: emitT x)
  | ended (t u : TokP) (x : Txt) (L : List TokP) : SpecT t → u.kind = 2 → u.name = t.name → ShR L → ShR (t :: (emitT x ++ u :: L))
theorem drv_sh : ∀ (f : Nat) (l : Txt), ShR (drvR f l)
  | 0, _ => .nil
  | f + 1, l => by
    unfold drvR
    by_cases hl : l = []
    · rw [if_pos hl]; exact .nil
    · rw [if_neg hl]
      unfold drvS
      by_cases h1 : (nx l).2.2 = true
      · rw [if_pos h1]
        by_cases h2 : SpecT (nx l).1
        · rw [if_pos h2]
          obtain ⟨x, ⟨e1, e2⟩ | e1⟩ := rest_shape (nx l).1.name (l.drop (nx l).2.1) h2.2
          · simp only [e1, e2]
            rw [List.drop_eq_nil_of_le (by rw [List.length_drop]; omega), drvR_nil, List.append_nil]
            exact .last _ x h2
          · simp only [e1]
            rw [List.cons_append, List.append_assoc]
            exact .ended _ ⟨2, (nx l).1.name, [], [], false⟩ x _ h2 rfl rfl (drv_sh f _)
        · rw [if_neg h2]
          exact .other _ _ h2 (drv_sh f _)
      · rw [if_neg h1]
        exact drv_sh f _
/-- behind such a start tag: at most one text, and then its end tag, or the end -/
def ShJ (J : List TokP) : Prop := ∀ A t C, J = A ++ t :: C → SpecT t → ∃ e, (e = [] ∨ ∃ x, e = [txtT x]) ∧ (C = e ∨ ∃ u D, C = e ++ u :: D ∧ u.kind = 2 ∧ u.name = t.name)
theorem shJ_nil : ShJ [] := fun A t C h => by cases A <;> simp at h
theorem shJ_other (u : TokP) (J : List TokP) (hu : ¬ SpecT u) (h : ShJ J) : ShJ (u :: J) := fun A t C e hs => by
  cases A with
  | nil =>
    rw [List.nil_append] at e
    obtain ⟨rfl, rfl⟩ := List.cons.inj e
    exact absurd hs hu
  | cons a A => exact h A t C (List.cons.inj e).2 hs
theorem shJ_emit (x : Txt) (J : List TokP) (h : ShJ J) : ShJ (emitT x ++ J) := by
  unfold emitT
  split
  · exact h
  · exact shJ_other _ _ (fun h => by cases h.1) h
theorem emit_one_or (x : Txt) : emitT x = [] ∨ ∃ y, emitT x = [txtT y] := by
  unfold emitT
  split
  · exact .inl rfl
  · exact .inr ⟨x, rfl⟩
theorem shJ_spec (t : TokP) (J : List TokP) (h : ShJ J) (hJ : ∃ e, (e = [] ∨ ∃ x, e = [txtT x]) ∧ (J = e ∨ ∃ u D, J = e ++ u :: D ∧ u.kind = 2 ∧ u.name = t.name)) : ShJ (t :: J) := fun A t' C e hs => by
  cases A with
  | nil =>
    rw [List.nil_append] at e
    obtain ⟨rfl, rfl⟩ := List.cons.inj e
    exact hJ
  | cons a A => exact h A t' C (List.cons.inj e).2 hs
theorem join_emitT (x : Txt) : joinA [] (emitT x) = emitT x := by
  unfold emitT
  split
  · rfl
  · rename_i h; simp [joinA, emitT, txtT, h]
theorem sh_join (L : List TokP) (h : ShR L) : ∀ says, ShJ (joinA says L) := by
  induction h with
  | nil => intro says; have := shJ_emit says [] shJ_nil; rwa [List.append_nil] at this
  | other t L hn _ ih =>
    intro says
    unfold joinA
    split
    · exact ih _
    · exact shJ_emit _ _ (shJ_other _ _ hn (ih []))
  | last t x hs =>
    intro says
    unfold joinA
    rw [if_neg (by rw [hs.1]; decide), join_emitT]
    have h0 := shJ_emit x [] shJ_nil
    rw [List.append_nil] at h0
    exact shJ_emit _ _ (shJ_spec _ _ h0 ⟨emitT x, emit_one_or x, .inl rfl⟩)
  | ended t u x L hs hu hn _ ih =>
    intro says
    unfold joinA
    have hk : u.kind ≠ 0 := by rw [hu]; decide
    have hj : joinA [] (emitT x ++ u :: L) = emitT x ++ u :: joinA [] L := by
      have := emit_join x (u :: L) (fun t ht => by
        simp only [List.head?_cons, Option.some.injEq] at ht
        rw [← ht]; exact hk)
      unfold joinL at this
      rw [this]
      congr 1
      exact join_mark u L hk
    rw [if_neg (by rw [hs.1]; decide), hj]
    exact shJ_emit _ _ (shJ_spec _ _ (shJ_emit _ _ (shJ_other _ _ (fun h => by have h1 := h.1; rw [hu] at h1; cases h1) (ih []))) ⟨emitT x, emit_one_or x, .inr ⟨u, _, rfl, hu, hn⟩⟩)
/-- as it is asked for, by places -/
theorem shape_at (J : List TokP) (h : ShJ J) (i : Nat) (hi : i < J.length) (hs : SpecT J[i]) :
    i + 1 = J.length ∨ (∃ h1 : i + 1 < J.length, J[i + 1].kind = 2 ∧ J[i + 1].name = J[i].name) ∨
    (∃ h1 : i + 1 < J.length, J[i + 1].kind = 0 ∧ (i + 2 = J.length ∨ ∃ h2 : i + 2 < J.length, J[i + 2].kind = 2 ∧ J[i + 2].name = J[i].name)) := by
  have hJ : J = J.take i ++ J[i] :: J.drop (i + 1) := by rw [List.getElem_cons_drop, List.take_append_drop]
  obtain ⟨e, he, hC⟩ := h _ _ _ hJ hs
  have hd : ∀ j, (J.drop (i + 1))[j]? = J[i + 1 + j]? := fun j => List.getElem?_drop
  have hlen : (J.drop (i + 1)).length = J.length - (i + 1) := List.length_drop
  rcases he with rfl | ⟨x, rfl⟩
  · rcases hC with hC | ⟨u, D, hC, hu, hn⟩
    · rw [hC] at hlen
      exact .inl (by simp at hlen; omega)
    · have h0 := hd 0
      rw [hC] at h0 hlen
      simp at h0 hlen
      have hlt : i + 1 < J.length := by omega
      rw [List.getElem?_eq_getElem hlt] at h0
      have := Option.some.inj h0
      exact .inr (.inl ⟨hlt, by rw [← this]; exact hu, by rw [← this]; exact hn⟩)
  · rcases hC with hC | ⟨u, D, hC, hu, hn⟩
    · have h0 := hd 0
      rw [hC] at h0 hlen
      simp at h0 hlen
      have hlt : i + 1 < J.length := by omega
      rw [List.getElem?_eq_getElem hlt] at h0
      have := Option.some.inj h0
      exact .inr (.inr ⟨hlt, by rw [← this]; rfl, .inl (by omega)⟩)
    · have h0 := hd 0
      have h1 := hd 1
      rw [hC] at h0 h1 hlen
      simp at h0 h1 hlen
      have hlt : i + 1 < J.length := by omega
      have hlt2 : i + 2 < J.length := by omega
      rw [List.getElem?_eq_getElem hlt] at h0
      rw [show i + 1 + 1 = i + 2 by omega, List.getElem?_eq_getElem hlt2] at h1
      have e0 := Option.some.inj h0
      have e1 := Option.some.inj h1
      exact .inr (.inr ⟨hlt, by rw [← e0]; rfl, .inr ⟨hlt2, by rw [← e1]; exact hu, by rw [← e1]; exact hn⟩⟩)
theorem drv_shape (s : Txt) : ShJ (drvL s) := sh_join _ (drv_sh _ _) []
theorem drv_parted (s : Txt) : Parted (drvL s) := join_parted _ []

/-! without such a start tag all is read as data -/
theorem mem_join : ∀ (L : List TokP) (says : Txt) (t : TokP), t ∈ L → t.kind ≠ 0 → t ∈ joinA says L
  | u :: L, says, t, h, hk => by
    unfold joinA
    split
    · rename_i h0
      rcases List.mem_cons.1 h with rfl | h1
      · exact absurd h0 hk
      · exact mem_join L _ t h1 hk
    · rcases List.mem_cons.1 h with rfl | h1
      · exact List.mem_append.2 (.inr (.head _))
      · exact List.mem_append.2 (.inr (.tail _ (mem_join L [] t h1 hk)))
theorem drv_toks : ∀ (f : Nat) (l : Txt), (∀ t ∈ toksR f l, ¬ SpecT t) → drvR f l = toksR f l
  | 0, _, _ => rfl
  | f + 1, l, h => by
    unfold drvR toksR at *
    by_cases hl : l = []
    · rw [if_pos hl, if_pos hl]
    · rw [if_neg hl] at h ⊢
      rw [if_neg hl]
      unfold drvS
      by_cases h1 : (nx l).2.2 = true
      · rw [if_pos h1] at h ⊢
        have h2 := h (nx l).1 (List.mem_append.2 (.inl (.head _)))
        rw [if_neg h2, if_pos h1]
        simp only
        rw [drv_toks f _ (fun t ht => h t (List.mem_append.2 (.inr ht)))]
      · rw [if_neg h1] at h ⊢
        rw [if_neg h1]
        simp only
        rw [drv_toks f _ (fun t ht => h t (List.mem_append.2 (.inr ht)))]
theorem drv_data (s : Txt) (h : ∀ t ∈ tokL 0 [] s, ¬ SpecT t) : drvL s = tokL 0 [] s := by
  rw [tok_data] at h ⊢
  unfold drvL drvP toksL at *
  rw [drv_toks _ _ (fun t ht hs => h t (mem_join _ _ t ht (by rw [hs.1]; decide)) hs)]

/-! what stands within -/
def nmTab : List Txt := stTab.map Prod.fst ++ [[112]]
theorem start_tag : ∀ nm ∈ nmTab, ∀ s : Txt, begT (60 :: (nm ++ 62 :: s)) = 1 ∧ tagR (60 :: (nm ++ 62 :: s)) = some (⟨1, nm, [], [], false⟩, nm.length + 2) := by
  intro nm h s
  simp only [nmTab, stTab, List.map_cons, List.map_nil, List.cons_append, List.nil_append, List.mem_cons, List.not_mem_nil, or_false] at h
  rcases h with rfl | rfl | rfl | rfl | rfl | rfl | rfl | rfl | rfl | rfl | rfl <;> exact ⟨rfl, rfl⟩
theorem end_tag : ∀ nm ∈ nmTab, ∀ s : Txt, begT (60 :: 47 :: (nm ++ 62 :: s)) = 2 ∧ tagR (60 :: 47 :: (nm ++ 62 :: s)) = some (⟨2, nm, [], [], false⟩, nm.length + 3) := by
  intro nm h s
  simp only [nmTab, stTab, List.map_cons, List.map_nil, List.cons_append, List.nil_append, List.mem_cons, List.not_mem_nil, or_false] at h
  rcases h with rfl | rfl | rfl | rfl | rfl | rfl | rfl | rfl | rfl | rfl | rfl <;> exact ⟨rfl, rfl⟩
theorem nm_drop (nm s : Txt) : (60 :: (nm ++ 62 :: s)).drop (nm.length + 2) = s := by
  rw [List.drop_succ_cons, ← List.drop_drop, List.drop_left]; rfl
theorem drv_start (nm s : Txt) (h : nm ∈ nmTab) : drvP (60 :: (nm ++ 62 :: s)) = (⟨1, nm, [], [], false⟩ : TokP) :: ((restK (drvN nm) nm s).1 ++ drvP (s.drop (restK (drvN nm) nm s).2)) := by
  obtain ⟨h1, h2⟩ := start_tag nm h s
  have hx := nx_tag (60 :: (nm ++ 62 :: s)) (by rw [h1]; decide)
  rw [h2] at hx
  rw [drv_step _ (by simp)]
  have hS : drvS (60 :: (nm ++ 62 :: s)) = ((⟨1, nm, [], [], false⟩ : TokP) :: (restK (drvN nm) nm s).1, nm.length + 2 + (restK (drvN nm) nm s).2) := by
    unfold drvS
    rw [hx]
    simp only [if_true, nm_drop]
    by_cases h0 : drvN nm = 0
    · rw [if_neg (fun e => e.2 h0), h0, rest_data]; rfl
    · rw [if_pos ⟨rfl, h0⟩]
  rw [hS]
  have hd : (60 :: (nm ++ 62 :: s)).drop (nm.length + 2 + (restK (drvN nm) nm s).2) = s.drop (restK (drvN nm) nm s).2 := by rw [← List.drop_drop (j := nm.length + 2), nm_drop]
  simp only [hd, List.cons_append]
theorem drv_within (nm s : Txt) (h : nm ∈ nmTab) (hn : ∀ t ∈ tokL (drvN nm) nm s, ¬ SpecT t) : drvL (60 :: (nm ++ 62 :: s)) = (⟨1, nm, [], [], false⟩ : TokP) :: tokL (drvN nm) nm s := by
  have hr := st_range nm
  unfold tokL at hn ⊢
  rw [if_pos (by omega)] at hn ⊢
  unfold drvL
  rw [drv_start nm s h, join_mark _ _ (show (1 : Int) ≠ 0 by decide)]
  congr 2
  unfold drvP toksL at *
  rw [drv_toks _ _ (fun t ht hs => hn t (mem_join _ _ t (List.mem_append.2 (.inr ht)) (by rw [hs.1]; decide)) hs)]

/-! behind its end tag a text goes on as if it began there -/
theorem no_end60 (nm a z : Txt) (ha : 60 ∉ a) (i : Nat) (hi : i < a.length) : endR nm ((a ++ z).drop i) = false := by
  rw [Bool.eq_false_iff]; intro e
  have hl : i < (a ++ z).length := by rw [List.length_append]; omega
  rw [List.drop_eq_getElem_cons hl] at e
  have := endR_head _ _ _ e
  rw [List.getElem_append_left hi] at this
  exact ha (this ▸ List.getElem_mem hi)
theorem find_alone60 (nm a : Txt) (ha : 60 ∉ a) : findL nm a = a.length :=
  find_one nm a a.length (Nat.le_refl _) (fun i hi => by
    have := no_end60 nm a [] ha i hi
    rwa [List.append_nil] at this) (.inl rfl)
theorem find_behind60 (nm a z : Txt) (ha : 60 ∉ a) (hz : endR nm z = true) : findL nm (a ++ z) = a.length :=
  find_one nm _ a.length (by simp) (fun i hi => no_end60 nm a z ha i hi) (.inr (by rw [List.drop_left]; exact hz))
theorem com_head60 (c : UInt8) (t : Txt) (h : c ≠ 60) : comL.isPrefixOf (lowL (c :: t)) = false := by
  rw [Bool.eq_false_iff]; intro e
  rw [lowL_cons] at e
  unfold comL at e
  rw [List.isPrefixOf_cons_cons, Bool.and_eq_true, beq_iff_eq] at e
  exact h ((low_keeps c).2.2.2.2.2.2.2.2.1 e.1.symm)
theorem com_60 (a q : Txt) (ha : 60 ∉ a) (hq : ∀ j, comL.isPrefixOf (lowL (q.drop j)) = false) (i : Nat) : comL.isPrefixOf (lowL ((a ++ q).drop i)) = false := by
  rcases Nat.lt_or_ge i a.length with h | h
  · have hl : i < (a ++ q).length := by rw [List.length_append]; omega
    rw [List.drop_eq_getElem_cons hl]
    refine com_head60 _ _ (fun e => ha ?_)
    rw [List.getElem_append_left h] at e
    exact e ▸ List.getElem_mem h
  · rw [List.drop_append, List.drop_eq_nil_of_le h, List.nil_append]; exact hq _
theorem com_none (j : Nat) : comL.isPrefixOf (lowL (([] : Txt).drop j)) = false := by rw [List.drop_nil]; decide
theorem com_scr (j : Nat) : comL.isPrefixOf (lowL (([60, 47, 115, 99, 114, 105, 112, 116, 62] : Txt).drop j)) = false := by
  rcases Nat.lt_or_ge j 9 with h | h
  · exact (show ∀ k, k < 9 → comL.isPrefixOf (lowL (([60, 47, 115, 99, 114, 105, 112, 116, 62] : Txt).drop k)) = false by decide) j h
  · rw [List.drop_eq_nil_of_le h]; decide
theorem end_alone60 (p : Txt × Int) (a : Txt) (ha : 60 ∉ a) : endN15 p.2 p.1 a = a.length := by
  unfold endN15
  split
  · exact find_alone60 p.1 a ha
  · split
    · have h := com_60 a [] ha com_none
      rw [List.append_nil] at h
      rw [scr_plain a h, find_alone60 scL a ha]
    · rfl
theorem end_endR : ∀ nm ∈ nmTab, ∀ s : Txt, endR nm (60 :: 47 :: (nm ++ 62 :: s)) = true := by
  intro nm h s
  simp only [nmTab, stTab, List.map_cons, List.map_nil, List.cons_append, List.nil_append, List.mem_cons, List.not_mem_nil, or_false] at h
  rcases h with rfl | rfl | rfl | rfl | rfl | rfl | rfl | rfl | rfl | rfl | rfl <;> rfl
theorem end_behind60 (p : Txt × Int) (hp : p ∈ stTab) (h4 : p.2 ≠ 4) (a b : Txt) (ha : 60 ∉ a) : endN15 p.2 p.1 (a ++ (60 :: 47 :: (p.1 ++ 62 :: b))) = a.length := by
  have hm : p.1 ∈ nmTab := List.mem_append.2 (.inl (List.mem_map.2 ⟨p, hp, rfl⟩))
  obtain ⟨h1, h2, -, h3, -⟩ := st_tab p hp
  unfold endN15
  split
  · exact find_behind60 p.1 a _ ha (end_endR p.1 hm b)
  · have e3 : p.2 = 3 := by omega
    rw [if_pos e3, h3 e3]
    have h1 : scrV 0 0 (a ++ [60, 47, 115, 99, 114, 105, 112, 116, 62]) = (a.length, 0) := by
      rw [scr_plain _ (com_60 a _ ha com_scr), find_behind60 scL a _ ha (by decide)]
    have h2 := scr_app 0 0 (a ++ [60, 47, 115, 99, 114, 105, 112, 116, 62]) b (by decide) (by rw [h1]; simp)
    rw [List.append_assoc] at h2
    have h3 : [60, 47, 115, 99, 114, 105, 112, 116, 62] ++ b = 60 :: 47 :: (scL ++ 62 :: b) := rfl
    rw [h3] at h2
    rw [h2, h1]
theorem tok_alone60 (p : Txt × Int) (hp : p ∈ stTab) (a : Txt) (ha : 60 ∉ a) : tokL p.2 p.1 a = emitT (rawT (decide (p.2 = 1)) a) := by
  obtain ⟨h1, h2, -⟩ := st_tab p hp
  unfold tokL restK saysR
  rw [if_pos (by omega), if_pos (by omega), end_alone60 p a ha, if_pos rfl, List.take_length]
  simp only [List.drop_length, toks_nil]
  rw [List.append_nil]
  exact join_emitT _
/-- P16.2 -/
theorem drv_ends (p : Txt × Int) (hp : p ∈ stTab) (h4 : p.2 ≠ 4) (a b : Txt) (ha : 60 ∉ a) :
    drvL (60 :: (p.1 ++ 62 :: (a ++ (60 :: 47 :: (p.1 ++ 62 :: b))))) = (⟨1, p.1, [], [], false⟩ : TokP) :: (tokL (drvN p.1) p.1 a ++ (⟨2, p.1, [], [], false⟩ : TokP) :: drvL b) := by
  have hm : p.1 ∈ nmTab := List.mem_append.2 (.inl (List.mem_map.2 ⟨p, hp, rfl⟩))
  obtain ⟨h1, h2, h0, -⟩ := st_tab p hp
  obtain ⟨e1, e2⟩ := end_tag p.1 hm b
  unfold drvL
  rw [drv_start p.1 _ hm, h0, join_mark _ _ (show (1 : Int) ≠ 0 by decide), tok_alone60 p hp a ha]
  congr 1
  have hR : restK p.2 p.1 (a ++ (60 :: 47 :: (p.1 ++ 62 :: b))) = (emitT (rawT (decide (p.2 = 1)) a) ++ [⟨2, p.1, [], [], false⟩], a.length + (p.1.length + 3)) := by
    unfold restK saysR
    rw [if_pos (by omega), end_behind60 p hp h4 a b ha, if_neg (by simp), List.drop_left, if_pos (by rw [e1]; decide), e2, List.take_left]
  rw [hR]
  simp only
  have hd : (a ++ (60 :: 47 :: (p.1 ++ 62 :: b))).drop (a.length + (p.1.length + 3)) = b := by
    rw [← List.drop_drop, List.drop_left]
    show (47 :: (p.1 ++ 62 :: b)).drop (p.1.length + 2) = b
    exact nm_drop p.1 b
  rw [hd, List.append_assoc, emit_join _ _ (fun t ht => by
    simp only [List.cons_append, List.nil_append, List.head?_cons, Option.some.injEq] at ht
    rw [← ht]; exact show (2 : Int) ≠ 0 by decide), List.cons_append, List.nil_append, join_mark _ _ (show (2 : Int) ≠ 0 by decide)]
theorem drv_len : ∀ (f : Nat) (l : Txt), (drvR f l).length ≤ 3 * f
  | 0, _ => Nat.le_refl _
  | f + 1, l => by
    unfold drvR
    split
    · exact Nat.zero_le _
    · have ih := drv_len f (l.drop (drvS l).2)
      rw [List.length_append]
      have h3 : (drvS l).1.length ≤ 3 := by
        unfold drvS
        split
        · split
          · rename_i h
            obtain ⟨x, ⟨e, -⟩ | e⟩ := rest_shape (nx l).1.name (l.drop (nx l).2.1) h.2
            · rw [e]; have := emit_len x; simp; omega
            · rw [e]; have := emit_len x; simp; omega
          · simp
        · simp
      omega
end Go.Proofs.YtdcbjgmjmdgmmaaGreatDoor
