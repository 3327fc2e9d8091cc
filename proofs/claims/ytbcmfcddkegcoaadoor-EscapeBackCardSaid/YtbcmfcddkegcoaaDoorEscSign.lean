/-
  What is written of just signs: plain mathematics.
-/
import Derived.Test.YtbcmfcddkegcoaaDoorSgBase
import Derived.Test.YtbcmfcddkegcoaaDoorEscMath
namespace Go.Proofs.YtbcmfcddkegcoaaDoor
open Go.RowKit Go.Lib

theorem high_bad (c : UInt8) (h : 128 ≤ c.toNat) : badB c = false ∧ c ≠ 38 := by
  have hn : ∀ d : UInt8, d.toNat < 128 → c ≠ d := fun d hd e => by rw [e] at h; omega
  refine ⟨?_, hn 38 (by decide)⟩
  unfold badB
  simp [hn 60 (by decide), hn 62 (by decide), hn 34 (by decide), hn 39 (by decide), hn 0 (by decide), hn 13 (by decide)]
theorem mark_enc : encodeRune ((65279 : Nat) : Int) = markL := by decide
/-- no mark stands where another sign does -/
theorem sign_mark (r : Nat) (h : IsSign r) (h9 : r ≠ 65279) (t : Txt20) : hasPrefix (encodeRune (r : Int) ++ t) markL = false := by
  rw [Bool.eq_false_iff]
  intro hp
  obtain ⟨u, hu⟩ := (hasMark _).1 hp
  have e := decodeL_enc r h t
  rw [hu, mark_dec] at e
  exact h9 (congrArg Prod.fst e).symm
theorem encL_sign (r : Nat) (h : IsSign r) (h7 : 128 ≤ r) (h9 : r ≠ 65279) (t : Txt20) : encL (encodeRune (r : Int) ++ t) = encodeRune (r : Int) ++ encL t := by
  have hm := sign_mark r h h9 t
  obtain ⟨x, xs, e, h1, h2⟩ := enc_tail r h h7
  rw [e] at hm ⊢
  rw [List.cons_append] at hm ⊢
  unfold hasPrefix at hm
  obtain ⟨b1, b2⟩ := high_bad x (by omega)
  rw [encL_step x _ hm, encB_same x b1 b2, encL_same xs (fun y hy => by
    obtain ⟨g1, g2⟩ := h2 y hy
    obtain ⟨b3, b4⟩ := high_bad y g1
    exact ⟨b3, b4, fun e => by rw [e] at g2; exact absurd g2 (by decide)⟩) t]
  rfl
theorem encB_sg (c : UInt8) (h : c.toNat < 128) : validD (encB c) = true := by
  unfold encB
  repeat' split
  all_goals first | decide | skip
  exact sg_all _ fun d hd => by rw [List.mem_singleton.1 hd]; exact h
theorem low_239 (c : UInt8) (h : c.toNat < 128) : c ≠ 239 := fun e => by rw [e] at h; exact absurd h (by decide)
theorem encL_sg (l : Txt20) (hv : validD l = true) : validD (encL l) = true := by
  refine sg_indR (M := fun l => validD (encL l) = true) rfl (fun c t h7 _ ih => ?_) (fun r t h1 h2 _ ih => ?_) l.length l (Nat.le_refl _) hv
  · rw [encL_low c t (low_239 c h7)]
    exact sg_app _ _ (encB_sg c h7) ih
  · by_cases h9 : r = 65279
    · rw [h9, mark_enc, encL_mark]
      exact sg_app _ _ (by decide) ih
    · rw [encL_sign r h1 h2 h9]
      exact sg_app _ _ (sg_enc _) ih
theorem encL_app (a b : Txt20) (hv : validD a = true) : encL (a ++ b) = encL a ++ encL b := by
  refine sg_indR (M := fun l => encL (l ++ b) = encL l ++ encL b) rfl (fun c t h7 _ ih => ?_) (fun r t h1 h2 _ ih => ?_) a.length a (Nat.le_refl _) hv
  · rw [List.cons_append, encL_low c _ (low_239 c h7), encL_low c t (low_239 c h7), ih, List.append_assoc]
  · rw [List.append_assoc]
    by_cases h9 : r = 65279
    · rw [h9, mark_enc, encL_mark, encL_mark, ih, List.append_assoc]
    · rw [encL_sign r h1 h2 h9, encL_sign r h1 h2 h9, ih, List.append_assoc]
/-- no mark at its beginning -/
theorem encL_bare (l : Txt20) (hv : validD l = true) : hasPrefix (encL l) markL = false := by
  have hlow : ∀ (c : UInt8) (u : Txt20), c ≠ 239 → hasPrefix (c :: u) markL = false := fun c u h => mark_no c u h
  by_cases hne : l = []
  · subst hne; decide
  · rcases sg_headR l hne hv with ⟨c, t, rfl, h7, -⟩ | ⟨r, t, rfl, h1, h2, -⟩
    · rw [encL_low c t (low_239 c h7)]
      unfold encB
      repeat' split
      all_goals first | exact hlow _ _ (by decide) | skip
      · rw [Bool.eq_false_iff]; intro e
        obtain ⟨u, hu⟩ := (hasMark _).1 e
        exact absurd (List.cons.inj (List.cons.inj hu).2).1 (by decide)
      · exact hlow _ _ (low_239 c h7)
    · by_cases h9 : r = 65279
      · rw [h9, mark_enc, encL_mark]
        exact hlow _ _ (by decide)
      · rw [encL_sign r h1 h2 h9]
        exact sign_mark r h1 h9 _
theorem encD_bytes (d : Int) (hd : 0 ≤ d ∧ d ≤ 2) (l : Txt20) (hv : validD l = true) : validD (encD d l) = true ∧ dec (encD d l) = encD d l ∧ normL (encD d l) = encD d l ∧ cleanL (encD d l) = encD d l := by
  have h1 := encL_sg l hv
  have h2 := encL_bare l hv
  have hp := encD_plain d l
  have hno : ∀ c : UInt8, badB c = true → c ∉ encD d l := fun c hc hm => by rw [hp c hm] at hc; cases hc
  rw [encD_in d l hd] at hno ⊢
  have h3 : validD ((if d = 2 ∧ l.head? = some 10 then [10] else []) ++ encL l) = true := by
    split
    · exact sg_app _ _ (by decide) h1
    · exact h1
  have h4 : hasPrefix ((if d = 2 ∧ l.head? = some 10 then [10] else []) ++ encL l) markL = false := by
    split
    · exact mark_no 10 _ (by decide)
    · exact h2
  exact ⟨h3, by rw [dec_plain _ h4, dec0_same _ h3], normL_same _ (hno 13 (by decide)), cleanL_same _ (hno 0 (by decide))⟩
theorem encD_join (d : Int) (hd : 0 ≤ d ∧ d ≤ 2) (a b : Txt20) (hne : a ≠ []) (hv : validD a = true) : encD d (a ++ b) = encD d a ++ encD 0 b := by
  rw [encD_in d _ hd, encD_in d a hd, encD_in 0 b (by decide), encL_app a b hv]
  have h1 : (a ++ b).head? = a.head? := by
    cases a with
    | nil => exact absurd rfl hne
    | cons c a => rfl
  rw [h1, if_neg (show ¬ ((0 : Int) = 2 ∧ b.head? = some 10) from fun e => absurd e.1 (by decide)), List.nil_append, List.append_assoc]

/-! unlike texts are written unlike -/
def spec6 : List UInt8 := [38, 60, 62, 34, 39, 13]
theorem encB_spec (c : UInt8) (h0 : c ≠ 0) : (c ∈ spec6 ∧ ∃ u, encB c = 38 :: u) ∨ (c ∉ spec6 ∧ encB c = [c]) := by
  by_cases h : c ∈ spec6
  · refine .inl ⟨h, ?_⟩
    simp only [spec6, List.mem_cons, List.not_mem_nil, or_false] at h
    rcases h with rfl | rfl | rfl | rfl | rfl | rfl <;> exact ⟨_, rfl⟩
  · refine .inr ⟨h, ?_⟩
    simp only [spec6, List.mem_cons, List.not_mem_nil, or_false, not_or] at h
    obtain ⟨a1, a2, a3, a4, a5, a6⟩ := h
    unfold encB
    rw [if_neg a1, if_neg a2, if_neg a3, if_neg a4, if_neg a5, if_neg a6, if_neg h0]
theorem encB_inj (c d : UInt8) (hc : c ≠ 0) (hd : d ≠ 0) (x y : Txt20) (h : encB c ++ x = encB d ++ y) : c = d ∧ x = y := by
  rcases encB_spec c hc with ⟨c1, u, c2⟩ | ⟨c1, c2⟩
  · rcases encB_spec d hd with ⟨d1, v, d2⟩ | ⟨d1, d2⟩
    · clear c2 d2
      simp only [spec6, List.mem_cons, List.not_mem_nil, or_false] at c1 d1
      rcases c1 with rfl | rfl | rfl | rfl | rfl | rfl <;> rcases d1 with rfl | rfl | rfl | rfl | rfl | rfl <;> first | (refine ⟨rfl, ?_⟩; exact List.append_cancel_left h) | (exfalso; revert h; simp [encB])
    · rw [c2, d2] at h
      exact absurd ((List.cons.inj h).1 ▸ (by decide : (38 : UInt8) ∈ spec6)) d1
  · rcases encB_spec d hd with ⟨d1, v, d2⟩ | ⟨d1, d2⟩
    · rw [c2, d2] at h
      exact absurd ((List.cons.inj h).1.symm ▸ (by decide : (38 : UInt8) ∈ spec6)) c1
    · rw [c2, d2] at h
      exact List.cons.inj h
theorem encB_ne (c : UInt8) (u : Txt20) : encB c ++ u ≠ [] := fun e => by
  have := (encB_len c).1
  rw [(List.append_eq_nil_iff.1 e).1] at this
  simp at this
theorem encM_not (c : UInt8) (hc : c ≠ 0) (x y : Txt20) : encM ++ x ≠ encB c ++ y := fun h => by
  rcases encB_spec c hc with ⟨c1, u, -⟩ | ⟨c1, c2⟩
  · simp only [spec6, List.mem_cons, List.not_mem_nil, or_false] at c1
    rcases c1 with rfl | rfl | rfl | rfl | rfl | rfl <;> (revert h; simp [encB, encM])
  · rw [c2] at h
    exact c1 ((List.cons.inj h).1 ▸ (by decide : (38 : UInt8) ∈ spec6))
theorem encL_inj : ∀ (n : Nat) (a b : Txt20), a.length ≤ n → 0 ∉ a → 0 ∉ b → encL a = encL b → a = b
  | n, a, b, hn, ha, hb, h => by
    rcases encL_ways a with rfl | ⟨t, rfl, e⟩ | ⟨c, t, rfl, -, e⟩
    · rcases encL_ways b with rfl | ⟨u, rfl, f⟩ | ⟨d, u, rfl, -, f⟩
      · rfl
      · rw [f] at h; cases h
      · rw [f] at h; exact absurd h.symm (encB_ne d _)
    · rcases encL_ways b with rfl | ⟨u, rfl, f⟩ | ⟨d, u, rfl, -, f⟩
      · rw [e] at h; cases h
      · match n with
        | 0 => simp [markL] at hn
        | n + 1 =>
          rw [e, f] at h
          rw [encL_inj n t u (by simp [markL] at hn; omega) (fun hm => ha (List.mem_append.2 (.inr hm))) (fun hm => hb (List.mem_append.2 (.inr hm))) (List.append_cancel_left h)]
      · rw [e, f] at h
        exact absurd h (encM_not d (fun e => hb (by rw [e]; exact .head _)) _ _)
    · have hc0 : c ≠ 0 := fun e => ha (by rw [e]; exact .head _)
      rcases encL_ways b with rfl | ⟨u, rfl, f⟩ | ⟨d, u, rfl, -, f⟩
      · rw [e] at h; exact absurd h (encB_ne c _)
      · rw [e, f] at h
        exact absurd h.symm (encM_not c hc0 _ _)
      · have hd0 : d ≠ 0 := fun e => hb (by rw [e]; exact .head _)
        rw [e, f] at h
        obtain ⟨g1, g2⟩ := encB_inj c d hc0 hd0 _ _ h
        match n with
        | 0 => simp at hn
        | n + 1 => rw [g1, encL_inj n t u (by simp at hn; omega) (fun hm => ha (.tail _ hm)) (fun hm => hb (.tail _ hm)) g2]
theorem encL_head (l : Txt20) (h0 : 0 ∉ l) (u : Txt20) (h : encL l = 10 :: u) : l.head? = some 10 := by
  rcases encL_ways l with rfl | ⟨t, rfl, e⟩ | ⟨c, t, rfl, -, e⟩
  · cases h
  · rw [e] at h
    exact absurd (List.cons.inj h).1 (by decide)
  · rw [e] at h
    have hc0 : c ≠ 0 := fun e => h0 (by rw [e]; exact .head _)
    rcases encB_spec c hc0 with ⟨-, v, c2⟩ | ⟨-, c2⟩
    · rw [c2] at h; exact absurd (List.cons.inj h).1 (by decide)
    · rw [c2] at h; rw [(List.cons.inj h).1]; rfl
theorem encD_inj (d : Int) (hd : 0 ≤ d ∧ d ≤ 2) (a b : Txt20) (ha : 0 ∉ a) (hb : 0 ∉ b) (h : encD d a = encD d b) : a = b := by
  rw [encD_in d a hd, encD_in d b hd] at h
  by_cases h2 : d = 2
  · by_cases h3 : a.head? = some 10 <;> by_cases h4 : b.head? = some 10
    · rw [if_pos ⟨h2, h3⟩, if_pos ⟨h2, h4⟩] at h
      exact encL_inj _ a b (Nat.le_refl _) ha hb (List.append_cancel_left h)
    · rw [if_pos ⟨h2, h3⟩, if_neg (fun e => h4 e.2)] at h
      exact absurd (encL_head b hb _ h.symm) h4
    · rw [if_neg (fun e => h3 e.2), if_pos ⟨h2, h4⟩] at h
      exact absurd (encL_head a ha _ h) h3
    · rw [if_neg (fun e => h3 e.2), if_neg (fun e => h4 e.2)] at h
      exact encL_inj _ a b (Nat.le_refl _) ha hb h
  · rw [if_neg (fun e => h2 e.1), if_neg (fun e => h2 e.1)] at h
    exact encL_inj _ a b (Nat.le_refl _) ha hb h
/-- bytes that are written as they are -/
def easyB (c : UInt8) : Bool := decide (c.toNat < 128) && !badB c && !(c == 38)
theorem encL_easy (l : Txt20) (h : ∀ c ∈ l, easyB c = true) : encL l = l := by
  have := encL_same l (fun c hc => by
    have := h c hc
    unfold easyB at this
    simp only [Bool.and_eq_true, decide_eq_true_eq, Bool.not_eq_true', beq_eq_false_iff_ne] at this
    exact ⟨this.1.2, this.2, low_239 c this.1.1⟩) []
  rwa [List.append_nil, encL_nil, List.append_nil] at this
end Go.Proofs.YtbcmfcddkegcoaaDoor
