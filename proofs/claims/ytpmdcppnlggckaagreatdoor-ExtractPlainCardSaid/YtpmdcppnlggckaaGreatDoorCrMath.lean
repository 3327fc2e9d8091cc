/-
  What bytes say has at most three times as many: each byte below 128 counts three, each other one: plain mathematics.
-/
import Derived.Test.YtpmdcppnlggckaaGreatDoorSgMath
import Derived.Test.YtpmdcppnlggckaaGreatDoorP1
namespace Go.Proofs.YtpmdcppnlggckaaGreatDoor
open Go.RowKit Go.Lib

def crB (c : UInt8) : Nat := if c.toNat < 128 then 3 else 1
def crL : Txt → Nat
  | [] => 0
  | c :: t => crB c + crL t
theorem cr_app : ∀ a b : Txt, crL (a ++ b) = crL a + crL b
  | [], b => by rw [List.nil_append]; simp [crL]
  | c :: a, b => by rw [List.cons_append, crL, crL, cr_app a b]; omega
theorem cr_cut (l : Txt) (n : Nat) : crL l = crL (l.take n) + crL (l.drop n) := by rw [← cr_app, List.take_append_drop]
theorem cr_more : ∀ l : Txt, l.length ≤ crL l ∧ crL l ≤ 3 * l.length
  | [] => ⟨Nat.le_refl _, Nat.le_refl _⟩
  | c :: t => by
    have h := cr_more t
    have h1 : 1 ≤ crB c ∧ crB c ≤ 3 := by unfold crB; split <;> omega
    rw [crL, List.length_cons]; omega
theorem cr_low : ∀ l : Txt, (∀ c ∈ l, c.toNat < 128) → crL l = 3 * l.length
  | [], _ => rfl
  | c :: t, h => by
    have h1 : crB c = 3 := if_pos (h c (.head _))
    rw [crL, List.length_cons, h1, cr_low t (fun x hx => h x (.tail _ hx))]; omega
theorem cr_dec0 : ∀ (n : Nat) (l : Txt), l.length ≤ n → crL (dec0 l) ≤ 3 * l.length
  | 0, l, h => by
    have : l = [] := List.eq_nil_of_length_eq_zero (by omega)
    subst this; simp [dec0_nil, crL]
  | n + 1, l, h => by
    by_cases hne : l = []
    · subst hne; simp [dec0_nil, crL]
    · have hl : 0 < l.length := List.length_pos_iff.2 hne
      have hw := decodeL_width l
      have hwl := width_le l hne
      have hb := begL_ge l
      rw [dec0_step l hne]
      cases hk : brk l with
      | true =>
        rw [if_pos rfl, cr_app]
        have h1 := cr_dec0 n (l.drop (begL l)) (by rw [List.length_drop]; omega)
        rw [List.length_drop] at h1
        have h2 : crL badL = 3 := by decide
        omega
      | false =>
        rw [if_neg (by simp), cr_app]
        have h1 := cr_dec0 n (l.drop (decodeL l).2) (by rw [List.length_drop]; omega)
        have h2 := (cr_more (l.take (decodeL l).2)).2
        rw [List.length_drop] at h1
        rw [List.length_take] at h2
        omega
theorem cr_dec (l : Txt) : crL (dec l) ≤ 3 * l.length := by
  cases h : hasPrefix l markL
  · rw [dec_plain l h]; exact cr_dec0 _ l (Nat.le_refl _)
  · rw [dec_mark l h]
    have := cr_dec0 _ (l.drop 3) (Nat.le_refl _)
    rw [List.length_drop] at this
    omega
theorem cr_norm : ∀ l : Txt, crL (normL l) ≤ crL l
  | [] => Nat.le_refl _
  | c :: r => by
    have ih := cr_norm r
    rw [normL]
    split
    · rw [crL, crL]; omega
    · split
      · rw [crL]; omega
      · rename_i h _
        have h1 : c = 13 := Classical.not_not.1 h
        rw [crL, crL, h1]
        have : crB 13 = 3 := by decide
        have : crB 10 = 3 := by decide
        omega
theorem cr_clean : ∀ l : Txt, (cleanL l).length ≤ crL l
  | [] => Nat.le_refl _
  | c :: r => by
    have ih := cr_clean r
    have h1 : 1 ≤ crB c := by unfold crB; split <;> omega
    rw [cleanL, crL]
    split
    · rename_i h
      have : crB c = 3 := by rw [h]; decide
      simp only [List.length_cons]; omega
    · rw [List.length_cons]; omega
theorem cr_dd (attr : Bool) : ∀ (n : Nat) (l : Txt), l.length ≤ n → (cleanL (ddL attr l)).length ≤ crL l
  | _, [], _ => Nat.le_refl _
  | 0, c :: z, h => absurd h (by simp)
  | n + 1, c :: z, h => by
    rw [List.length_cons] at h
    have h1 : 1 ≤ crB c := by unfold crB; split <;> omega
    by_cases hc : c = 38
    · subst hc
      have ih := cr_dd attr n (z.drop (refM z)) (by rw [List.length_drop]; omega)
      have h2 := (refT_len z attr).2
      have h3 := cr_cut z (refM z)
      have h4 := cr_low (z.take (refM z)) (ref_low z)
      have h5 := refM_le z
      have h6 : crB 38 = 3 := by decide
      rw [List.length_take] at h4
      rw [dd_amp, cleanL_app, cleanL_same _ (refT_sg z attr).2, List.length_append, crL]
      omega
    · have ih := cr_dd attr n z (by omega)
      rw [dd_plain attr c z hc, cleanL, crL]
      split
      · rename_i h0
        have : crB c = 3 := by rw [h0]; decide
        simp only [List.length_cons]; omega
      · rw [List.length_cons]; omega
theorem cr_raw (refs : Bool) (l : Txt) : (rawT refs l).length ≤ crL l := by
  unfold rawT
  split
  · exact cr_dd false _ l (Nat.le_refl _)
  · exact cr_clean l
theorem cr_read (l : Txt) : (ddL false l).length ≤ crL l :=
  Nat.le_trans (cleanL_len _).1 (cr_dd false _ l (Nat.le_refl _))

/-! pieces -/
/-- how much a piece may tell -/
def wtT (t : TokP) : Nat := if t.kind = 0 then t.text.length else if t.kind = 1 ∨ t.kind = 2 then 2 else 0
def wtL : List TokP → Nat
  | [] => 0
  | t :: L => wtT t + wtL L
theorem wt_app : ∀ a b : List TokP, wtL (a ++ b) = wtL a + wtL b
  | [], b => by rw [List.nil_append]; simp [wtL]
  | c :: a, b => by rw [List.cons_append, wtL, wtL, wt_app a b]; omega
theorem wt_emit (x : Txt) : wtL (emitT x) = x.length := by
  unfold emitT
  split
  · rename_i h; rw [h]; rfl
  · rfl
theorem wt_tag (l : Txt) (t : TokP) (n : Nat) (hr : tagR l = some (t, n)) : wtT t ≤ crL (l.take n) := by
  obtain ⟨h1, h2, -⟩ := tag_ends l t n hr
  have hb : begT l ≠ 0 ∨ begT l = 0 := by omega
  have h3 : wtT t ≤ 2 := by
    unfold wtT
    split
    · rw [tag_text l t n hr]; exact Nat.zero_le _
    · split <;> omega
  have h4 := (cr_more (l.take n)).1
  rw [List.length_take] at h4
  have h5 : 1 ≤ n := by omega
  rcases Nat.lt_or_ge n 2 with h6 | h6
  · obtain rfl : n = 1 := by omega
    have h7 := (tag_ends l t 1 hr).2.2.1
    have hl : 0 < l.length := by omega
    rw [getD_of l 0 hl] at h7
    have h8 : l.take 1 = [l[0]] := by
      cases l with
      | nil => simp at hl
      | cons c l => rfl
    rw [h8, h7]
    have : crL [62] = 3 := by decide
    omega
  · omega
theorem nx_wt (l : Txt) : (if (nx l).2.2 = true then wtT (nx l).1 else 0) ≤ crL (l.take (nx l).2.1) := by
  rcases nx_cases l with ⟨h, -, e⟩ | ⟨h, t, n, hr, e⟩ | ⟨-, h, e⟩ | ⟨-, -, h, e⟩ | ⟨-, -, -, h, e⟩ | ⟨-, -, -, -, -, -, h, e⟩ | ⟨-, -, -, -, -, h, e⟩
  all_goals rw [e]; simp only
  · exact Nat.zero_le _
  · exact wt_tag l t n hr
  · exact Nat.zero_le _
  · exact Nat.zero_le _
  · exact Nat.zero_le _
  · exact Nat.zero_le _
  · exact cr_read _
theorem rest_wt (st : Int) (nm l : Txt) : wtL (restK st nm l).1 ≤ crL (l.take (restK st nm l).2) := by
  have hle := endN_le st nm l
  have h1 : (saysR st nm l).length ≤ crL (l.take (endN15 st nm l)) := cr_raw _ _
  have h2 := cr_cut l (endN15 st nm l)
  have h3 : wtL (emitT (saysR st nm l)) ≤ crL (l.take l.length) := by
    rw [wt_emit, List.take_length]; omega
  unfold restK
  split
  · split
    · exact h3
    · split
      · cases hr : tagR (l.drop (endN15 st nm l)) with
        | none => exact h3
        | some r =>
          obtain ⟨t, n⟩ := r
          have h4 := wt_tag _ t n hr
          show wtL (emitT (saysR st nm l) ++ [t]) ≤ crL (l.take (endN15 st nm l + n))
          rw [wt_app, wt_emit, List.take_add, cr_app]
          show _ + (wtT t + 0) ≤ _
          omega
      · rw [wt_emit]; exact h1
  · exact Nat.zero_le _
theorem drvR_wt : ∀ (f : Nat) (l : Txt), wtL (drvR f l) ≤ crL l
  | 0, _ => Nat.zero_le _
  | f + 1, l => by
    unfold drvR
    split
    · exact Nat.zero_le _
    · have ih := drvR_wt f (l.drop (drvS l).2)
      have hS : wtL (drvS l).1 ≤ crL (l.take (drvS l).2) := by
        have hn := nx_wt l
        unfold drvS
        split
        · rename_i hk
          rw [if_pos hk] at hn
          split
          · have h1 := rest_wt (drvN (nx l).1.name) (nx l).1.name (l.drop (nx l).2.1)
            show wtT (nx l).1 + wtL _ ≤ crL (l.take ((nx l).2.1 + _))
            rw [List.take_add, cr_app]
            omega
          · show wtT (nx l).1 + 0 ≤ crL (l.take (nx l).2.1)
            omega
        · exact Nat.zero_le _
      have h2 := cr_cut l (drvS l).2
      rw [wt_app]
      omega
theorem lines_two (nm : Txt) (f : FloP) : (linesF nm f).size ≤ f.size + 2 := by
  have hl := lin_range nm
  have h2 : ∀ g : FloP, (brkF (linN nm) g).size ≤ g.size + 2 := fun g => by
    unfold brkF FloP.size
    simp only [List.length_nil]
    omega
  by_cases hb : nm = brL
  · subst hb
    unfold linesF brF
    rw [if_neg (show ¬ 0 < linN brL by decide), if_pos rfl]
    have := line_size f; omega
  · unfold linesF brF
    rw [if_neg hb]
    split
    · exact h2 f
    · omega
theorem renT_wt (r : RenP) (t : TokP) : (renT r t).flow.size ≤ r.flow.size + wtT t := by
  have h1 := lines_two t.name r.flow
  have h2 := putL_size (decide (0 < r.kept)) t.text r.flow
  by_cases k1 : t.kind = 1
  · have hw : wtT t = 2 := by unfold wtT; rw [if_neg (by rw [k1]; decide), if_pos (.inl k1)]
    rw [hw, renT_start r t k1]
    split
    · simp only; omega
    · split
      · simp only; omega
      · simp only; omega
  · by_cases k2 : t.kind = 2
    · have hw : wtT t = 2 := by unfold wtT; rw [if_neg (by rw [k2]; decide), if_pos (.inr k2)]
      rw [hw, renT_end r t k2]
      split
      · simp only; omega
      · split
        · simp only; omega
        · omega
    · by_cases k0 : t.kind = 0
      · have hw : wtT t = t.text.length := by unfold wtT; rw [if_pos k0]
        rw [hw, renT_text r t k0]
        split
        · simp only; omega
        · omega
      · rw [renT_other r t k0 k1 k2]; omega
theorem renR_wt : ∀ (L : List TokP) (r : RenP), (renR r L).flow.size ≤ r.flow.size + wtL L
  | [], _ => Nat.le_refl _
  | t :: L, r => by
    have h1 := renR_wt L (renT r t)
    have h2 := renT_wt r t
    rw [renR_cons, wtL]
    omega

/-! P20.1, P20.2 -/
noncomputable def extL (b : Txt) : Txt := renL (drvL (normL (dec b)))
theorem ext_eq (b : Txt) : extL b = (renR ren0 (drvP (normL (dec b)))).flow.told := by
  unfold extL renL drvL
  rw [ren_join]
theorem dec_sg (b : Txt) : validD (dec b) = true := by
  cases h : hasPrefix b markL
  · rw [dec_plain b h]; exact validD_dec0 _ b (Nat.le_refl _)
  · rw [dec_mark b h]; exact validD_dec0 _ _ (Nat.le_refl _)
theorem ext_sg (b : Txt) : validD (extL b) = true := by
  rw [ext_eq]
  exact (renR_sg _ ren0 (drvR_sg _ _ (sg_norm _ (dec_sg b))) ⟨rfl, fun c h => by cases h⟩).1
theorem ext_len (b : Txt) : (extL b).length ≤ 3 * b.length := by
  rw [ext_eq]
  have h1 := renR_wt (drvP (normL (dec b))) ren0
  have h2 : wtL (drvP (normL (dec b))) ≤ _ := drvR_wt _ _
  have h3 := cr_norm (dec b)
  have h4 := cr_dec b
  have h5 : ren0.flow.size = 0 := rfl
  have h6 : (renR ren0 (drvP (normL (dec b)))).flow.told.length ≤ (renR ren0 (drvP (normL (dec b)))).flow.size := by unfold FloP.size; omega
  omega
theorem ext_edged (b : Txt) : Edged (renR ren0 (drvL (normL (dec b)))).flow := ren_edged _
end Go.Proofs.YtpmdcppnlggckaaGreatDoor
