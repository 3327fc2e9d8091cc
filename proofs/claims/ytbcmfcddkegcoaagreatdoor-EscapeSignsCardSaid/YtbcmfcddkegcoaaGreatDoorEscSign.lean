/-
  What is written of just signs: plain mathematics.
-/
import Derived.Test.YtbcmfcddkegcoaaGreatDoorSG
import Derived.Test.YtbcmfcddkegcoaaGreatDoorEscMath
namespace Go.Proofs.YtbcmfcddkegcoaaGreatDoor
open Go.RowKit Go.Lib

theorem high_bad (c : UInt8) (h : 128 ≤ c.toNat) : badB c = false ∧ c ≠ 38 := by
  have hn : ∀ d : UInt8, d.toNat < 128 → c ≠ d := fun d hd e => by rw [e] at h; omega
  refine ⟨?_, hn 38 (by decide)⟩
  unfold badB
  simp [hn 60 (by decide), hn 62 (by decide), hn 34 (by decide), hn 39 (by decide), hn 0 (by decide), hn 13 (by decide)]
theorem mark_enc : encodeRune ((65279 : Nat) : Int) = markL := by decide
/-- no mark stands where another sign does -/
theorem sign_mark (r : Nat) (h : IsSign r) (h9 : r ≠ 65279) (t : Txt20) : hasPrefix (encodeRune (r : Int) ++ t) markL = false := by
  rw [Bool.eq_false_iff]
  intro hp
  obtain ⟨u, hu⟩ := (hasMark _).1 hp
  have e := decodeL_enc r h t
  rw [hu, mark_dec] at e
  exact h9 (congrArg Prod.fst e).symm
theorem encL_sign (r : Nat) (h : IsSign r) (h7 : 128 ≤ r) (h9 : r ≠ 65279) (t : Txt20) : encL (encodeRune (r : Int) ++ t) = encodeRune (r : Int) ++ encL t := by
  have hm := sign_mark r h h9 t
  obtain ⟨x, xs, e, h1, h2⟩ := enc_tail r h h7
  rw [e] at hm ⊢
  rw [List.cons_append] at hm ⊢
  unfold hasPrefix at hm
  obtain ⟨b1, b2⟩ := high_bad x (by omega)
  rw [encL_step x _ hm, encB_same x b1 b2, encL_same xs (fun y hy => by
    obtain ⟨g1, g2⟩ := h2 y hy
    obtain ⟨b3, b4⟩ := high_bad y g1
    exact ⟨b3, b4, fun e => by rw [e] at g2; exact absurd g2 (by decide)⟩) t]
  rfl
theorem encB_sg (c : UInt8) (h : c.toNat < 128) : validD (encB c) = true := by
  unfold encB
  repeat' split
  all_goals first | decide | skip
  exact sg_all _ fun d hd => by rw [List.mem_singleton.1 hd]; exact h
theorem low_239 (c : UInt8) (h : c.toNat < 128) : c ≠ 239 := fun e => by rw [e] at h; exact absurd h (by decide)
theorem encL_sg (l : Txt20) (hv : validD l = true) : validD (encL l) = true := by
  refine sg_indR (M := fun l => validD (encL l) = true) rfl (fun c t h7 _ ih => ?_) (fun r t h1 h2 _ ih => ?_) l.length l (Nat.le_refl _) hv
  · rw [encL_low c t (low_239 c h7)]
    exact sg_app _ _ (encB_sg c h7) ih
  · by_cases h9 : r = 65279
    · rw [h9, mark_enc, encL_mark]
      exact sg_app _ _ (by decide) ih
    · rw [encL_sign r h1 h2 h9]
      exact sg_app _ _ (sg_enc _) ih
/-- no mark at its beginning -/
theorem encL_bare (l : Txt20) (hv : validD l = true) : hasPrefix (encL l) markL = false := by
  have hlow : ∀ (c : UInt8) (u : Txt20), c ≠ 239 → hasPrefix (c :: u) markL = false := fun c u h => mark_no c u h
  by_cases hne : l = []
  · subst hne; decide
  · rcases sg_headR l hne hv with ⟨c, t, rfl, h7, -⟩ | ⟨r, t, rfl, h1, h2, -⟩
    · rw [encL_low c t (low_239 c h7)]
      unfold encB
      repeat' split
      all_goals first | exact hlow _ _ (by decide) | skip
      · rw [Bool.eq_false_iff]; intro e
        obtain ⟨u, hu⟩ := (hasMark _).1 e
        exact absurd (List.cons.inj (List.cons.inj hu).2).1 (by decide)
      · exact hlow _ _ (low_239 c h7)
    · by_cases h9 : r = 65279
      · rw [h9, mark_enc, encL_mark]
        exact hlow _ _ (by decide)
      · rw [encL_sign r h1 h2 h9]
        exact sign_mark r h1 h9 _
theorem encD_bytes (d : Int) (hd : 0 ≤ d ∧ d ≤ 2) (l : Txt20) (hv : validD l = true) : validD (encD d l) = true ∧ dec (encD d l) = encD d l ∧ normL (encD d l) = encD d l ∧ cleanL (encD d l) = encD d l := by
  have h1 := encL_sg l hv
  have h2 := encL_bare l hv
  have hp := encD_plain d l
  have hno : ∀ c : UInt8, badB c = true → c ∉ encD d l := fun c hc hm => by rw [hp c hm] at hc; cases hc
  rw [encD_in d l hd] at hno ⊢
  have h3 : validD ((if d = 2 ∧ l.head? = some 10 then [10] else []) ++ encL l) = true := by
    split
    · exact sg_app _ _ (by decide) h1
    · exact h1
  have h4 : hasPrefix ((if d = 2 ∧ l.head? = some 10 then [10] else []) ++ encL l) markL = false := by
    split
    · exact mark_no 10 _ (by decide)
    · exact h2
  exact ⟨h3, by rw [dec_plain _ h4, dec0_same _ h3], normL_same _ (hno 13 (by decide)), cleanL_same _ (hno 0 (by decide))⟩
/-! unlike texts are written unlike -/
end Go.Proofs.YtbcmfcddkegcoaaGreatDoor
