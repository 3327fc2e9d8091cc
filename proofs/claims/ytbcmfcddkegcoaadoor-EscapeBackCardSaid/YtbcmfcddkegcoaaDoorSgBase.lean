/-
  What is just signs stays so, cut where a byte below 128 stands, and put together: plain mathematics.
-/
import Derived.Test.YtbcmfcddkegcoaaDoorP1
import Derived.Test.YtbcmfcddkegcoaaDoorP4
namespace Go.Proofs.YtbcmfcddkegcoaaDoor
open Go.RowKit Go.Lib

abbrev Txt20 := List UInt8
theorem sg_app (a b : Txt20) (ha : validD a = true) (hb : validD b = true) : validD (a ++ b) = true := by
  rw [validD_right b a.length a (Nat.le_refl _) ha]; exact hb
theorem sg_low (c : UInt8) (t : Txt20) (h : c.toNat < 128) : validD (c :: t) = validD t := by
  have e : decodeL (c :: t) = (c.toNat, 1) := decodeL_ascii c t h
  have hk : brk (c :: t) = false := by unfold brk; rw [e]; simp; omega
  rw [validD_brk _ (by simp), hk, e]; rfl
theorem sg_all (l : Txt20) (h : ∀ c ∈ l, c.toNat < 128) : validD l = true := by
  induction l with
  | nil => rfl
  | cons c t ih => rw [sg_low c t (h c (.head _))]; exact ih (fun x hx => h x (.tail _ hx))
theorem sg_at (l : Txt20) (k : Nat) (hv : validD l = true) (h : l.drop k = [] ∨ ((l.drop k).getD 0 0).toNat < 128) : validD (l.take k) = true ∧ validD (l.drop k) = true := by
  have := validD_app (l.drop k) h (l.take k).length (l.take k) (Nat.le_refl _)
  rw [List.take_append_drop, hv] at this
  simpa using this.symm
theorem sg_behind (l : Txt20) (k : Nat) (hv : validD l = true) (h1 : 1 ≤ k) (h2 : k ≤ l.length) (h : (l.getD (k - 1) 0).toNat < 128) : validD (l.drop k) = true := by
  have hl : k - 1 < l.length := by omega
  have hd : l.drop (k - 1) = l[k - 1] :: l.drop k := by rw [List.drop_eq_getElem_cons hl, show k - 1 + 1 = k by omega]
  have hg : l.getD (k - 1) 0 = l[k - 1] := by rw [List.getD_eq_getElem?_getD, List.getElem?_eq_getElem hl]; rfl
  rw [hg] at h
  have := (sg_at l (k - 1) hv (.inr (by rw [hd]; exact h))).2
  rw [hd, sg_low _ _ h] at this
  exact this
/-- a sign's bytes, from the number 128 on, are all of them 128 at least -/
theorem enc_high (r : Nat) (h : IsSign r) (h7 : 128 ≤ r) : ∀ x ∈ encodeRune (r : Int), 128 ≤ x.toNat := by
  unfold IsSign at h
  by_cases h2 : r ≤ 2047
  · rw [encodeRune, encodeRuneZ_two (by omega) (by omega)]
    intro x hx
    simp only [List.map_cons, List.map_nil, List.mem_cons, List.not_mem_nil, or_false] at hx
    rcases hx with rfl | rfl <;> (rw [u8nat _ (by omega) (by omega)]; omega)
  by_cases h3 : r ≤ 65535
  · rw [encodeRune, encodeRuneZ_three (by omega)]
    intro x hx
    simp only [List.map_cons, List.map_nil, List.mem_cons, List.not_mem_nil, or_false] at hx
    rcases hx with rfl | rfl | rfl <;> (rw [u8nat _ (by omega) (by omega)]; omega)
  · rw [encodeRune, encodeRuneZ_four (by omega) (by omega)]
    intro x hx
    simp only [List.map_cons, List.map_nil, List.mem_cons, List.not_mem_nil, or_false] at hx
    rcases hx with rfl | rfl | rfl | rfl <;> (rw [u8nat _ (by omega) (by omega)]; omega)
theorem enc_low (r : Nat) (h7 : r < 128) : ∃ c : UInt8, encodeRune (r : Int) = [c] ∧ c.toNat = r := by
  refine ⟨(r : Int).toNat.toUInt8, ?_, ?_⟩
  · rw [encodeRune, encodeRuneZ_one (by omega) (by omega)]; rfl
  · rw [u8nat _ (by omega) (by omega)]; omega
/-- its first byte, and those behind it -/
theorem enc_tail (r : Nat) (h : IsSign r) (h7 : 128 ≤ r) : ∃ x xs, encodeRune (r : Int) = x :: xs ∧ 192 ≤ x.toNat ∧ ∀ y ∈ xs, 128 ≤ y.toNat ∧ y.toNat < 192 := by
  unfold IsSign at h
  by_cases h2 : r ≤ 2047
  · rw [encodeRune, encodeRuneZ_two (by omega) (by omega)]
    refine ⟨_, _, rfl, by rw [u8nat _ (by omega) (by omega)]; omega, fun y hy => ?_⟩
    simp only [List.map_cons, List.map_nil, List.mem_cons, List.not_mem_nil, or_false] at hy
    rw [hy, u8nat _ (by omega) (by omega)]; omega
  by_cases h3 : r ≤ 65535
  · rw [encodeRune, encodeRuneZ_three (by omega)]
    refine ⟨_, _, rfl, by rw [u8nat _ (by omega) (by omega)]; omega, fun y hy => ?_⟩
    simp only [List.map_cons, List.map_nil, List.mem_cons, List.not_mem_nil, or_false] at hy
    rcases hy with rfl | rfl <;> (rw [u8nat _ (by omega) (by omega)]; omega)
  · rw [encodeRune, encodeRuneZ_four (by omega) (by omega)]
    refine ⟨_, _, rfl, by rw [u8nat _ (by omega) (by omega)]; omega, fun y hy => ?_⟩
    simp only [List.map_cons, List.map_nil, List.mem_cons, List.not_mem_nil, or_false] at hy
    rcases hy with rfl | rfl | rfl <;> (rw [u8nat _ (by omega) (by omega)]; omega)
theorem sg_enc (m : Int) : validD (encodeRune m) = true := by
  obtain ⟨r, hr, e, -⟩ := enc_is m
  have h1 := validD_enc r hr []
  rw [List.append_nil] at h1
  rw [e, h1]; rfl
/-- what is just signs begins with a byte below 128, or with a sign of such bytes alone that are 128 at least -/
theorem sg_headR (l : Txt20) (hne : l ≠ []) (hv : validD l = true) : (∃ c t, l = c :: t ∧ c.toNat < 128 ∧ validD t = true) ∨ (∃ (r : Nat) (t : Txt20), l = encodeRune (r : Int) ++ t ∧ IsSign r ∧ 128 ≤ r ∧ validD t = true) := by
  rw [validD_brk l hne] at hv
  cases hk : brk l with
  | true => rw [hk] at hv; simp at hv
  | false =>
    rw [hk, if_neg (by simp)] at hv
    have he := head_enc l hne hk
    have hs := decodeL_sign l hne
    by_cases h7 : (decodeL l).1 < 128
    · obtain ⟨c, e1, e2⟩ := enc_low _ h7
      rw [e1] at he
      exact .inl ⟨c, _, he, by omega, hv⟩
    · exact .inr ⟨_, _, he, hs, by omega, hv⟩
theorem sg_head (l : Txt20) (hne : l ≠ []) (hv : validD l = true) : (∃ c t, l = c :: t ∧ c.toNat < 128 ∧ validD t = true) ∨ (∃ e t, l = e ++ t ∧ e ≠ [] ∧ validD e = true ∧ (∀ x ∈ e, 128 ≤ x.toNat) ∧ validD t = true) := by
  rcases sg_headR l hne hv with h | ⟨r, t, e, h1, h2, h3⟩
  · exact .inl h
  · exact .inr ⟨_, t, e, enc_ne _, sg_enc _, enc_high r h1 h2, h3⟩
theorem sg_indR {M : Txt20 → Prop} (h0 : M []) (hlow : ∀ c t, c.toNat < 128 → validD t = true → M t → M (c :: t)) (hhigh : ∀ (r : Nat) (t : Txt20), IsSign r → 128 ≤ r → validD t = true → M t → M (encodeRune (r : Int) ++ t)) :
    ∀ (n : Nat) (l : Txt20), l.length ≤ n → validD l = true → M l
  | n, [], _, _ => h0
  | 0, c :: t, h, _ => absurd h (by simp)
  | n + 1, c :: t, h, hv => by
    rcases sg_headR (c :: t) (by simp) hv with ⟨d, u, e, h7, hu⟩ | ⟨r, u, he, h1, h2, hu⟩
    · rw [e]
      have : u.length ≤ n := by rw [e, List.length_cons] at h; omega
      exact hlow d u h7 hu (sg_indR h0 hlow hhigh n u this hu)
    · rw [he]
      have hp := (enc_len (r : Int)).1
      have : u.length ≤ n := by rw [he, List.length_append] at h; omega
      exact hhigh r u h1 h2 hu (sg_indR h0 hlow hhigh n u this hu)
theorem sg_ind {M : Txt20 → Prop} (h0 : M []) (hlow : ∀ c t, c.toNat < 128 → validD t = true → M t → M (c :: t)) (hhigh : ∀ e t, e ≠ [] → validD e = true → (∀ x ∈ e, 128 ≤ x.toNat) → validD t = true → M t → M (e ++ t))
    (n : Nat) (l : Txt20) (h : l.length ≤ n) (hv : validD l = true) : M l :=
  sg_indR h0 hlow (fun r t h1 h2 h3 h4 => hhigh _ t (enc_ne _) (sg_enc _) (enc_high r h1 h2) h3 h4) n l h hv
theorem high_not (e : Txt20) (h : ∀ x ∈ e, 128 ≤ x.toNat) (c : UInt8) (hc : c.toNat < 128) : c ∉ e := fun hm => by
  have := h c hm; omega

theorem enc_nz (m : Int) (h : m ≠ 0) : 0 ∉ encodeRune m := by
  obtain ⟨r, hr, e, h1⟩ := enc_is m
  have hr0 : r ≠ 0 := by rcases h1 with ⟨-, -, h2⟩ | ⟨-, h2⟩ <;> omega
  rw [e]
  by_cases h7 : r < 128
  · obtain ⟨c, e1, e2⟩ := enc_low r h7
    rw [e1, List.mem_singleton]
    rintro rfl
    exact hr0 (by rw [← e2]; rfl)
  · exact high_not _ (enc_high r hr (by omega)) 0 (by decide)
theorem sg_clean (l : Txt20) (hv : validD l = true) : validD (cleanL l) = true := by
  refine sg_ind (M := fun l => validD (cleanL l) = true) rfl (fun c t h7 _ ih => ?_) (fun e t _ h1 h2 _ ih => ?_) l.length l (Nat.le_refl _) hv
  · rw [cleanL]
    split
    · exact (validD_bad (cleanL t)).trans ih
    · rw [sg_low _ _ h7]; exact ih
  · rw [cleanL_app, cleanL_same e (high_not e h2 0 (by decide))]
    exact sg_app _ _ h1 ih
theorem sg_norm (l : Txt20) (hv : validD l = true) : validD (normL l) = true := by
  refine sg_ind (M := fun l => validD (normL l) = true) rfl (fun c t h7 _ ih => ?_) (fun e t hne h1 h2 _ ih => ?_) l.length l (Nat.le_refl _) hv
  · rw [normL]
    split
    · rw [sg_low _ _ h7]; exact ih
    · split
      · exact ih
      · rw [sg_low _ _ (by decide)]; exact ih
  · rw [normL_app e t (fun hx => high_not e h2 13 (by decide) (List.mem_of_getLast? hx.1)), normL_same e (high_not e h2 13 (by decide))]
    exact sg_app _ _ h1 ih
end Go.Proofs.YtbcmfcddkegcoaaDoor
