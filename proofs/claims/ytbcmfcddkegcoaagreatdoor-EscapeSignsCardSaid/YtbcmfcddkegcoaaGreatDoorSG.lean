/-
  Texts laid together: SgBase, SgMath, CrMath, ExtMath, ExtSize.
-/
import Derived.Test.YtbcmfcddkegcoaaGreatDoorP1
import Derived.Test.YtbcmfcddkegcoaaGreatDoorP4
import Derived.Test.YtbcmfcddkegcoaaGreatDoorDA
import Derived.Test.YtbcmfcddkegcoaaGreatDoorRA
/-! What is just signs stays so, cut where a byte below 128 stands, and put together: plain mathematics. -/
namespace Go.Proofs.YtbcmfcddkegcoaaGreatDoor
open Go.RowKit Go.Lib

abbrev Txt20 := List UInt8
theorem sg_app (a b : Txt20) (ha : validD a = true) (hb : validD b = true) : validD (a ++ b) = true := by
  rw [validD_right b a.length a (Nat.le_refl _) ha]; exact hb
theorem sg_low (c : UInt8) (t : Txt20) (h : c.toNat < 128) : validD (c :: t) = validD t := by
  have e : decodeL (c :: t) = (c.toNat, 1) := decodeL_ascii c t h
  have hk : brk (c :: t) = false := by unfold brk; rw [e]; simp; omega
  rw [validD_brk _ (by simp), hk, e]; rfl
theorem sg_all (l : Txt20) (h : ∀ c ∈ l, c.toNat < 128) : validD l = true := by
  induction l with
  | nil => rfl
  | cons c t ih => rw [sg_low c t (h c (.head _))]; exact ih (fun x hx => h x (.tail _ hx))
/-- a sign's bytes, from the number 128 on, are all of them 128 at least -/
theorem enc_high (r : Nat) (h : IsSign r) (h7 : 128 ≤ r) : ∀ x ∈ encodeRune (r : Int), 128 ≤ x.toNat := by
  unfold IsSign at h
  by_cases h2 : r ≤ 2047
  · rw [encodeRune, encodeRuneZ_two (by omega) (by omega)]
    intro x hx
    simp only [List.map_cons, List.map_nil, List.mem_cons, List.not_mem_nil, or_false] at hx
    rcases hx with rfl | rfl <;> (rw [u8nat _ (by omega) (by omega)]; omega)
  by_cases h3 : r ≤ 65535
  · rw [encodeRune, encodeRuneZ_three (by omega)]
    intro x hx
    simp only [List.map_cons, List.map_nil, List.mem_cons, List.not_mem_nil, or_false] at hx
    rcases hx with rfl | rfl | rfl <;> (rw [u8nat _ (by omega) (by omega)]; omega)
  · rw [encodeRune, encodeRuneZ_four (by omega) (by omega)]
    intro x hx
    simp only [List.map_cons, List.map_nil, List.mem_cons, List.not_mem_nil, or_false] at hx
    rcases hx with rfl | rfl | rfl | rfl <;> (rw [u8nat _ (by omega) (by omega)]; omega)
theorem enc_low (r : Nat) (h7 : r < 128) : ∃ c : UInt8, encodeRune (r : Int) = [c] ∧ c.toNat = r := by
  refine ⟨(r : Int).toNat.toUInt8, ?_, ?_⟩
  · rw [encodeRune, encodeRuneZ_one (by omega) (by omega)]; rfl
  · rw [u8nat _ (by omega) (by omega)]; omega
/-- its first byte, and those behind it -/
theorem enc_tail (r : Nat) (h : IsSign r) (h7 : 128 ≤ r) : ∃ x xs, encodeRune (r : Int) = x :: xs ∧ 192 ≤ x.toNat ∧ ∀ y ∈ xs, 128 ≤ y.toNat ∧ y.toNat < 192 := by
  unfold IsSign at h
  by_cases h2 : r ≤ 2047
  · rw [encodeRune, encodeRuneZ_two (by omega) (by omega)]
    refine ⟨_, _, rfl, by rw [u8nat _ (by omega) (by omega)]; omega, fun y hy => ?_⟩
    simp only [List.map_cons, List.map_nil, List.mem_cons, List.not_mem_nil, or_false] at hy
    rw [hy, u8nat _ (by omega) (by omega)]; omega
  by_cases h3 : r ≤ 65535
  · rw [encodeRune, encodeRuneZ_three (by omega)]
    refine ⟨_, _, rfl, by rw [u8nat _ (by omega) (by omega)]; omega, fun y hy => ?_⟩
    simp only [List.map_cons, List.map_nil, List.mem_cons, List.not_mem_nil, or_false] at hy
    rcases hy with rfl | rfl <;> (rw [u8nat _ (by omega) (by omega)]; omega)
  · rw [encodeRune, encodeRuneZ_four (by omega) (by omega)]
    refine ⟨_, _, rfl, by rw [u8nat _ (by omega) (by omega)]; omega, fun y hy => ?_⟩
    simp only [List.map_cons, List.map_nil, List.mem_cons, List.not_mem_nil, or_false] at hy
    rcases hy with rfl | rfl | rfl <;> (rw [u8nat _ (by omega) (by omega)]; omega)
theorem sg_enc (m : Int) : validD (encodeRune m) = true := by
  obtain ⟨r, hr, e, -⟩ := enc_is m
  have h1 := validD_enc r hr []
  rw [List.append_nil] at h1
  rw [e, h1]; rfl
/-- what is just signs begins with a byte below 128, or with a sign of such bytes alone that are 128 at least -/
theorem sg_headR (l : Txt20) (hne : l ≠ []) (hv : validD l = true) : (∃ c t, l = c :: t ∧ c.toNat < 128 ∧ validD t = true) ∨ (∃ (r : Nat) (t : Txt20), l = encodeRune (r : Int) ++ t ∧ IsSign r ∧ 128 ≤ r ∧ validD t = true) := by
  rw [validD_brk l hne] at hv
  cases hk : brk l with
  | true => rw [hk] at hv; simp at hv
  | false =>
    rw [hk, if_neg (by simp)] at hv
    have he := head_enc l hne hk
    have hs := decodeL_sign l hne
    by_cases h7 : (decodeL l).1 < 128
    · obtain ⟨c, e1, e2⟩ := enc_low _ h7
      rw [e1] at he
      exact .inl ⟨c, _, he, by omega, hv⟩
    · exact .inr ⟨_, _, he, hs, by omega, hv⟩
theorem sg_indR {M : Txt20 → Prop} (h0 : M []) (hlow : ∀ c t, c.toNat < 128 → validD t = true → M t → M (c :: t)) (hhigh : ∀ (r : Nat) (t : Txt20), IsSign r → 128 ≤ r → validD t = true → M t → M (encodeRune (r : Int) ++ t)) :
    ∀ (n : Nat) (l : Txt20), l.length ≤ n → validD l = true → M l
  | n, [], _, _ => h0
  | 0, c :: t, h, _ => absurd h (by simp)
  | n + 1, c :: t, h, hv => by
    rcases sg_headR (c :: t) (by simp) hv with ⟨d, u, e, h7, hu⟩ | ⟨r, u, he, h1, h2, hu⟩
    · rw [e]
      have : u.length ≤ n := by rw [e, List.length_cons] at h; omega
      exact hlow d u h7 hu (sg_indR h0 hlow hhigh n u this hu)
    · rw [he]
      have hp := (enc_len (r : Int)).1
      have : u.length ≤ n := by rw [he, List.length_append] at h; omega
      exact hhigh r u h1 h2 hu (sg_indR h0 hlow hhigh n u this hu)
theorem high_not (e : Txt20) (h : ∀ x ∈ e, 128 ≤ x.toNat) (c : UInt8) (hc : c.toNat < 128) : c ∉ e := fun hm => by
  have := h c hm; omega

theorem enc_nz (m : Int) (h : m ≠ 0) : 0 ∉ encodeRune m := by
  obtain ⟨r, hr, e, h1⟩ := enc_is m
  have hr0 : r ≠ 0 := by rcases h1 with ⟨-, -, h2⟩ | ⟨-, h2⟩ <;> omega
  rw [e]
  by_cases h7 : r < 128
  · obtain ⟨c, e1, e2⟩ := enc_low r h7
    rw [e1, List.mem_singleton]
    rintro rfl
    exact hr0 (by rw [← e2]; rfl)
  · exact high_not _ (enc_high r hr (by omega)) 0 (by decide)
end Go.Proofs.YtbcmfcddkegcoaaGreatDoor

/-! What pieces tell is just signs, with references read: plain mathematics. -/
namespace Go.Proofs.YtbcmfcddkegcoaaGreatDoor
open Go.RowKit Go.Lib

theorem fix_nz (n : Int) : fixN n ≠ 0 := by
  unfold fixN
  by_cases h : n = 0
  · rw [if_pos h]; decide
  · rw [if_neg h]
    by_cases h1 : 128 ≤ n ∧ n < 160
    · rw [if_pos h1]
      obtain ⟨k, hk⟩ : ∃ k : Nat, (n - 128).toNat = k := ⟨_, rfl⟩
      rw [hk]
      have hk2 : k < 32 := by omega
      exact (show ∀ k, k < 32 → tabL.getD k 0 ≠ 0 by decide) k hk2
    · rw [if_neg h1]; exact h
theorem step_pos : ∀ (l : Txt) (n : Nat), 0 < n → 0 < l.foldl stepH n
  | [], _, h => h
  | c :: l, n, h => by
    rw [List.foldl_cons]
    exact step_pos l _ (by unfold stepH; omega)
theorem hex_pos : ∀ (l : Txt) (n : Nat), (∀ c ∈ l, hexB c = true) → (∃ c ∈ l, c ≠ 48) → 0 < l.foldl stepH n
  | [], _, _, ⟨c, h, _⟩ => by cases h
  | d :: l, n, hx, ⟨c, hc, h48⟩ => by
    rw [List.foldl_cons]
    have h1 := hexB_int d (hx d (.head _))
    by_cases hd : d = 48
    · rcases List.mem_cons.1 hc with h | h
      · exact absurd (h.trans hd) h48
      · exact hex_pos l _ (fun x hx' => hx x (.tail _ hx')) ⟨c, h, h48⟩
    · refine step_pos l _ ?_
      have h2 : d.toNat ≠ 48 := fun e => hd (UInt8.toNat_inj.1 e)
      unfold stepH
      rcases h1.2.2.2.2 with ⟨a, b, e⟩ | ⟨a, b, e⟩ <;> omega
theorem a_pos (q : Txt) (h : (nmLook q).isSome = true) : aOf (nmLook q) ≠ 0 := by
  obtain ⟨r, hr⟩ := Option.isSome_iff_exists.1 h
  have hrow := nm_row _ (look_row hr)
  have := hex_pos (firL r) 0 hrow.firHex hrow.firPos
  rw [hr]
  show hexN (firL r) ≠ 0
  unfold hexN; omega
theorem text_sg (q : Txt) (h : (nmLook q).isSome = true) : validD (textL (aOf (nmLook q)) (bOf (nmLook q))) = true ∧ 0 ∉ textL (aOf (nmLook q)) (bOf (nmLook q)) := by
  have ha := a_pos q h
  unfold textL
  by_cases hb : bOf (nmLook q) = 0
  · rw [if_pos hb, List.append_nil]
    exact ⟨sg_enc _, enc_nz _ (by omega)⟩
  · rw [if_neg hb]
    refine ⟨sg_app _ _ (sg_enc _) (sg_enc _), ?_⟩
    rw [List.mem_append, not_or]
    exact ⟨enc_nz _ (by omega), enc_nz _ (by omega)⟩

/-! references -/
theorem tw_mem (p : UInt8 → Bool) : ∀ (l : Txt) (x : UInt8), x ∈ l.takeWhile p → p x = true
  | [], x, h => by cases h
  | c :: l, x, h => by
    rw [List.takeWhile_cons] at h
    split at h
    · rename_i hc
      rcases List.mem_cons.1 h with rfl | h
      · exact hc
      · exact tw_mem p l x h
    · cases h
theorem dig_low (b : Nat) (c : UInt8) (h : isDig b c = true) : c.toNat < 128 := by
  unfold isDig at h
  rw [decide_eq_true_iff] at h
  have h1 := h.1
  unfold hexI at h1
  split at h1
  · omega
  · split at h1
    · omega
    · split at h1 <;> omega
theorem word_low (c : UInt8) (h : wordN c = true) : c.toNat < 128 ∧ 48 ≤ c.toNat := by
  unfold wordN at h
  simp only [Bool.or_eq_true, Bool.and_eq_true, Nat.ble_eq] at h
  omega
theorem getD_of (l : Txt) (i : Nat) (h : i < l.length) : l.getD i 0 = l[i] := by rw [List.getD_eq_getElem?_getD, List.getElem?_eq_getElem h]; rfl
/-- what a reference is read of are bytes below 128 -/
theorem ref_low (z : Txt) : ∀ x ∈ z.take (refM z), x.toNat < 128 := by
  intro x hx
  unfold refM at hx
  by_cases h : isRef z 0 = true
  · rw [if_pos h] at hx
    obtain ⟨i, hi, rfl⟩ := List.getElem_of_mem hx
    rw [List.length_take] at hi
    rw [List.getElem_take]
    have hlen : i < z.length := by omega
    have hend : i < endN z 0 := by omega
    unfold isRef at h
    rw [decide_eq_true_iff] at h
    obtain ⟨-, h35, -⟩ := h
    rw [show (0 : Int).toNat = 0 from rfl] at h35
    rw [endN_eq] at hend
    rw [← getD_of z i hlen]
    by_cases h0 : i = 0
    · subst h0; rw [h35]; decide
    by_cases hfr : i < fromN z 0
    · unfold fromN at hfr
      by_cases hX : isX z (0 + 1) = true
      · rw [if_pos hX] at hfr
        obtain rfl : i = 1 := by omega
        unfold isX at hX
        rw [decide_eq_true_iff, Nat.zero_add] at hX
        rcases hX with e | e <;> (rw [e]; decide)
      · rw [if_neg hX] at hfr; omega
    · by_cases hd : i < fromN z 0 + (digsAt z 0).length
      · obtain ⟨j, rfl⟩ : ∃ j, i = fromN z 0 + j := ⟨i - fromN z 0, by omega⟩
        have hj : j < (digsAt z 0).length := by omega
        have h1 : (digsAt z 0)[j] ∈ digsAt z 0 := List.getElem_mem hj
        have h2 : (digsAt z 0)[j] = (z.drop (fromN z 0))[j]'(by rw [List.length_drop]; omega) := by
          have hp : digsAt z 0 <+: z.drop (fromN z 0) := List.takeWhile_prefix _
          exact hp.getElem hj
        rw [List.getElem_drop] at h2
        rw [getD_of z _ hlen, ← h2]
        exact dig_low _ _ (tw_mem (isDig (baseN (isX z (0 + 1)))) _ _ h1)
      · split at hend
        · rename_i h59
          obtain rfl : i = fromN z 0 + (digsAt z 0).length := by omega
          rw [h59]; decide
        · omega
  · rw [if_neg h] at hx
    rcases best_mem nmRows z with h0 | ⟨r, hr, hp, e⟩
    · rw [h0] at hx; cases hx
    · rw [e, ← List.prefix_iff_eq_take.1 hp] at hx
      rcases key_byte r hr x hx with h1 | h1
      · exact (word_low x h1).1
      · rw [h1]; decide
theorem best_nz (z : Txt) : 0 ∉ z.take (bestL nmRows z) := fun hx => by
  rcases best_mem nmRows z with h0 | ⟨r, hr, hp, e⟩
  · rw [h0] at hx; cases hx
  · rw [e, ← List.prefix_iff_eq_take.1 hp] at hx
    rcases key_byte r hr 0 hx with h1 | h1
    · exact absurd h1 (by decide)
    · exact absurd h1 (by decide)
/-- what a reference tells is just signs, without the byte 0 -/
theorem refT_sg (z : Txt) (attr : Bool) : validD (refT z attr) = true ∧ 0 ∉ refT z attr := by
  unfold refT
  by_cases h : isRef z 0 = true
  · rw [if_pos h]
    exact ⟨sg_enc _, enc_nz _ (fix_nz _)⟩
  · rw [if_neg h]
    by_cases h0 : bestL nmRows z = 0
    · rw [if_pos h0]; exact ⟨by decide, by decide⟩
    · rw [if_neg h0]
      by_cases hk : keepB z attr = true
      · rw [if_pos hk]
        have h1 := ref_low z
        unfold refM at h1
        rw [if_neg h] at h1
        refine ⟨sg_all _ fun c hc => ?_, ?_⟩
        · rcases List.mem_cons.1 hc with rfl | hc
          · decide
          · exact h1 c hc
        · rw [List.mem_cons, not_or]
          exact ⟨by decide, best_nz z⟩
      · rw [if_neg hk]
        exact text_sg _ (best_is z h0).1
/-! pieces -/
/-! what is told of pieces: joined it is the same -/
theorem renT_none (r : RenP) : renT r (txtT []) = r := by
  rw [renT_text r (txtT []) rfl]
  split
  · rename_i h
    obtain ⟨o, k, f⟩ := r
    simp only at h
    subst h; rfl
  · rfl
theorem renT_two (r : RenP) (x : Txt) (t : TokP) (h : t.kind = 0) : renT (renT r (txtT x)) t = renT r (txtT (x ++ t.text)) := by
  rw [renT_text r (txtT x) rfl, renT_text r (txtT (x ++ t.text)) rfl]
  by_cases ho : r.opn = []
  · rw [if_pos ho, if_pos ho, renT_text _ t h, if_pos rfl]
    show (⟨[], r.kept, putL _ (putL _ r.flow x) t.text⟩ : RenP) = _
    rw [← putL_app]; rfl
  · rw [if_neg ho, if_neg ho, renT_text r t h, if_neg ho]
theorem ren_emit (r : RenP) (x : Txt) : renR r (emitT x) = renT r (txtT x) := by
  unfold emitT
  split
  · rename_i h
    rw [h, renT_none]; rfl
  · rfl
theorem ren_joinA : ∀ (L : List TokP) (x : Txt) (r : RenP), renR r (joinA x L) = renR (renT r (txtT x)) L
  | [], x, r => by rw [joinA, ren_emit]; rfl
  | t :: L, x, r => by
    rw [joinA, renR_cons]
    split
    · rename_i h
      rw [ren_joinA L, renT_two r x t h]
    · rw [renR_app, ren_emit, renR_cons, ren_joinA L [], renT_none]
theorem ren_join (L : List TokP) (r : RenP) : renR r (joinL L) = renR r L := by
  unfold joinL
  rw [ren_joinA, renT_none]
end Go.Proofs.YtbcmfcddkegcoaaGreatDoor

/-! What bytes say has at most three times as many: each byte below 128 counts three, each other one: plain mathematics. -/
namespace Go.Proofs.YtbcmfcddkegcoaaGreatDoor
open Go.RowKit Go.Lib

def crB (c : UInt8) : Nat := if c.toNat < 128 then 3 else 1
def crL : Txt → Nat
  | [] => 0
  | c :: t => crB c + crL t
theorem cr_app : ∀ a b : Txt, crL (a ++ b) = crL a + crL b
  | [], b => by rw [List.nil_append]; simp [crL]
  | c :: a, b => by rw [List.cons_append, crL, crL, cr_app a b]; omega
theorem cr_cut (l : Txt) (n : Nat) : crL l = crL (l.take n) + crL (l.drop n) := by rw [← cr_app, List.take_append_drop]
theorem cr_more : ∀ l : Txt, l.length ≤ crL l ∧ crL l ≤ 3 * l.length
  | [] => ⟨Nat.le_refl _, Nat.le_refl _⟩
  | c :: t => by
    have h := cr_more t
    have h1 : 1 ≤ crB c ∧ crB c ≤ 3 := by unfold crB; split <;> omega
    rw [crL, List.length_cons]; omega
theorem cr_low : ∀ l : Txt, (∀ c ∈ l, c.toNat < 128) → crL l = 3 * l.length
  | [], _ => rfl
  | c :: t, h => by
    have h1 : crB c = 3 := if_pos (h c (.head _))
    rw [crL, List.length_cons, h1, cr_low t (fun x hx => h x (.tail _ hx))]; omega
theorem cr_dec0 : ∀ (n : Nat) (l : Txt), l.length ≤ n → crL (dec0 l) ≤ 3 * l.length
  | 0, l, h => by
    have : l = [] := List.eq_nil_of_length_eq_zero (by omega)
    subst this; simp [dec0_nil, crL]
  | n + 1, l, h => by
    by_cases hne : l = []
    · subst hne; simp [dec0_nil, crL]
    · have hl : 0 < l.length := List.length_pos_iff.2 hne
      have hw := decodeL_width l
      have hwl := width_le l hne
      have hb := begL_ge l
      rw [dec0_step l hne]
      cases hk : brk l with
      | true =>
        rw [if_pos rfl, cr_app]
        have h1 := cr_dec0 n (l.drop (begL l)) (by rw [List.length_drop]; omega)
        rw [List.length_drop] at h1
        have h2 : crL badL = 3 := by decide
        omega
      | false =>
        rw [if_neg (by simp), cr_app]
        have h1 := cr_dec0 n (l.drop (decodeL l).2) (by rw [List.length_drop]; omega)
        have h2 := (cr_more (l.take (decodeL l).2)).2
        rw [List.length_drop] at h1
        rw [List.length_take] at h2
        omega
theorem cr_dec (l : Txt) : crL (dec l) ≤ 3 * l.length := by
  cases h : hasPrefix l markL
  · rw [dec_plain l h]; exact cr_dec0 _ l (Nat.le_refl _)
  · rw [dec_mark l h]
    have := cr_dec0 _ (l.drop 3) (Nat.le_refl _)
    rw [List.length_drop] at this
    omega
theorem cr_clean : ∀ l : Txt, (cleanL l).length ≤ crL l
  | [] => Nat.le_refl _
  | c :: r => by
    have ih := cr_clean r
    have h1 : 1 ≤ crB c := by unfold crB; split <;> omega
    rw [cleanL, crL]
    split
    · rename_i h
      have : crB c = 3 := by rw [h]; decide
      simp only [List.length_cons]; omega
    · rw [List.length_cons]; omega
theorem cr_dd (attr : Bool) : ∀ (n : Nat) (l : Txt), l.length ≤ n → (cleanL (ddL attr l)).length ≤ crL l
  | _, [], _ => Nat.le_refl _
  | 0, c :: z, h => absurd h (by simp)
  | n + 1, c :: z, h => by
    rw [List.length_cons] at h
    have h1 : 1 ≤ crB c := by unfold crB; split <;> omega
    by_cases hc : c = 38
    · subst hc
      have ih := cr_dd attr n (z.drop (refM z)) (by rw [List.length_drop]; omega)
      have h2 := (refT_len z attr).2
      have h3 := cr_cut z (refM z)
      have h4 := cr_low (z.take (refM z)) (ref_low z)
      have h5 := refM_le z
      have h6 : crB 38 = 3 := by decide
      rw [List.length_take] at h4
      rw [dd_amp, cleanL_app, cleanL_same _ (refT_sg z attr).2, List.length_append, crL]
      omega
    · have ih := cr_dd attr n z (by omega)
      rw [dd_plain attr c z hc, cleanL, crL]
      split
      · rename_i h0
        have : crB c = 3 := by rw [h0]; decide
        simp only [List.length_cons]; omega
      · rw [List.length_cons]; omega
theorem cr_raw (refs : Bool) (l : Txt) : (rawT refs l).length ≤ crL l := by
  unfold rawT
  split
  · exact cr_dd false _ l (Nat.le_refl _)
  · exact cr_clean l
theorem cr_read (l : Txt) : (ddL false l).length ≤ crL l :=
  Nat.le_trans (cleanL_len _).1 (cr_dd false _ l (Nat.le_refl _))

/-! pieces -/
/-- how much a piece may tell -/
def wtT (t : TokP) : Nat := if t.kind = 0 then t.text.length else if t.kind = 1 ∨ t.kind = 2 then 2 else 0
def wtL : List TokP → Nat
  | [] => 0
  | t :: L => wtT t + wtL L
theorem wt_app : ∀ a b : List TokP, wtL (a ++ b) = wtL a + wtL b
  | [], b => by rw [List.nil_append]; simp [wtL]
  | c :: a, b => by rw [List.cons_append, wtL, wtL, wt_app a b]; omega
theorem wt_emit (x : Txt) : wtL (emitT x) = x.length := by
  unfold emitT
  split
  · rename_i h; rw [h]; rfl
  · rfl
theorem wt_tag (l : Txt) (t : TokP) (n : Nat) (hr : tagR l = some (t, n)) : wtT t ≤ crL (l.take n) := by
  obtain ⟨h1, h2, -⟩ := tag_ends l t n hr
  have hb : begT l ≠ 0 ∨ begT l = 0 := by omega
  have h3 : wtT t ≤ 2 := by
    unfold wtT
    split
    · rw [tag_text l t n hr]; exact Nat.zero_le _
    · split <;> omega
  have h4 := (cr_more (l.take n)).1
  rw [List.length_take] at h4
  have h5 : 1 ≤ n := by omega
  rcases Nat.lt_or_ge n 2 with h6 | h6
  · obtain rfl : n = 1 := by omega
    have h7 := (tag_ends l t 1 hr).2.2.1
    have hl : 0 < l.length := by omega
    rw [getD_of l 0 hl] at h7
    have h8 : l.take 1 = [l[0]] := by
      cases l with
      | nil => simp at hl
      | cons c l => rfl
    rw [h8, h7]
    have : crL [62] = 3 := by decide
    omega
  · omega
theorem nx_wt (l : Txt) : (if (nx l).2.2 = true then wtT (nx l).1 else 0) ≤ crL (l.take (nx l).2.1) := by
  rcases nx_cases l with ⟨h, -, e⟩ | ⟨h, t, n, hr, e⟩ | ⟨-, h, e⟩ | ⟨-, -, h, e⟩ | ⟨-, -, -, h, e⟩ | ⟨-, -, -, -, -, -, h, e⟩ | ⟨-, -, -, -, -, h, e⟩
  all_goals rw [e]; simp only
  · exact Nat.zero_le _
  · exact wt_tag l t n hr
  · exact Nat.zero_le _
  · exact Nat.zero_le _
  · exact Nat.zero_le _
  · exact Nat.zero_le _
  · exact cr_read _
theorem rest_wt (st : Int) (nm l : Txt) : wtL (restK st nm l).1 ≤ crL (l.take (restK st nm l).2) := by
  have hle := endN_le st nm l
  have h1 : (saysR st nm l).length ≤ crL (l.take (endN15 st nm l)) := cr_raw _ _
  have h2 := cr_cut l (endN15 st nm l)
  have h3 : wtL (emitT (saysR st nm l)) ≤ crL (l.take l.length) := by
    rw [wt_emit, List.take_length]; omega
  unfold restK
  split
  · split
    · exact h3
    · split
      · cases hr : tagR (l.drop (endN15 st nm l)) with
        | none => exact h3
        | some r =>
          obtain ⟨t, n⟩ := r
          have h4 := wt_tag _ t n hr
          show wtL (emitT (saysR st nm l) ++ [t]) ≤ crL (l.take (endN15 st nm l + n))
          rw [wt_app, wt_emit, List.take_add, cr_app]
          show _ + (wtT t + 0) ≤ _
          omega
      · rw [wt_emit]; exact h1
  · exact Nat.zero_le _
theorem drvR_wt : ∀ (f : Nat) (l : Txt), wtL (drvR f l) ≤ crL l
  | 0, _ => Nat.zero_le _
  | f + 1, l => by
    unfold drvR
    split
    · exact Nat.zero_le _
    · have ih := drvR_wt f (l.drop (drvS l).2)
      have hS : wtL (drvS l).1 ≤ crL (l.take (drvS l).2) := by
        have hn := nx_wt l
        unfold drvS
        split
        · rename_i hk
          rw [if_pos hk] at hn
          split
          · have h1 := rest_wt (drvN (nx l).1.name) (nx l).1.name (l.drop (nx l).2.1)
            show wtT (nx l).1 + wtL _ ≤ crL (l.take ((nx l).2.1 + _))
            rw [List.take_add, cr_app]
            omega
          · show wtT (nx l).1 + 0 ≤ crL (l.take (nx l).2.1)
            omega
        · exact Nat.zero_le _
      have h2 := cr_cut l (drvS l).2
      rw [wt_app]
      omega
/-! P20.1, P20.2 -/
noncomputable def extL (b : Txt) : Txt := renL (drvL (normL (dec b)))
theorem ext_eq (b : Txt) : extL b = (renR ren0 (drvP (normL (dec b)))).flow.told := by
  unfold extL renL drvL
  rw [ren_join]
end Go.Proofs.YtbcmfcddkegcoaaGreatDoor

/-! What the laws of layer 20 want of what bytes say: plain mathematics. (Written by wip/tools/gen_extmath.py.) -/
namespace Go.Proofs.YtbcmfcddkegcoaaGreatDoor
open Go.RowKit Go.Lib

/-! pieces, not joined -/
theorem drv_tag (l : Txt) (t : TokP) (n : Nat) (h : begT l ≠ 0) (hr : tagR l = some (t, n)) (hs : ¬ SpecT t) : drvP l = t :: drvP (l.drop n) := by
  have hl : l ≠ [] := by rintro rfl; exact h beg_nil
  have hx := nx_tag l h
  rw [hr] at hx
  have hS : drvS l = ([t], n) := by
    unfold drvS
    rw [hx]
    simp only [if_true]
    rw [if_neg hs]
  rw [drv_step l hl, hS]; rfl
theorem drv_ahead (a z : Txt) (h : 60 ∉ a) (hz : nextN z = 0) : drvP (a ++ z) = emitT (ddL false a) ++ drvP z := by
  by_cases ha : a = []
  · subst ha; rfl
  · have hne : a ++ z ≠ [] := fun e => ha (List.append_eq_nil_iff.1 e).1
    have hS : drvS (a ++ z) = ([txtT (ddL false a)], a.length) := by
      unfold drvS
      rw [nx_ahead a z ha h hz]
      simp only [if_true]
      rw [if_neg (fun e => absurd e.1 (show ¬ (0 : Int) = 1 by decide))]
    rw [drv_step _ hne, hS]
    simp only [List.drop_left]
    rw [emit_one _ (dd_some a ha)]
theorem next_tag (l : Txt) (h : begT l ≠ 0) : nextN l = 0 := next_here l (by unfold mkB; rw [decide_eq_true h]; rfl)
/-! ExtractPlain -/
/-! ExtractTags -/
/-- a flow in which nothing is hidden, and no blanks are kept -/
def Plain20 (r : RenP) : Prop := r.opn = [] ∧ r.kept = 0
theorem plain_text (r : RenP) (h : Plain20 r) (x : Txt) : Plain20 (renT r (txtT x)) := by
  rw [renT_text r (txtT x) rfl, if_pos h.1]; exact ⟨rfl, h.2⟩
theorem plain_start (r : RenP) (h : Plain20 r) (nm : Txt) (al : List Ln) (self : Bool) (h1 : hidN nm = false) (h2 : keeN nm = false) (h3 : nm ≠ bodyL) : renT r ⟨1, nm, [], al, self⟩ = ⟨[], 0, linesF nm r.flow⟩ := by
  have hs : openS r nm = [] := by unfold openS; rw [if_neg h3]; exact h.1
  rw [renT_start r _ rfl]
  simp only
  rw [if_neg (by rw [h1]; exact Bool.false_ne_true), if_pos hs, h2, h.2]; rfl
theorem plain_end (r : RenP) (h : Plain20 r) (nm : Txt) (al : List Ln) (self : Bool) (h2 : keeN nm = false) : renT r ⟨2, nm, [], al, self⟩ = ⟨[], 0, linesF nm r.flow⟩ := by
  rw [renT_end r _ rfl, h.1]
  simp only
  rw [show lastN [] nm = none from rfl]
  simp only [if_true]
  rw [h2, h.2]; rfl
theorem tpl_step (m B : Txt) (t : TokP) (h : begT (m ++ B) ≠ 0 ∧ tagR (m ++ B) = some (t, m.length)) (hs : ¬ SpecT t) : drvP (m ++ B) = t :: drvP B := by
  rw [drv_tag _ t _ h.1 h.2 hs, List.drop_left]
/-! ExtractBlocks -/
/-! ExtractCase -/
end Go.Proofs.YtbcmfcddkegcoaaGreatDoor

/-! How long what bytes say may come to be: plain mathematics. -/
namespace Go.Proofs.YtbcmfcddkegcoaaGreatDoor
open Go.RowKit Go.Lib

theorem emit_wt (x : Txt) (t : TokP) (h : t ∈ emitT x) : t.text.length ≤ x.length := by rw [emit_text x t h]; exact Nat.le_refl _
theorem drvR_text : ∀ (f : Nat) (l : Txt) (t : TokP), t ∈ drvR f l → t.text.length ≤ 9 * l.length + 3
  | 0, _, t, h => by cases h
  | f + 1, l, t, h => by
    unfold drvR at h
    split at h
    · cases h
    · rcases List.mem_append.1 h with h1 | h1
      · have hn := nx_text l
        unfold drvS at h1
        split at h1
        · split at h1
          · rcases List.mem_cons.1 h1 with h2 | h2
            · rw [h2]; omega
            · have := (rest_in (drvN (nx l).1.name) (nx l).1.name (l.drop (nx l).2.1)).2 t h2
              rw [List.length_drop] at this
              omega
          · rw [List.mem_singleton.1 h1]; omega
        · cases h1
      · have := drvR_text f _ t h1
        rw [List.length_drop] at this
        omega
theorem join_text20 : ∀ (L : List TokP) (x : Txt) (n : Nat), (∀ t ∈ L, t.text.length ≤ n) → ∀ t ∈ joinA x L, t.text.length ≤ x.length + wtL L + n
  | [], x, n, _, t, h => by
    rw [joinA] at h
    have := emit_wt x t h; omega
  | u :: L, x, n, hn, t, h => by
    rw [joinA] at h
    have hu := hn u (.head _)
    have hL := fun v hv => hn v (List.mem_cons_of_mem u hv)
    split at h
    · rename_i hk
      have := join_text20 L _ n hL t h
      have hw : wtT u = u.text.length := by unfold wtT; rw [if_pos hk]
      rw [List.length_append] at this
      rw [wtL]; omega
    · rw [wtL]
      rcases List.mem_append.1 h with h1 | h1
      · have := emit_wt x t h1; omega
      · rcases List.mem_cons.1 h1 with h2 | h2
        · rw [h2]; omega
        · have := join_text20 L [] n hL t h2
          rw [List.length_nil] at this
          omega
theorem drv_text20 (s : Txt) (n : Nat) (h : s.length ≤ n) : ∀ t ∈ drvL s, t.text.length ≤ 12 * n + 3 := fun t ht => by
  have h1 := join_text20 (drvP s) [] _ (drvR_text s.length s) t ht
  have h2 : wtL (drvP s) ≤ _ := drvR_wt _ _
  have h3 := (cr_more s).2
  rw [List.length_nil] at h1
  omega
/-- of what bytes Extract is spoken -/
structure ExtOk (l : Txt) : Prop where
  size : l.length ≤ 100000
  few : (drvL (normL (dec l))).length ≤ 4096
  text : ∀ t ∈ drvL (normL (dec l)), t.text.length ≤ 65536
theorem dec_size (l : Txt) : (dec l).length ≤ 3 * l.length ∧ (normL (dec l)).length ≤ 3 * l.length := by
  have h1 := (cr_more (dec l)).1
  have h2 := cr_dec l
  have h3 := normL_len (dec l)
  omega
end Go.Proofs.YtbcmfcddkegcoaaGreatDoor
