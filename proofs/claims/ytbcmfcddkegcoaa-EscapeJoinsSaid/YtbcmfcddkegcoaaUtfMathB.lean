/-
  What the bytes of a text are as signs, continued: a sign's bytes are read as that sign; what is decoded is right, and at most three times as long; what is right stays.
-/
import Derived.Test.YtbcmfcddkegcoaaUtfMath
namespace Go.Proofs.Ytbcmfcddkegcoaa
open Go.Lib

theorem u8nat (x : Int) (h0 : 0 ≤ x) (h1 : x < 256) : (x.toNat.toUInt8).toNat = x.toNat := by
  have : x.toNat < 256 := by omega
  simp [Nat.toUInt8]; omega

/-- a number that a sign has -/
def IsSign (r : Nat) : Prop := r < 55296 ∨ (57343 < r ∧ r ≤ 1114111)

theorem decodeL_sign (l : List UInt8) (_hne : l ≠ []) : IsSign (decodeL l).1 := by
  rw [decodeL_N]
  exact decodeN_valid _ _ _ _ _ (l.getD 0 0).toNat_lt

set_option maxRecDepth 100000 in
/-- a sign's bytes are read as that sign, whatever is behind them -/
theorem decodeL_enc (r : Nat) (h : IsSign r) (t : List UInt8) : decodeL (encodeRune (r : Int) ++ t) = (r, (encodeRune (r : Int)).length) := by
  unfold IsSign at h
  rw [decodeL_N]
  by_cases h1 : r ≤ 127
  · rw [encodeRune, encodeRuneZ_one (by omega) (by omega)]
    simp only [List.map_cons, List.map_nil, List.cons_append, List.nil_append, getD0, List.length_cons, List.length_nil]
    rw [u8nat _ (by omega) (by omega), decodeN_ascii _ _ _ _ _ (by omega)]
    simp
  by_cases h2 : r ≤ 2047
  · rw [encodeRune, encodeRuneZ_two (by omega) (by omega)]
    simp only [List.map_cons, List.map_nil, List.cons_append, List.nil_append, getD0, getD_s, List.length_cons, List.length_nil]
    rw [u8nat _ (by omega) (by omega), u8nat _ (by omega) (by omega)]
    generalize hb0 : (192 + (r : Int) / 64).toNat = b0
    generalize hb1 : (128 + (r : Int) % 64).toNat = b1
    have e0 : b0 = 192 + r / 64 := by omega
    have e1 : b1 = 128 + r % 64 := by omega
    clear hb0 hb1
    unfold decodeN
    rw [if_neg (by omega), if_pos ⟨by omega, by omega, by omega⟩, if_pos (by omega)]
    exact Prod.ext (by simp only; omega) rfl
  by_cases h3 : r ≤ 65535
  · rw [encodeRune, encodeRuneZ_three (by omega)]
    simp only [List.map_cons, List.map_nil, List.cons_append, List.nil_append, getD0, getD_s, List.length_cons, List.length_nil]
    rw [u8nat _ (by omega) (by omega), u8nat _ (by omega) (by omega), u8nat _ (by omega) (by omega)]
    generalize hb0 : (224 + (r : Int) / 4096).toNat = b0
    generalize hb1 : (128 + (r : Int) / 64 % 64).toNat = b1
    generalize hb2 : (128 + (r : Int) % 64).toNat = b2
    have e0 : b0 = 224 + r / 4096 := by omega
    have e1 : b1 = 128 + r / 64 % 64 := by omega
    have e2 : b2 = 128 + r % 64 := by omega
    clear hb0 hb1 hb2
    unfold decodeN
    rw [if_neg (by omega), if_neg (by omega), if_pos ⟨by omega, ⟨by omega, by omega⟩, by omega, by omega⟩, if_pos ⟨by omega, by omega⟩]
    exact Prod.ext (by simp only; omega) rfl
  · rw [encodeRune, encodeRuneZ_four (by omega) (by omega)]
    simp only [List.map_cons, List.map_nil, List.cons_append, List.nil_append, getD0, getD_s, List.length_cons, List.length_nil]
    rw [u8nat _ (by omega) (by omega), u8nat _ (by omega) (by omega), u8nat _ (by omega) (by omega), u8nat _ (by omega) (by omega)]
    generalize hb0 : (240 + (r : Int) / 262144).toNat = b0
    generalize hb1 : (128 + (r : Int) / 4096 % 64).toNat = b1
    generalize hb2 : (128 + (r : Int) / 64 % 64).toNat = b2
    generalize hb3 : (128 + (r : Int) % 64).toNat = b3
    have e0 : b0 = 240 + r / 262144 := by omega
    have e1 : b1 = 128 + r / 4096 % 64 := by omega
    have e2 : b2 = 128 + r / 64 % 64 := by omega
    have e3 : b3 = 128 + r % 64 := by omega
    clear hb0 hb1 hb2 hb3
    unfold decodeN
    rw [if_neg (by omega), if_neg (by omega), if_neg (by omega), if_pos ⟨by omega, ⟨by omega, by omega⟩, ⟨by omega, by omega⟩, by omega, by omega⟩, if_pos ⟨by omega, by omega⟩]
    exact Prod.ext (by simp only; omega) rfl

theorem enc_len (r : Int) : 1 ≤ (encodeRune r).length ∧ (encodeRune r).length ≤ 4 := by
  have := encodeRuneZ_length r
  simpa [encodeRune] using this
theorem enc_ne (r : Int) : encodeRune r ≠ [] := by
  intro h; have := (enc_len r).1; rw [h] at this; simp at this
theorem enc_bad : encodeRune 65533 = badL := by decide
/-- whatever number: its bytes are a sign's -/
theorem enc_is (n : Int) : ∃ r : Nat, IsSign r ∧ encodeRune n = encodeRune (r : Int) ∧ ((0 ≤ n ∧ IsSign n.toNat ∧ (r : Int) = n) ∨ (¬ (0 ≤ n ∧ IsSign n.toNat) ∧ r = 65533)) := by
  by_cases h : 0 ≤ n ∧ IsSign n.toNat
  · exact ⟨n.toNat, h.2, by rw [Int.toNat_of_nonneg h.1], .inl ⟨h.1, h.2, by omega⟩⟩
  · refine ⟨65533, by unfold IsSign; omega, ?_, .inr ⟨h, rfl⟩⟩
    unfold IsSign at h
    have e : encodeRuneZ n = [239, 191, 189] := encodeRuneZ_bad (by omega)
    have e2 : encodeRuneZ ((65533 : Nat) : Int) = [239, 191, 189] := by decide
    rw [encodeRune, encodeRune, e, e2]

/-- a sign that stands at the head is not broken -/
theorem brk_enc (r : Nat) (h : IsSign r) (t : List UInt8) : brk (encodeRune (r : Int) ++ t) = false := by
  unfold brk
  rw [decodeL_enc r h t, decide_eq_false_iff_not]
  rintro ⟨e1, e2⟩
  simp only at e1 e2
  subst e1
  have : (encodeRune ((65533 : Nat) : Int)).length = 3 := by decide
  omega

/-- what stands at the head, where it isn't broken, is a sign's bytes, and then the rest -/
theorem head_enc (l : List UInt8) (hne : l ≠ []) (h : brk l = false) : l = encodeRune ((decodeL l).1 : Int) ++ l.drop (decodeL l).2 := by
  rw [enc_dec l hne h, List.take_append_drop]
theorem width_enc (l : List UInt8) (hne : l ≠ []) (h : brk l = false) : (encodeRune ((decodeL l).1 : Int)).length = (decodeL l).2 := by
  rw [enc_dec l hne h, List.length_take]
  have := width_le l hne
  omega

theorem decodeL_keep (a t : List UInt8) (hne : a ≠ []) (h : brk a = false) : decodeL (a ++ t) = decodeL a := by
  conv => lhs; rw [head_enc a hne h]
  rw [List.append_assoc, decodeL_enc _ (decodeL_sign a hne), width_enc a hne h]
theorem brk_keep (a t : List UInt8) (hne : a ≠ []) (h : brk a = false) : brk (a ++ t) = false := by
  have e := decodeL_keep a t hne h
  unfold brk at h ⊢
  rw [e]; exact h

theorem dec0_enc (r : Nat) (h : IsSign r) (t : List UInt8) : dec0 (encodeRune (r : Int) ++ t) = encodeRune (r : Int) ++ dec0 t := by
  rw [dec0_step _ (by simp [enc_ne]), brk_enc r h t, decodeL_enc r h t]
  simp
theorem validD_enc (r : Nat) (h : IsSign r) (t : List UInt8) : validD (encodeRune (r : Int) ++ t) = validD t := by
  rw [validD_brk _ (by simp [enc_ne]), brk_enc r h t, decodeL_enc r h t]
  simp
theorem validD_bad (t : List UInt8) : validD (badL ++ t) = validD t := by
  have := validD_enc 65533 (by unfold IsSign; omega) t
  rwa [show encodeRune ((65533 : Nat) : Int) = badL by decide] at this
theorem dec0_bad (t : List UInt8) : dec0 (badL ++ t) = badL ++ dec0 t := by
  have := dec0_enc 65533 (by unfold IsSign; omega) t
  rwa [show encodeRune ((65533 : Nat) : Int) = badL by decide] at this

/-- what is decoded is right -/
theorem validD_dec0 : ∀ (n : Nat) (l : List UInt8), l.length ≤ n → validD (dec0 l) = true
  | 0, l, h => by
    have : l = [] := List.eq_nil_of_length_eq_zero (by omega)
    subst this; rfl
  | n + 1, l, h => by
    by_cases hne : l = []
    · subst hne; rfl
    · have hl : 0 < l.length := List.length_pos_iff.2 hne
      have hw := decodeL_width l
      have hb := begL_ge l
      rw [dec0_step l hne]
      cases hk : brk l with
      | true =>
        rw [if_pos rfl, validD_bad]
        exact validD_dec0 n _ (by rw [List.length_drop]; omega)
      | false =>
        rw [if_neg (by simp), ← enc_dec l hne hk, validD_enc _ (decodeL_sign l hne)]
        exact validD_dec0 n _ (by rw [List.length_drop]; omega)

/-- and at most three times as long -/
theorem dec0_len : ∀ (n : Nat) (l : List UInt8), l.length ≤ n → (dec0 l).length ≤ 3 * l.length
  | 0, l, h => by
    have : l = [] := List.eq_nil_of_length_eq_zero (by omega)
    subst this; simp [dec0_nil]
  | n + 1, l, h => by
    by_cases hne : l = []
    · subst hne; simp [dec0_nil]
    · have hl : 0 < l.length := List.length_pos_iff.2 hne
      have hw := decodeL_width l
      have hwl := width_le l hne
      have hb := begL_ge l
      rw [dec0_step l hne]
      cases hk : brk l with
      | true =>
        rw [if_pos rfl, List.length_append]
        have := dec0_len n (l.drop (begL l)) (by rw [List.length_drop]; omega)
        rw [List.length_drop] at this
        simp only [badL, List.length_cons, List.length_nil]
        omega
      | false =>
        rw [if_neg (by simp), List.length_append, List.length_take]
        have := dec0_len n (l.drop (decodeL l).2) (by rw [List.length_drop]; omega)
        rw [List.length_drop] at this
        omega

/-- what is right stays, whatever is behind it -/
theorem dec0_right (t : List UInt8) : ∀ (n : Nat) (a : List UInt8), a.length ≤ n → validD a = true → dec0 (a ++ t) = a ++ dec0 t
  | 0, a, h, _ => by
    have : a = [] := List.eq_nil_of_length_eq_zero (by omega)
    subst this; rfl
  | n + 1, a, h, hv => by
    by_cases hne : a = []
    · subst hne; rfl
    · have hl : 0 < a.length := List.length_pos_iff.2 hne
      have hw := decodeL_width a
      rw [validD_brk a hne] at hv
      cases hk : brk a with
      | true => rw [hk] at hv; simp at hv
      | false =>
        rw [hk, if_neg (by simp)] at hv
        have ih := dec0_right t n (a.drop (decodeL a).2) (by rw [List.length_drop]; omega) hv
        conv => lhs; rw [head_enc a hne hk]
        rw [List.append_assoc, dec0_enc _ (decodeL_sign a hne), ih, ← List.append_assoc, ← head_enc a hne hk]
theorem validD_right (t : List UInt8) : ∀ (n : Nat) (a : List UInt8), a.length ≤ n → validD a = true → validD (a ++ t) = validD t
  | 0, a, h, _ => by
    have : a = [] := List.eq_nil_of_length_eq_zero (by omega)
    subst this; rfl
  | n + 1, a, h, hv => by
    by_cases hne : a = []
    · subst hne; rfl
    · have hl : 0 < a.length := List.length_pos_iff.2 hne
      have hw := decodeL_width a
      rw [validD_brk a hne] at hv
      cases hk : brk a with
      | true => rw [hk] at hv; simp at hv
      | false =>
        rw [hk, if_neg (by simp)] at hv
        have ih := validD_right t n (a.drop (decodeL a).2) (by rw [List.length_drop]; omega) hv
        conv => lhs; rw [head_enc a hne hk]
        rw [List.append_assoc, validD_enc _ (decodeL_sign a hne), ih]
theorem dec0_same (a : List UInt8) (hv : validD a = true) : dec0 a = a := by
  have := dec0_right [] a.length a (Nat.le_refl _) hv
  rwa [List.append_nil, dec0_nil, List.append_nil] at this

/-- a byte that can't be one -/
def NoByte (c : UInt8) : Prop := c.toNat = 192 ∨ c.toNat = 193 ∨ 245 ≤ c.toNat
theorem brk_noByte (c : UInt8) (t : List UInt8) (h : NoByte c) : brk (c :: t) = true := by
  rw [brk_iff, decodeL_N, getD0]
  have := c.toNat_lt
  unfold NoByte at h
  exact decodeN_bad _ _ _ _ _ (by omega)
theorem begL_noByte (c : UInt8) (t : List UInt8) (h : NoByte c) : begL (c :: t) = 1 := by
  unfold begL
  rw [getD0]
  have := c.toNat_lt
  unfold NoByte at h
  unfold begN
  repeat' split
  all_goals first | rfl | omega
theorem dec0_noByte (c : UInt8) (t : List UInt8) (h : NoByte c) : dec0 (c :: t) = badL ++ dec0 t := by
  rw [dec0_step _ (by simp), brk_noByte c t h, begL_noByte c t h]; rfl
theorem validD_noByte (c : UInt8) (t : List UInt8) (h : NoByte c) : validD (c :: t) = false := by
  rw [validD_brk _ (by simp), brk_noByte c t h]; rfl
theorem dec0_low (c : UInt8) (t : List UInt8) (h : c.toNat < 128) : dec0 (c :: t) = c :: dec0 t := by
  have e : decodeL (c :: t) = (c.toNat, 1) := decodeL_ascii c t h
  have hk : brk (c :: t) = false := by unfold brk; rw [e]; simp; omega
  rw [dec0_step _ (by simp), hk, e]; rfl

/-! ### the mark -/
theorem mark_dec (t : List UInt8) : decodeL (markL ++ t) = (65279, 3) := by
  have := decodeL_enc 65279 (by unfold IsSign; omega) t
  rwa [show encodeRune ((65279 : Nat) : Int) = markL by decide] at this
theorem hasMark (l : List UInt8) : hasPrefix l markL = true ↔ ∃ t, l = markL ++ t := by
  unfold hasPrefix
  rw [List.isPrefixOf_iff_prefix]
  exact ⟨fun ⟨t, h⟩ => ⟨t, h.symm⟩, fun ⟨t, h⟩ => ⟨t, h.symm⟩⟩
/-- behind what isn't broken at its head: a mark stands there only if it did -/
theorem mark_keep (a t : List UInt8) (hne : a ≠ []) (h : brk a = false) : hasPrefix (a ++ t) markL = hasPrefix a markL := by
  rw [Bool.eq_iff_iff, hasMark, hasMark]
  constructor
  · rintro ⟨u, hu⟩
    have e := decodeL_keep a t hne h
    rw [hu, mark_dec] at e
    have he := head_enc a hne h
    rw [← e] at he
    exact ⟨_, he.trans (by rw [show encodeRune (((65279, 3) : Nat × Nat).1 : Int) = markL by decide])⟩
  · rintro ⟨u, hu⟩
    exact ⟨u ++ t, by rw [hu, List.append_assoc]⟩
theorem mark_app (a t : List UInt8) (ht : t = [] ∨ (t.getD 0 0).toNat < 128) : hasPrefix (a ++ t) markL = hasPrefix a markL := by
  rcases ht with rfl | ht
  · rw [List.append_nil]
  rw [Bool.eq_iff_iff, hasMark, hasMark]
  constructor
  · rintro ⟨u, hu⟩
    match a, hu with
    | [], hu => rw [List.nil_append] at hu; rw [hu] at ht; exact absurd ht (by simp [markL, List.getD])
    | [x], hu =>
      simp only [markL, List.cons_append, List.nil_append, List.cons.injEq] at hu
      rw [hu.2] at ht; exact absurd ht (by simp [List.getD])
    | [x, y], hu =>
      simp only [markL, List.cons_append, List.nil_append, List.cons.injEq] at hu
      rw [hu.2.2] at ht; exact absurd ht (by simp [List.getD])
    | x :: y :: z :: r, hu =>
      simp only [markL, List.cons_append, List.nil_append, List.cons.injEq] at hu
      exact ⟨r, by rw [hu.1, hu.2.1, hu.2.2.1]; rfl⟩
  · rintro ⟨u, hu⟩
    exact ⟨u ++ t, by rw [hu, List.append_assoc]⟩

theorem dec_plain (l : List UInt8) (h : hasPrefix l markL = false) : dec l = dec0 l := by
  unfold dec trimPrefix; rw [h]; rfl
theorem dec_mark (l : List UInt8) (h : hasPrefix l markL = true) : dec l = dec0 (l.drop 3) := by
  unfold dec trimPrefix; rw [h]; rfl
theorem low_head (x : UInt8) (t : List UInt8) (h : x.toNat < 128) : hasPrefix (x :: t) markL = false := by
  rw [Bool.eq_false_iff]
  intro h2
  obtain ⟨u, hu⟩ := (hasMark _).1 h2
  simp only [markL, List.cons_append, List.cons.injEq] at hu
  rw [hu.1] at h
  exact absurd h (by decide)

/-- what a range tells of what can't be read is the sign 65533; so it does of that sign itself -/
theorem brk_code (l : List UInt8) (hne : l ≠ []) : brk l = (decide ((decodeL l).1 = 65533) && !hasPrefix l badL) := by
  rw [Bool.eq_iff_iff]
  constructor
  · intro h
    have e := (brk_iff l).1 h
    rw [e]
    simp only [decide_true, Bool.true_and, Bool.not_eq_true']
    rw [Bool.eq_false_iff]
    intro hp
    unfold hasPrefix at hp
    rw [List.isPrefixOf_iff_prefix] at hp
    obtain ⟨t, ht⟩ := hp
    have := decodeL_enc 65533 (by unfold IsSign; omega) t
    rw [show encodeRune ((65533 : Nat) : Int) = badL by decide, ht, e] at this
    exact absurd (congrArg Prod.snd this) (by decide)
  · intro h
    rw [Bool.and_eq_true, decide_eq_true_iff, Bool.not_eq_true'] at h
    obtain ⟨h1, h2⟩ := h
    cases hk : brk l with
    | true => rfl
    | false =>
      have he := enc_dec l hne hk
      rw [h1, show encodeRune ((65533 : Nat) : Int) = badL by decide] at he
      have : hasPrefix l badL = true := by
        unfold hasPrefix
        rw [List.isPrefixOf_iff_prefix]
        exact ⟨l.drop (decodeL l).2, by rw [he, List.take_append_drop]⟩
      rw [this] at h2
      exact absurd h2 (by simp)

/-- within the longest beginning all but its first byte go on -/
theorem beg_conts (l : List UInt8) (i : Nat) (h1 : 1 ≤ i) (h2 : i < begL l) : (l.getD i 0).toNat / 64 = 2 := by
  unfold begL begN at h2
  repeat' split at h2
  all_goals first | omega | skip
  · have : i = 1 := by omega
    subst this; omega
  · rename_i a b
    have : i = 1 ∨ i = 2 := by omega
    rcases this with rfl | rfl
    · omega
    · omega
  · have : i = 1 := by omega
    subst this; omega
/-- a byte that goes on can't be read by itself -/
theorem decodeL_cont (l : List UInt8) (h : (l.getD 0 0).toNat / 64 = 2) : decodeL l = (65533, 1) := by
  rw [decodeL_N]
  exact decodeN_cont _ _ _ _ _ h

end Go.Proofs.Ytbcmfcddkegcoaa
