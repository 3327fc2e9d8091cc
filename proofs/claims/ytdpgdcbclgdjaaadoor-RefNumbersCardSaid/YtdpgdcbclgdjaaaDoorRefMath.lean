/-
  What an ampersand means, by what stands behind it, and what a text is with all references read: plain mathematics.
-/
import Derived.Test.YtdpgdcbclgdjaaaDoorNamLast
import Derived.Test.YtdpgdcbclgdjaaaDoorNumList
import Derived.KernelRfl
namespace Go.Proofs.YtdpgdcbclgdjaaaDoor
open Go.RowKit Go.Lib

/-- a letter or a digit -/
def wordN (c : UInt8) : Bool := Nat.ble 48 c.toNat && Nat.ble c.toNat 57 || (Nat.ble 65 c.toNat && Nat.ble c.toNat 90 || Nat.ble 97 c.toNat && Nat.ble c.toNat 122)
theorem wordN_int (c : UInt8) : wordI (c.toNat : Int) = wordN c := by
  unfold wordI letterI digitI wordN
  rw [Bool.eq_iff_iff]
  simp only [Bool.or_eq_true, Bool.and_eq_true, decide_eq_true_eq, Nat.ble_eq]
  omega
/-- a key: letters and digits, and a semicolon, which isn't the first byte -/
def keyB : Txt → Bool
  | [] => false
  | c :: t => wordN c && t.all fun x => wordN x || x == 59
set_option maxRecDepth 1000000 in
theorem key_all : nmRows.all (fun r => keyB r.1) = true := by kernel_rfl
theorem key_form (r : Ln) (hr : r ∈ nmRows) : ∃ c t, r.1 = c :: t ∧ wordN c = true ∧ ∀ x ∈ t, wordN x = true ∨ x = 59 := by
  have h := List.all_eq_true.1 key_all r hr
  cases e : r.1 with
  | nil => rw [e] at h; exact absurd h (by decide)
  | cons c t =>
    rw [e, keyB, Bool.and_eq_true, List.all_eq_true] at h
    refine ⟨c, t, rfl, h.1, fun x hx => ?_⟩
    have := h.2 x hx
    rw [Bool.or_eq_true, beq_iff_eq] at this
    exact this
theorem key_byte (r : Ln) (hr : r ∈ nmRows) (x : UInt8) (hx : x ∈ r.1) : wordN x = true ∨ x = 59 := by
  obtain ⟨c, t, e, h1, h2⟩ := key_form r hr
  rw [e] at hx
  rcases List.mem_cons.1 hx with rfl | hx
  · exact .inl h1
  · exact h2 x hx

/-- what stands ahead of a place plays no part for a reference by a number -/
theorem getD_shift (p z : Txt) (i : Nat) : (p ++ z).getD (p.length + i) 0 = z.getD i 0 := by
  rw [List.getD_eq_getElem?_getD, List.getElem?_append_right (by omega), List.getD_eq_getElem?_getD]
  congr 2; omega
theorem isX_shift (p z : Txt) (i : Nat) : isX (p ++ z) (p.length + i) = isX z i := by
  unfold isX; rw [getD_shift]
theorem from_shift (p z : Txt) : fromN (p ++ z) p.length = p.length + fromN z 0 := by
  unfold fromN
  rw [isX_shift p z 1]
  split <;> omega
theorem digsAt_shift (p z : Txt) : digsAt (p ++ z) p.length = digsAt z 0 := by
  unfold digsAt
  rw [isX_shift p z 1, from_shift, ← List.drop_drop, List.drop_left]
theorem end_shift (p z : Txt) : endN (p ++ z) p.length = p.length + endN z 0 := by
  rw [endN_eq, endN_eq, digsAt_shift, from_shift, Nat.add_assoc, getD_shift]
  split <;> omega
theorem ref_shift (p z : Txt) : isRef (p ++ z) (p.length : Int) = isRef z 0 ∧ refN (p ++ z) p.length = refN z 0 := by
  constructor
  · unfold isRef
    rw [show ((p.length : Nat) : Int).toNat = p.length + 0 by omega, getD_shift, Nat.add_zero, digsAt_shift, show (0 : Int).toNat = 0 from rfl]
    exact decide_eq_decide.2 ⟨fun h => ⟨by omega, h.2⟩, fun h => ⟨by omega, h.2⟩⟩
  · unfold refN
    rw [isX_shift p z 1, digsAt_shift]

/-- P7.1, by what stands behind the ampersand: whether what is there makes a short name stay; how many bytes are read; what is told -/
def goesB : Txt → Bool
  | [] => false
  | c :: _ => c == 61 || wordN c
def keepB (z : Txt) (attr : Bool) : Bool := attr && !hasSuffix (z.take (bestL nmRows z)) [59] && goesB (z.drop (bestL nmRows z))
def refM (z : Txt) : Nat := if isRef z 0 then endN z 0 else bestL nmRows z
def refT (z : Txt) (attr : Bool) : Txt :=
  if isRef z 0 then (fixS (refN z 0)).data.toList
  else if bestL nmRows z = 0 then [38]
  else if keepB z attr then 38 :: z.take (bestL nmRows z)
  else textL (aOf (nmLook (z.take (bestL nmRows z)))) (bOf (nmLook (z.take (bestL nmRows z))))

theorem end_bounds (z : Txt) (h : isRef z 0 = true) : 2 ≤ endN z 0 ∧ endN z 0 ≤ z.length := by
  have h1 := ref_stop ⟨z.toArray⟩ 0 (by rw [List.toList_toArray]; exact h)
  have hs : (ByteArray.mk z.toArray).size = z.length := by rw [Lib.size_eq, List.toList_toArray]
  obtain ⟨a, b, -⟩ := h1
  rw [hs] at b
  exact ⟨a, b⟩
theorem refM_le (z : Txt) : refM z ≤ z.length := by
  unfold refM
  by_cases h : isRef z 0 = true
  · rw [if_pos h]; exact (end_bounds z h).2
  · rw [if_neg h]; exact best_le _ _
/-- the longest name is one -/
theorem best_is (z : Txt) (h : bestL nmRows z ≠ 0) : (nmLook (z.take (bestL nmRows z))).isSome = true ∧ (z.take (bestL nmRows z)).length = bestL nmRows z := by
  refine ⟨?_, by rw [List.length_take]; exact Nat.min_eq_left (best_le _ _)⟩
  rcases best_mem nmRows z with h0 | ⟨r, hr, hp, e⟩
  · exact absurd h0 h
  · rw [e, ← List.prefix_iff_eq_take.1 hp, look_of hr]; rfl
theorem refT_len (z : Txt) (attr : Bool) : 1 ≤ (refT z attr).length ∧ (refT z attr).length ≤ 3 * (refM z + 1) := by
  unfold refT refM
  by_cases h : isRef z 0 = true
  · rw [if_pos h, if_pos h]
    have h1 := fixS_len (refN z 0)
    rw [Lib.size_eq] at h1
    have h2 := end_bounds z h
    omega
  · rw [if_neg h, if_neg h]
    by_cases h0 : bestL nmRows z = 0
    · rw [if_pos h0]; show 1 ≤ 1 ∧ 1 ≤ _; omega
    · rw [if_neg h0]
      have h1 := best_is z h0
      by_cases hk : keepB z attr = true
      · rw [if_pos hk, List.length_cons, h1.2]; omega
      · rw [if_neg hk]
        have h2 := text_len _ h1.1
        rw [h1.2] at h2
        omega

/-- a byte that stands in no name, and is no digit, ends what is read -/
theorem pre_stop (k y x : Txt) (c : UInt8) (hc : c ∉ k) (hp : k <+: y ++ c :: x) : k <+: y := by
  rcases Nat.lt_or_ge y.length k.length with h | h
  · exfalso
    have h1 : y ++ [c] <+: k := List.prefix_of_prefix_length_le (show y ++ [c] <+: y ++ c :: x from ⟨x, by simp⟩) hp (by simp; omega)
    exact hc (h1.subset (by simp))
  · exact List.prefix_of_prefix_length_le hp (List.prefix_append _ _) h
theorem best_stop (y x : Txt) (c : UInt8) (hc : wordN c = false) (h59 : c ≠ 59) : bestL nmRows (y ++ c :: x) = bestL nmRows y := by
  have hk : ∀ r ∈ nmRows, c ∉ r.1 := fun r hr hm => by
    rcases key_byte r hr c hm with h | h
    · rw [hc] at h; exact absurd h (by decide)
    · exact h59 h
  refine best_eq _ _ _ (fun r hr hp => best_ge _ _ r hr (pre_stop _ _ _ _ (hk r hr) hp)) ?_
  rcases best_mem nmRows y with h | ⟨r, hr, hp, e⟩
  · exact .inl h
  · exact .inr ⟨r, hr, hp.trans (List.prefix_append _ _), e⟩
theorem take_app (y x : Txt) (n : Nat) (h : n ≤ y.length) : (y ++ x).take n = y.take n := List.take_append_of_le_length h
theorem drop_app (y x : Txt) (n : Nat) (h : n ≤ y.length) : (y ++ x).drop n = y.drop n ++ x := List.drop_append_of_le_length h
theorem digs_blank (b : Nat) (x : Txt) : ∀ y : Txt, digs b (y ++ 32 :: x) = digs b y
  | [] => by
    have : isDig b 32 = false := by unfold isDig; rw [show hexI ((32 : UInt8).toNat : Int) = -1 by decide]; exact decide_eq_false (by omega)
    unfold digs
    rw [List.nil_append, List.takeWhile_cons_of_neg (by rw [this]; exact Bool.false_ne_true), List.takeWhile_nil]
  | c :: y => by
    have ih := digs_blank b x y
    unfold digs at ih ⊢
    rw [List.cons_append, List.takeWhile_cons, List.takeWhile_cons, ih]
theorem getD_blank (y x : Txt) (i : Nat) (hi : i ≤ y.length) (d : UInt8) (h1 : d ≠ 32) (h2 : d ≠ 0) : ((y ++ 32 :: x).getD i 0 = d) ↔ y.getD i 0 = d := by
  rw [List.getD_eq_getElem?_getD, List.getD_eq_getElem?_getD]
  rcases Nat.lt_or_ge i y.length with h | h
  · rw [List.getElem?_append_left h]
  · obtain rfl : i = y.length := by omega
    rw [List.getElem?_append_right (Nat.le_refl _), Nat.sub_self, List.getElem?_eq_none (Nat.le_refl _)]
    exact ⟨fun e => absurd e.symm h1, fun e => absurd e.symm h2⟩
theorem isX_true (l : Txt) (k : Nat) (h : isX l k = true) : k < l.length := by
  have := isX_size ⟨l.toArray⟩ k (by rw [List.toList_toArray]; exact h)
  rwa [Lib.size_eq, List.toList_toArray] at this
theorem ref_blank (y x : Txt) : isRef (y ++ 32 :: x) 0 = isRef y 0 ∧ (isRef y 0 = true → endN (y ++ 32 :: x) 0 = endN y 0 ∧ refN (y ++ 32 :: x) 0 = refN y 0) := by
  by_cases hy : y = []
  · subst hy
    have e1 : isRef ([] ++ 32 :: x) 0 = false := by
      unfold isRef
      rw [decide_eq_false_iff_not]
      rintro ⟨-, h, -⟩
      exact absurd (show (32 : UInt8) = 35 from h) (by decide)
    have e2 : isRef [] 0 = false := by decide
    rw [e1, e2]
    exact ⟨rfl, fun h => absurd h (by decide)⟩
  have hl : 1 ≤ y.length := List.length_pos_iff.2 hy
  have hx : isX (y ++ 32 :: x) 1 = isX y 1 := by
    unfold isX
    rw [decide_eq_decide, getD_blank y x 1 hl 120 (by decide) (by decide), getD_blank y x 1 hl 88 (by decide) (by decide)]
  have hf : fromN (y ++ 32 :: x) 0 = fromN y 0 := by unfold fromN; rw [hx]
  have hfl : fromN y 0 ≤ y.length := by
    unfold fromN
    by_cases h : isX y (0 + 1) = true
    · rw [if_pos h]; have := isX_true _ _ h; omega
    · rw [if_neg h]; omega
  have hd : digsAt (y ++ 32 :: x) 0 = digsAt y 0 := by
    unfold digsAt
    rw [hx, hf, drop_app _ _ _ hfl, digs_blank]
  have hdl : fromN y 0 + (digsAt y 0).length ≤ y.length := by
    have := digs_len (baseN (isX y 1)) (y.drop (fromN y 0))
    rw [List.length_drop] at this
    show fromN y 0 + (digs (baseN (isX y 1)) (y.drop (fromN y 0))).length ≤ y.length
    omega
  refine ⟨?_, fun _ => ⟨?_, ?_⟩⟩
  · unfold isRef
    rw [show (0 : Int).toNat = 0 from rfl, hd, decide_eq_decide, getD_blank y x 0 (Nat.zero_le _) 35 (by decide) (by decide)]
  · rw [endN_eq, endN_eq, hd, hf]
    by_cases h : y.getD (fromN y 0 + (digsAt y 0).length) 0 = 59
    · rw [if_pos h, if_pos ((getD_blank y x _ hdl 59 (by decide) (by decide)).2 h)]
    · rw [if_neg h, if_neg (fun h' => h ((getD_blank y x _ hdl 59 (by decide) (by decide)).1 h'))]
  · unfold refN; rw [hx, hd]
theorem goes_blank (y x : Txt) : goesB (y ++ 32 :: x) = goesB y := by
  cases y with
  | nil => show ((32 : UInt8) == 61 || wordN 32) = false; decide
  | cons c y => rfl
theorem blank_stop (y x : Txt) (attr : Bool) : refM (y ++ 32 :: x) = refM y ∧ refT (y ++ 32 :: x) attr = refT y attr := by
  obtain ⟨h1, h2⟩ := ref_blank y x
  have hb := best_stop y x 32 (by decide) (by decide)
  have hl := best_le nmRows y
  have hk : keepB (y ++ 32 :: x) attr = keepB y attr := by
    unfold keepB; rw [hb, take_app _ _ _ hl, drop_app _ _ _ hl, goes_blank]
  unfold refM refT
  rw [h1, hb, hk, take_app _ _ _ hl]
  by_cases h : isRef y 0 = true
  · rw [(h2 h).1, (h2 h).2]; exact ⟨rfl, rfl⟩
  · rw [if_neg h, if_neg h, if_neg h, if_neg h]; exact ⟨rfl, rfl⟩

/-- P7.2 -/
def ddR (attr : Bool) : Nat → Txt → Txt
  | 0, _ => []
  | _, [] => []
  | f + 1, c :: z => if c = 38 then refT z attr ++ ddR attr f (z.drop (refM z)) else c :: ddR attr f z
def ddL (attr : Bool) (l : Txt) : Txt := ddR attr l.length l
theorem dd_fuel (attr : Bool) : ∀ (f g : Nat) (l : Txt), l.length ≤ f → l.length ≤ g → ddR attr f l = ddR attr g l
  | 0, 0, _, _, _ => rfl
  | 0, g + 1, [], _, _ => rfl
  | f + 1, 0, [], _, _ => rfl
  | f + 1, g + 1, [], _, _ => rfl
  | 0, _, c :: z, h, _ => absurd h (by simp)
  | _, 0, c :: z, _, h => absurd h (by simp)
  | f + 1, g + 1, c :: z, h1, h2 => by
    rw [List.length_cons] at h1 h2
    rw [ddR, ddR, dd_fuel attr f g z (by omega) (by omega), dd_fuel attr f g (z.drop (refM z)) (by rw [List.length_drop]; omega) (by rw [List.length_drop]; omega)]
theorem dd_nil (attr : Bool) : ddL attr [] = [] := rfl
theorem dd_plain (attr : Bool) (c : UInt8) (z : Txt) (h : c ≠ 38) : ddL attr (c :: z) = c :: ddL attr z := by
  unfold ddL
  rw [List.length_cons, ddR, if_neg h]
theorem dd_amp (attr : Bool) (z : Txt) : ddL attr (38 :: z) = refT z attr ++ ddL attr (z.drop (refM z)) := by
  unfold ddL
  rw [List.length_cons, ddR, if_pos rfl, dd_fuel attr z.length (z.drop (refM z)).length _ (by rw [List.length_drop]; omega) (Nat.le_refl _)]
theorem dd_ahead (attr : Bool) (z : Txt) : ∀ p : Txt, 38 ∉ p → ddL attr (p ++ z) = p ++ ddL attr z
  | [], _ => rfl
  | c :: p, h => by
    rw [List.mem_cons, not_or] at h
    rw [List.cons_append, dd_plain attr c _ (fun e => h.1 e.symm), dd_ahead attr z p h.2]; rfl
/-- P7.3: what has no ampersand stays -/
theorem dd_stays (attr : Bool) (p : Txt) (h : 38 ∉ p) : ddL attr p = p := by
  have := dd_ahead attr [] p h
  rwa [List.append_nil, dd_nil, List.append_nil] at this
/-- P7.3: no longer than three times -/
theorem dd_len (attr : Bool) : ∀ (n : Nat) (l : Txt), l.length ≤ n → (ddL attr l).length ≤ 3 * l.length
  | _, [], _ => by rw [dd_nil]; exact Nat.zero_le _
  | 0, c :: z, h => absurd h (by simp)
  | n + 1, c :: z, h => by
    rw [List.length_cons] at h
    by_cases hc : c = 38
    · subst hc
      have ih := dd_len attr n (z.drop (refM z)) (by rw [List.length_drop]; omega)
      have h1 := (refT_len z attr).2
      have h2 := refM_le z
      rw [List.length_drop] at ih
      rw [dd_amp, List.length_append, List.length_cons]
      omega
    · have ih := dd_len attr n z (by omega)
      rw [dd_plain attr c z hc, List.length_cons, List.length_cons]
      omega
/-- with a blank between -/
theorem dd_join (attr : Bool) (b : Txt) : ∀ (n : Nat) (a : Txt), a.length ≤ n → ddL attr (a ++ 32 :: b) = ddL attr a ++ 32 :: ddL attr b
  | _, [], _ => by rw [List.nil_append, dd_plain attr 32 b (by decide)]; rfl
  | 0, c :: z, h => absurd h (by simp)
  | n + 1, c :: z, h => by
    rw [List.length_cons] at h
    by_cases hc : c = 38
    · subst hc
      obtain ⟨h1, h2⟩ := blank_stop z b attr
      have ih := dd_join attr b n (z.drop (refM z)) (by rw [List.length_drop]; omega)
      rw [List.cons_append, dd_amp, dd_amp, h1, h2, drop_app _ _ _ (refM_le z), ih, List.append_assoc]
    · have ih := dd_join attr b n z (by omega)
      rw [List.cons_append, dd_plain attr c _ hc, dd_plain attr c _ hc, ih]; rfl

/-- an ampersand written out -/
theorem amp_look : aOf (nmLook [97, 109, 112, 59]) = 38 ∧ bOf (nmLook [97, 109, 112, 59]) = 0 ∧ (nmLook [97, 109, 112, 59]).isSome = true := ⟨by kernel_rfl, by kernel_rfl, by kernel_rfl⟩
theorem amp_text : textL 38 0 = [38] := by decide
theorem amp_read (z : Txt) (attr : Bool) : refM ([97, 109, 112, 59] ++ z) = 4 ∧ refT ([97, 109, 112, 59] ++ z) attr = [38] := by
  have h1 : isRef ([97, 109, 112, 59] ++ z) 0 = false := by
    unfold isRef
    rw [decide_eq_false_iff_not]
    rintro ⟨-, h, -⟩
    exact absurd (show (97 : UInt8) = 35 from h) (by decide)
  have h2 : bestL nmRows ([97, 109, 112, 59] ++ z) = 4 := best_semi [97, 109, 112, 59] z amp_look.2.2 (by decide)
  have h3 : keepB ([97, 109, 112, 59] ++ z) attr = false := by
    unfold keepB
    rw [h2, show ([97, 109, 112, 59] ++ z : Txt).take 4 = [97, 109, 112, 59] from rfl, show hasSuffix [97, 109, 112, 59] [59] = true by decide, Bool.not_true, Bool.and_false, Bool.false_and]
  unfold refM refT
  rw [h1, h2, h3, show ([97, 109, 112, 59] ++ z : Txt).take 4 = [97, 109, 112, 59] from rfl, amp_look.1, amp_look.2.1, amp_text]
  exact ⟨rfl, rfl⟩
def ampL (l : Txt) : Txt := l.flatMap fun c => if c = 38 then [38, 97, 109, 112, 59] else [c]
theorem ampL_cons (c : UInt8) (l : Txt) : ampL (c :: l) = (if c = 38 then [38, 97, 109, 112, 59] else [c]) ++ ampL l := rfl
theorem ampL_app (a b : Txt) : ampL (a ++ b) = ampL a ++ ampL b := List.flatMap_append
theorem ampL_len (l : Txt) : (ampL l).length ≤ 5 * l.length := by
  induction l with
  | nil => exact Nat.zero_le _
  | cons c l ih =>
    rw [ampL_cons, List.length_append, List.length_cons]
    split
    · simp; omega
    · simp; omega
theorem dd_amps (attr : Bool) : ∀ l : Txt, ddL attr (ampL l) = l
  | [] => rfl
  | c :: l => by
    have ih := dd_amps attr l
    rw [ampL_cons]
    by_cases h : c = 38
    · subst h
      have h1 := amp_read (ampL l) attr
      rw [if_pos rfl, List.cons_append, dd_amp, h1.1, h1.2, show ([97, 109, 112, 59] ++ ampL l : Txt).drop 4 = ampL l from rfl, ih]; rfl
    · rw [if_neg h, List.cons_append, List.nil_append, dd_plain attr c _ h, ih]

/-- an ampersand that is just that -/
theorem just_amp (z : Txt) (attr : Bool) (h : z = [] ∨ ∃ c t, z = c :: t ∧ c ≠ 35 ∧ wordN c = false) : refM z = 0 ∧ refT z attr = [38] := by
  have h1 : isRef z 0 = false := by
    rcases h with rfl | ⟨c, t, rfl, h35, -⟩
    · decide
    · unfold isRef
      rw [decide_eq_false_iff_not]
      rintro ⟨-, h, -⟩
      exact h35 h
  have h2 : bestL nmRows z = 0 := by
    rcases best_mem nmRows z with h0 | ⟨r, hr, hp, e⟩
    · exact h0
    · exfalso
      obtain ⟨x, t, e1, hx, -⟩ := key_form r hr
      rw [e1] at hp
      rcases h with rfl | ⟨c, t', rfl, -, hw⟩
      · exact absurd (List.prefix_nil.1 hp) (List.cons_ne_nil _ _)
      · obtain ⟨rfl, -⟩ := List.cons_prefix_cons.1 hp
        rw [hw] at hx; exact absurd hx (by decide)
  unfold refM refT
  rw [h1, h2]
  exact ⟨rfl, rfl⟩

/-- names: how far, and what is told -/
theorem key_ref (q : Txt) (z : Txt) (h : (nmLook q).isSome = true) : isRef (q ++ z) 0 = false := by
  obtain ⟨r, hr⟩ := Option.isSome_iff_exists.1 h
  obtain ⟨c, t, e, hw, -⟩ := key_form _ (look_row hr)
  simp only at e
  subst e
  unfold isRef
  rw [decide_eq_false_iff_not]
  rintro ⟨-, h35, -⟩
  have : c = 35 := h35
  subst this
  exact absurd hw (by decide)
theorem name_ends (q z : Txt) (attr : Bool) (h : (nmLook q).isSome = true) (hb : bestL nmRows (q ++ z) = q.length) :
    refM (q ++ z) = q.length ∧ refT (q ++ z) attr = if attr && !hasSuffix q [59] && goesB z then 38 :: q else textL (aOf (nmLook q)) (bOf (nmLook q)) := by
  have hr := key_ref q z h
  have hne : q.length ≠ 0 := by
    obtain ⟨r, hr⟩ := Option.isSome_iff_exists.1 h
    have := (nm_row _ (look_row hr)).ne
    exact fun e => this (List.length_eq_zero_iff.1 e)
  unfold refM refT keepB
  rw [hr, hb, List.take_left, List.drop_left, if_neg hne]
  exact ⟨rfl, rfl⟩
theorem name_semi (q z : Txt) (attr : Bool) (h : (nmLook q).isSome = true) (h59 : hasSuffix q [59] = true) :
    refM (q ++ z) = q.length ∧ refT (q ++ z) attr = textL (aOf (nmLook q)) (bOf (nmLook q)) := by
  have h1 := name_ends q z attr h (best_semi q z h h59)
  rw [h59, Bool.not_true, Bool.and_false, Bool.false_and] at h1
  exact h1
theorem name_stop (q : Txt) (c : UInt8) (attr : Bool) (h : (nmLook q).isSome = true) (hw : wordN c = false) (hc : c ≠ 59) :
    refM (q ++ [c]) = q.length ∧ refT (q ++ [c]) attr = if attr && !hasSuffix q [59] && (c == 61) then 38 :: q else textL (aOf (nmLook q)) (bOf (nmLook q)) := by
  have hb : bestL nmRows (q ++ [c]) = q.length := by
    rw [best_stop q [] c hw hc]
    have h1 := best_more q [] h
    have h2 := best_le nmRows q
    rw [List.append_nil] at h1
    omega
  have h1 := name_ends q [c] attr h hb
  rw [show goesB [c] = (c == 61) by show (c == 61 || wordN c) = _; rw [hw, Bool.or_false]] at h1
  exact h1
theorem name_more (q z : Txt) (h : (nmLook q).isSome = true) : q.length ≤ refM (q ++ z) := by
  unfold refM
  rw [key_ref q z h]
  exact best_more q z h

/-- numbers -/
theorem num_ends (D tail : Txt) (attr : Bool) (hD : ∀ c ∈ D, isDig 10 c = true) (hne : D ≠ []) (ht : tail = [] ∨ ∃ c t, tail = c :: t ∧ isDig 10 c = false) :
    refM (35 :: (D ++ tail)) = (if tail.getD 0 0 = 59 then D.length + 2 else D.length + 1) ∧ refT (35 :: (D ++ tail)) attr = (fixS (valD 10 D)).data.toList := by
  obtain ⟨h1, h2, h3⟩ := ref_ten D tail hD hne ht
  have h4 := txtR_yes (k := 0) h3
  have h5 := nxtR_yes (k := 0) h3
  rw [show ((0 : Nat) : Int) = 0 from rfl] at h4 h5
  rw [h1] at h4
  rw [h2] at h5
  unfold refM refT
  rw [if_pos h3, if_pos h3, ← h4]
  refine ⟨?_, rfl⟩
  split at h5
  · rename_i e; rw [if_pos e]; omega
  · rename_i e; rw [if_neg e]; omega
end Go.Proofs.YtdpgdcbclgdjaaaDoor
