/-
  References written out: '#' and digits, with ten and with sixteen; numbers written with ten digits; zeros ahead; a reference and no more: plain mathematics.
-/
import Derived.Test.YtdpgdcbclgdjaaaDoorNumAwake
namespace Go.Proofs.YtdpgdcbclgdjaaaDoor
open Go.RowKit Go.Lib

theorem getD_0 (x : UInt8) (t : List UInt8) : (x :: t).getD 0 0 = x := rfl
theorem getD_1 (x : UInt8) (t : List UInt8) (k : Nat) : (x :: t).getD (k + 1) 0 = t.getD k 0 := rfl
theorem digs_tail (b : Nat) (D tail : List UInt8) (hD : ∀ c ∈ D, isDig b c = true) (ht : tail = [] ∨ ∃ c t, tail = c :: t ∧ isDig b c = false) : digs b (D ++ tail) = D := by
  have h := digs_at b (D ++ tail) D.length (by rw [List.take_left']; exact hD; rfl) (by rw [List.drop_left']; exact ht; rfl)
  rwa [List.take_left' rfl] at h
theorem getD_app (D tail : List UInt8) : (D ++ tail).getD D.length 0 = tail.getD 0 0 := by
  rw [List.getD_eq_getElem?_getD, List.getElem?_append_right (Nat.le_refl _), Nat.sub_self, List.getD_eq_getElem?_getD]

/-- '#' and ten digits -/
theorem ref_ten (D tail : List UInt8) (hD : ∀ c ∈ D, isDig 10 c = true) (hne : D ≠ []) (ht : tail = [] ∨ ∃ c t, tail = c :: t ∧ isDig 10 c = false) :
    txtR (35 :: (D ++ tail)) 0 = fixS (valD 10 D) ∧ nxtR (35 :: (D ++ tail)) 0 = (if tail.getD 0 0 = 59 then (D.length : Int) + 2 else (D.length : Int) + 1) ∧ isRef (35 :: (D ++ tail)) 0 = true := by
  have hx : isX (35 :: (D ++ tail)) 1 = false := by
    cases D with
    | nil => exact absurd rfl hne
    | cons c t =>
      have hc := hD c (List.mem_cons_self ..)
      unfold isX
      rw [getD_1, List.cons_append, getD_0, decide_eq_false_iff_not]
      rintro (rfl | rfl)
      · revert hc; decide
      · revert hc; decide
  have hf : fromN (35 :: (D ++ tail)) 0 = 1 := by unfold fromN; rw [hx]; rfl
  have hd : digsAt (35 :: (D ++ tail)) 0 = D := by
    unfold digsAt
    rw [hx, hf]
    exact digs_tail 10 D tail hD ht
  have hr : isRef (35 :: (D ++ tail)) ((0 : Nat) : Int) = true := by
    unfold isRef
    refine decide_eq_true ⟨by decide, rfl, ?_⟩
    rw [show ((0 : Nat) : Int).toNat = 0 from rfl, hd]; exact hne
  have h1 := txtR_yes hr
  have h2 := nxtR_yes hr
  refine ⟨?_, ?_, hr⟩
  · refine h1.trans ?_
    unfold refN
    rw [hx, hd]; rfl
  · refine h2.trans ?_
    unfold endN
    rw [hf, hd, Nat.add_comm 1, getD_1, getD_app]
    split <;> omega
/-- '#', x or X, and sixteen digits -/
theorem ref_hex (x : UInt8) (D tail : List UInt8) (hx0 : x = 120 ∨ x = 88) (hD : ∀ c ∈ D, isDig 16 c = true) (hne : D ≠ []) (ht : tail = [] ∨ ∃ c t, tail = c :: t ∧ isDig 16 c = false) :
    txtR (35 :: x :: (D ++ tail)) 0 = fixS (valD 16 D) ∧ nxtR (35 :: x :: (D ++ tail)) 0 = (if tail.getD 0 0 = 59 then (D.length : Int) + 3 else (D.length : Int) + 2) ∧ isRef (35 :: x :: (D ++ tail)) 0 = true := by
  have hx : isX (35 :: x :: (D ++ tail)) 1 = true := by
    unfold isX
    rw [getD_1, getD_0]; exact decide_eq_true hx0
  have hf : fromN (35 :: x :: (D ++ tail)) 0 = 2 := by unfold fromN; rw [hx]; rfl
  have hd : digsAt (35 :: x :: (D ++ tail)) 0 = D := by
    unfold digsAt
    rw [hx, hf]
    exact digs_tail 16 D tail hD ht
  have hr : isRef (35 :: x :: (D ++ tail)) ((0 : Nat) : Int) = true := by
    unfold isRef
    refine decide_eq_true ⟨by decide, rfl, ?_⟩
    rw [show ((0 : Nat) : Int).toNat = 0 from rfl, hd]; exact hne
  have h1 := txtR_yes hr
  have h2 := nxtR_yes hr
  refine ⟨?_, ?_, hr⟩
  · refine h1.trans ?_
    unfold refN
    rw [hx, hd]; rfl
  · refine h2.trans ?_
    unfold endN
    rw [hf, hd, Nat.add_comm 2, getD_1, getD_1, getD_app]
    split <;> omega

theorem capN_step (b m d : Nat) (hb : 1 ≤ b) : capN (capN m * b + d) = capN (m * b + d) := by
  unfold capN
  by_cases h : 1114111 < m
  · rw [if_pos h]
    have h1 : 1114112 * 1 ≤ 1114112 * b := Nat.mul_le_mul_left _ hb
    have h2 : 1114112 * b ≤ m * b := Nat.mul_le_mul_right _ h
    rw [if_pos (by omega), if_pos (by omega)]
  · rw [if_neg h]
theorem stepN_cap (b m : Nat) (c : UInt8) (d : Nat) (hb : 1 ≤ b) (h : hexI (c.toNat : Int) = (d : Int)) : stepN b (capN m) c = capN (m * b + d) := by
  rw [step_of b _ c d h, capN_step b m d hb]

/-- a digit's byte -/
def digB (d : Nat) : UInt8 := UInt8.ofNat (48 + d)
theorem digB_int (d : Nat) (h : d < 10) : (((digB d).toNat : Nat) : Int) = 48 + (d : Int) := by
  unfold digB; rw [UInt8.toNat_ofNat']; omega
theorem digB_hex (d : Nat) (h : d < 10) : hexI ((digB d).toNat : Int) = (d : Int) := by
  rw [digB_int d h]; unfold hexI; rw [if_pos (by omega)]; omega
theorem digB_dig (d : Nat) (h : d < 10) : isDig 10 (digB d) = true := dig_yes 10 _ d (digB_hex d h) h

/-- a number written with ten digits -/
def decN : Nat → Nat → List UInt8
  | 0, _ => []
  | f + 1, n => if n < 10 then [digB n] else decN f (n / 10) ++ [digB (n % 10)]
theorem decN_fuel : ∀ (f g n : Nat), n < f → n < g → decN f n = decN g n
  | 0, _, _, h, _ => absurd h (Nat.not_lt_zero _)
  | _, 0, _, _, h => absurd h (Nat.not_lt_zero _)
  | f + 1, g + 1, n, hf, hg => by
    unfold decN
    by_cases h : n < 10
    · rw [if_pos h, if_pos h]
    · rw [if_neg h, if_neg h, decN_fuel f g (n / 10) (by omega) (by omega)]
def decL (n : Nat) : List UInt8 := decN (n + 1) n
theorem decL_small (n : Nat) (h : n < 10) : decL n = [digB n] := by unfold decL decN; rw [if_pos h]
theorem decL_more (n : Nat) (h : ¬ n < 10) : decL n = decL (n / 10) ++ [digB (n % 10)] := by
  have e : decL n = decN n (n / 10) ++ [digB (n % 10)] := by unfold decL; rw [decN, if_neg h]
  rw [e, decL, decN_fuel n (n / 10 + 1) (n / 10) (by omega) (by omega)]
theorem decL_dig : ∀ (m n : Nat), n ≤ m → (∀ c ∈ decL n, isDig 10 c = true) ∧ decL n ≠ [] ∧ (decL n).length ≤ n + 1 ∧ valD 10 (decL n) = capN n
  | m, n, hm => by
    by_cases h : n < 10
    · rw [decL_small n h]
      refine ⟨fun c hc => by rw [List.mem_singleton.1 hc]; exact digB_dig n h, List.cons_ne_nil _ _, by simp, ?_⟩
      have := stepN_cap 10 0 (digB n) n (by decide) (digB_hex n h)
      rw [Nat.zero_mul, Nat.zero_add] at this
      exact this
    · cases m with
      | zero => omega
      | succ m =>
        obtain ⟨h1, h2, h3, h4⟩ := decL_dig m (n / 10) (by omega)
        rw [decL_more n h]
        have hlt : n % 10 < 10 := Nat.mod_lt _ (by decide)
        refine ⟨fun c hc => ?_, by simp, by rw [List.length_append, List.length_singleton]; omega, ?_⟩
        · rcases List.mem_append.1 hc with hc | hc
          · exact h1 c hc
          · rw [List.mem_singleton.1 hc]; exact digB_dig _ hlt
        · rw [valD_snoc, h4, stepN_cap 10 (n / 10) (digB (n % 10)) (n % 10) (by decide) (digB_hex _ hlt)]
          congr 1; omega
def decS (n : Nat) : ByteArray := ⟨(decL n).toArray⟩
theorem decS_list (n : Nat) : (decS n).data.toList = decL n := rfl
theorem decS_size (n : Nat) : (decS n).size = (decL n).length := by rw [Lib.size_eq, decS_list]

/-- zeros ahead -/
theorem valD_zeros (z : Nat) (l : List UInt8) : valD 10 (List.replicate z 48 ++ l) = valD 10 l := by
  have h : valD 10 (List.replicate z 48) = 0 := by
    induction z with
    | zero => rfl
    | succ z ih =>
      rw [List.replicate_succ', valD_snoc, ih]; decide
  unfold valD at h ⊢
  rw [List.foldl_append, h]
theorem dig_48 : isDig 10 48 = true := by decide
theorem dig_59 : isDig 10 59 = false ∧ isDig 16 59 = false ∧ isDig 10 60 = false := by decide
theorem fixS_cap : fixS 1114112 = ⟨#[239, 191, 189]⟩ := by decide +kernel
theorem fixS_len (n : Int) : 1 ≤ (fixS n).size ∧ (fixS n).size ≤ 4 := by
  have h := enc_len (fixN n)
  have e : (fixS n).size = (encodeRune (fixN n)).length := by rw [Lib.size_eq]; rfl
  rw [e]; exact h

theorem endN_eq (l : List UInt8) (k : Nat) : endN l k = if l.getD (fromN l k + (digsAt l k).length) 0 = 59 then fromN l k + (digsAt l k).length + 1 else fromN l k + (digsAt l k).length := rfl
/-- a reference and no more -/
theorem cut_ref (l : List UInt8) (k : Nat) (hr : isRef l (k : Int) = true) :
    isRef (l.take (endN l k)) (k : Int) = true ∧ refN (l.take (endN l k)) k = refN l k ∧ endN (l.take (endN l k)) k = endN l k := by
  unfold isRef at hr
  rw [decide_eq_true_eq, show ((k : Nat) : Int).toNat = k by omega] at hr
  obtain ⟨-, h35, hne⟩ := hr
  have hlen : 0 < (digsAt l k).length := List.length_pos_iff.2 hne
  have hE : endN l k = if l.getD (fromN l k + (digsAt l k).length) 0 = 59 then fromN l k + (digsAt l k).length + 1 else fromN l k + (digsAt l k).length := rfl
  have hf1 : k + 1 ≤ fromN l k := by unfold fromN; split <;> omega
  have hle : fromN l k + (digsAt l k).length ≤ endN l k := by rw [hE]; split <;> omega
  have tk : ∀ i, i < endN l k → (l.take (endN l k)).getD i 0 = l.getD i 0 := fun i hi => by
    rw [List.getD_eq_getElem?_getD, List.getD_eq_getElem?_getD, List.getElem?_take_of_lt hi]
  have hx : isX (l.take (endN l k)) (k + 1) = isX l (k + 1) := by unfold isX; rw [tk _ (by omega)]
  have hf : fromN (l.take (endN l k)) k = fromN l k := by unfold fromN; rw [hx]
  have hdp : digsAt l k = (l.drop (fromN l k)).take (digsAt l k).length := by
    have : digsAt l k <+: l.drop (fromN l k) := List.takeWhile_prefix _
    exact (List.prefix_iff_eq_take.1 this)
  have hdd : ∀ c ∈ digsAt l k, isDig (baseN (isX l (k + 1))) c = true := fun c hc => by
    have := List.all_takeWhile (l := l.drop (fromN l k)) (p := isDig (baseN (isX l (k + 1))))
    exact List.all_eq_true.1 this c hc
  have hd : digsAt (l.take (endN l k)) k = digsAt l k := by
    show digs (baseN (isX (l.take (endN l k)) (k + 1))) ((l.take (endN l k)).drop (fromN (l.take (endN l k)) k)) = digsAt l k
    rw [hx, hf, List.drop_take]
    have e1 : ((l.drop (fromN l k)).take (endN l k - fromN l k)).take (digsAt l k).length = digsAt l k := by
      rw [List.take_take, Nat.min_eq_left (by omega)]; exact hdp.symm
    have := digs_at (baseN (isX l (k + 1))) ((l.drop (fromN l k)).take (endN l k - fromN l k)) (digsAt l k).length (by rw [e1]; exact hdd) (by
      rw [List.drop_take, List.drop_drop]
      by_cases h59 : l.getD (fromN l k + (digsAt l k).length) 0 = 59
      · rw [hE, if_pos h59, show fromN l k + (digsAt l k).length + 1 - fromN l k - (digsAt l k).length = 1 by omega]
        have hlt : fromN l k + (digsAt l k).length < l.length := by
          rcases Nat.lt_or_ge (fromN l k + (digsAt l k).length) l.length with h | h
          · exact h
          · rw [List.getD_eq_getElem?_getD, List.getElem?_eq_none h] at h59; exact absurd h59 (by decide)
        rw [List.drop_eq_getElem_cons hlt]
        have e2 : l[fromN l k + (digsAt l k).length] = 59 := by
          rw [← h59, List.getD_eq_getElem?_getD, List.getElem?_eq_getElem hlt]; rfl
        refine .inr ⟨_, [], by rw [e2]; rfl, ?_⟩
        cases isX l (k + 1)
        · exact dig_59.1
        · exact dig_59.2.1
      · rw [hE, if_neg h59, show fromN l k + (digsAt l k).length - fromN l k - (digsAt l k).length = 0 by omega]
        exact .inl rfl)
    rw [this, e1]
  refine ⟨?_, ?_, ?_⟩
  · unfold isRef
    rw [decide_eq_true_eq, show ((k : Nat) : Int).toNat = k by omega, hd, tk _ (by omega)]
    exact ⟨by omega, h35, hne⟩
  · unfold refN; rw [hx, hd]
  · have e3 : endN (l.take (endN l k)) k = if (l.take (endN l k)).getD (fromN l k + (digsAt l k).length) 0 = 59 then fromN l k + (digsAt l k).length + 1 else fromN l k + (digsAt l k).length := by
      rw [endN_eq (l.take (endN l k)) k, hf, hd]
    rw [e3]
    by_cases h59 : l.getD (fromN l k + (digsAt l k).length) 0 = 59
    · have hEv : endN l k = fromN l k + (digsAt l k).length + 1 := by rw [hE, if_pos h59]
      rw [tk _ (by omega), if_pos h59, hEv]
    · have hEv : endN l k = fromN l k + (digsAt l k).length := by rw [hE, if_neg h59]
      rw [if_neg, hEv]
      rw [hEv, List.getD_eq_getElem?_getD, List.getElem?_eq_none (by rw [List.length_take]; omega)]
      decide

/-- behind a reference that ends in no semicolon stands no digit and no semicolon -/
theorem ref_stop (s : ByteArray) (k : Nat) (hr : isRef s.data.toList (k : Int) = true) :
    k + 1 < endN s.data.toList k ∧ endN s.data.toList k ≤ s.size ∧ ∀ (h1 : endN s.data.toList k - 1 < s.size) (h2 : endN s.data.toList k < s.size), ((s[endN s.data.toList k - 1].toNat : Nat) : Int) ≠ 59 →
      ¬ (48 ≤ ((s[endN s.data.toList k].toNat : Nat) : Int) ∧ ((s[endN s.data.toList k].toNat : Nat) : Int) ≤ 57) ∧ ((s[endN s.data.toList k].toNat : Nat) : Int) ≠ 59 := by
  unfold isRef at hr
  rw [decide_eq_true_eq, show ((k : Nat) : Int).toNat = k by omega] at hr
  obtain ⟨-, h35, hne⟩ := hr
  have hk : k < s.size := getD_size s k (by rw [h35]; decide)
  have hlen : 0 < (digsAt s.data.toList k).length := List.length_pos_iff.2 hne
  have he := end_le s k hk
  have hf := from_le s k hk
  refine ⟨by omega, he.1, ?_⟩
  intro h1 h2 h3
  obtain ⟨e, hee⟩ : ∃ e, fromN s.data.toList k + (digsAt s.data.toList k).length = e := ⟨_, rfl⟩
  have hE : endN s.data.toList k = if s.data.toList.getD e 0 = 59 then e + 1 else e := by rw [← hee]; rfl
  by_cases h59 : s.data.toList.getD e 0 = 59
  · rw [if_pos h59] at hE
    exfalso
    apply h3
    have e1 : s[endN s.data.toList k - 1] = s.data.toList.getD e 0 := by
      rw [getD_is s e (by omega)]
      congr 1; omega
    rw [e1, h59]; rfl
  · rw [if_neg h59] at hE
    have hlt : e < s.size := by omega
    have e1 : s[endN s.data.toList k] = s[e] := by congr 1
    rw [e1]
    have hd : isDig (baseN (isX s.data.toList (k + 1))) s[e] = false := by
      have hdp : digsAt s.data.toList k ++ (s.data.toList.drop (fromN s.data.toList k)).dropWhile (isDig (baseN (isX s.data.toList (k + 1)))) = s.data.toList.drop (fromN s.data.toList k) := List.takeWhile_append_dropWhile
      have hdr : (s.data.toList.drop (fromN s.data.toList k)).dropWhile (isDig (baseN (isX s.data.toList (k + 1)))) = s[e] :: s.data.toList.drop (e + 1) := by
        have := congrArg (List.drop (digsAt s.data.toList k).length) hdp
        rw [List.drop_left' rfl, List.drop_drop, hee, drop_at s e hlt] at this
        exact this
      have h4 := List.head?_dropWhile_not (isDig (baseN (isX s.data.toList (k + 1)))) (s.data.toList.drop (fromN s.data.toList k))
      rw [hdr] at h4
      simpa using h4
    constructor
    · intro h
      have hh : hexI (s[e].toNat : Int) = (s[e].toNat : Int) - 48 := by unfold hexI; rw [if_pos h]
      unfold isDig at hd
      rw [hh, decide_eq_false_iff_not] at hd
      have : (10 : Int) ≤ (baseN (isX s.data.toList (k + 1)) : Int) := by cases isX s.data.toList (k + 1) <;> decide
      omega
    · intro h
      apply h59
      rw [getD_is s e hlt]
      exact u8_eq _ 59 (by decide) h
theorem ref_stop' (s : ByteArray) (k E : Nat) (hr : isRef s.data.toList (k : Int) = true) (hE : endN s.data.toList k = E) :
    k + 1 < E ∧ E ≤ s.size ∧ ∀ (h1 : E - 1 < s.size) (h2 : E < s.size), ((s[E - 1].toNat : Nat) : Int) ≠ 59 →
      ¬ (48 ≤ ((s[E].toNat : Nat) : Int) ∧ ((s[E].toNat : Nat) : Int) ≤ 57) ∧ ((s[E].toNat : Nat) : Int) ≠ 59 := by
  subst hE; exact ref_stop s k hr
end Go.Proofs.YtdpgdcbclgdjaaaDoor
