/-
  What the laws of layer 11 want of doctypes: plain mathematics.
-/
import Derived.Test.YtcamkphanakkdaaGreatDoorDtMath
namespace Go.Proofs.YtcamkphanakkdaaGreatDoor
open Go.RowKit Go.Lib

/-- the same but for how it is kept, which is no worse if it ended -/
def NoWorse (d e : DocP) : Prop := d = { e with q := d.q } ∧ (d.q = true → e.q = true)
theorem st5_ended (d : DocP) (c : UInt8) (t : Txt) : NoWorse (st5 d true c t) (st5 d false c t) := by
  unfold st5
  split
  · exact ⟨rfl, fun h => h⟩
  · refine ⟨rfl, fun h => ?_⟩
    simp at h
theorem st4_ended (d : DocP) (l : Txt) : NoWorse (st4 d true l) (st4 d false l) := by
  unfold st4
  split
  · exact ⟨rfl, fun h => h⟩
  · split
    · exact st5_ended _ _ _
    · exact ⟨rfl, fun h => h⟩
theorem st3_ended (d : DocP) (l : Txt) : NoWorse (st3 d true l) (st3 d false l) := by
  unfold st3
  split
  · exact ⟨rfl, fun h => h⟩
  · split
    · split
      · exact ⟨rfl, fun h => h⟩
      · split
        · exact ⟨rfl, fun h => by simp at h⟩
        · split
          · exact st5_ended _ _ _
          · exact ⟨rfl, fun h => h⟩
    · exact ⟨rfl, fun h => h⟩
theorem st2_ended (d : DocP) (l : Txt) : NoWorse (st2 d true l) (st2 d false l) := by
  unfold st2
  split
  · exact ⟨rfl, fun h => by simp at h⟩
  · split
    · exact st3_ended _ _
    · split
      · exact st4_ended _ _
      · exact ⟨rfl, fun h => h⟩
theorem parse_ended (l : Txt) : NoWorse (parseD l true) (parseD l false) := by
  unfold parseD
  split
  · exact ⟨rfl, fun h => h⟩
  · exact st2_ended _ _

/-- what isn't there is empty -/
structure Whole (n : Txt) (d : DocP) : Prop where
  name : d.name = n ∧ d.hn = true
  pub : d.hp = false → d.pub = []
  sys : d.hs = false → d.sys = []
theorem st5_whole {n : Txt} {d : DocP} (h : Whole n d) (ended : Bool) (c : UInt8) (t : Txt) : Whole n (st5 d ended c t) := by
  unfold st5
  split
  · exact ⟨h.name, h.pub, fun h => by cases h⟩
  · exact ⟨h.name, h.pub, fun h => by cases h⟩
theorem whole_q {n : Txt} {d : DocP} (h : Whole n d) (b : Bool) : Whole n { d with q := b } := ⟨h.name, h.pub, h.sys⟩
theorem st4_whole {n : Txt} {d : DocP} (h : Whole n d) (ended : Bool) (l : Txt) : Whole n (st4 d ended l) := by
  unfold st4
  split
  · exact whole_q h _
  · split
    · exact st5_whole h _ _ _
    · exact whole_q h _
theorem st3_whole {n : Txt} {d : DocP} (h : Whole n d) (ended : Bool) (l : Txt) : Whole n (st3 d ended l) := by
  have hp : ∀ (x : Txt) (b : Bool), Whole n { d with pub := x, hp := true, q := b } := fun x b => ⟨h.name, fun e => (by cases e), h.sys⟩
  unfold st3
  split
  · exact whole_q h _
  · split
    · split
      · exact hp _ _
      · split
        · exact hp _ _
        · split
          · refine st5_whole ?_ _ _ _
            exact ⟨h.name, fun e => (by cases e), h.sys⟩
          · exact hp _ _
    · exact whole_q h _
theorem st2_whole {n : Txt} {d : DocP} (h : Whole n d) (ended : Bool) (l : Txt) : Whole n (st2 d ended l) := by
  unfold st2
  split
  · exact whole_q h _
  · split
    · exact st3_whole h _ _
    · split
      · exact st4_whole h _ _
      · exact whole_q h _
theorem cleanL_ne (l : Txt) (h : l ≠ []) : cleanL l ≠ [] := by
  intro e
  have := (cleanL_len l).1
  rw [e] at this
  exact h (List.length_eq_zero_iff.1 (Nat.le_zero.1 this))
/-- P11.3 -/
theorem parse_whole (l : Txt) (ended : Bool) : parseD l ended = ⟨[], [], [], false, false, false, true⟩ ∨ ∃ n, n ≠ [] ∧ Whole n (parseD l ended) := by
  unfold parseD
  rcases dw_cases spaB l with h | ⟨c, t, h, hc⟩
  · rw [h]; exact .inl rfl
  · rw [h]
    refine .inr ⟨dtN (c :: t), ?_, st2_whole (d := ⟨dtN (c :: t), [], [], true, false, false, false⟩) ⟨⟨rfl, rfl⟩, fun _ => rfl, fun _ => rfl⟩ _ _⟩
    unfold dtN
    refine cleanL_ne _ fun e => ?_
    have := congrArg List.length e
    rw [lowL_len, List.takeWhile_cons, if_pos (by rw [hc]; rfl)] at this
    simp at this

/-- in small letters -/
def lowD (d : DocP) : DocP := { d with pub := lowL d.pub, sys := lowL d.sys }
theorem low_bytes : ∀ n, n < 256 → spaB (lowB (UInt8.ofNat n)) = spaB (UInt8.ofNat n) ∧ (lowB (UInt8.ofNat n) = 34 ↔ UInt8.ofNat n = 34) ∧ (lowB (UInt8.ofNat n) = 39 ↔ UInt8.ofNat n = 39) ∧ (lowB (UInt8.ofNat n) = 0 ↔ UInt8.ofNat n = 0) ∧ lowB (lowB (UInt8.ofNat n)) = lowB (UInt8.ofNat n) := by decide +kernel
theorem low_byte (c : UInt8) : spaB (lowB c) = spaB c ∧ (lowB c = 34 ↔ c = 34) ∧ (lowB c = 39 ↔ c = 39) ∧ (lowB c = 0 ↔ c = 0) ∧ lowB (lowB c) = lowB c := by
  have := low_bytes c.toNat c.toNat_lt
  rwa [show UInt8.ofNat c.toNat = c by rw [← UInt8.toNat_inj, UInt8.toNat_ofNat']; exact Nat.mod_eq_of_lt c.toNat_lt] at this
theorem low_tw (p : UInt8 → Bool) (h : ∀ c, p (lowB c) = p c) : ∀ l : Txt, (lowL l).takeWhile p = lowL (l.takeWhile p) ∧ (lowL l).dropWhile p = lowL (l.dropWhile p)
  | [] => ⟨rfl, rfl⟩
  | c :: l => by
    obtain ⟨h1, h2⟩ := low_tw p h l
    rw [lowL_cons, List.takeWhile_cons, List.dropWhile_cons, List.takeWhile_cons, List.dropWhile_cons, h]
    cases p c
    · exact ⟨rfl, rfl⟩
    · exact ⟨by rw [if_pos rfl, if_pos rfl, lowL_cons, h1], by rw [if_pos rfl, if_pos rfl, h2]⟩
theorem low_clean : ∀ l : Txt, cleanL (lowL l) = lowL (cleanL l)
  | [] => rfl
  | c :: l => by
    have ih := low_clean l
    by_cases h : c = 0
    · subst h
      rw [lowL_cons, show lowB 0 = 0 by decide, show ∀ z : Txt, cleanL (0 :: z) = 239 :: 191 :: 189 :: cleanL z from fun z => rfl, show cleanL (0 :: l) = 239 :: 191 :: 189 :: cleanL l from rfl, lowL_cons, lowL_cons, lowL_cons, ih]
      rfl
    · have h2 : lowB c ≠ 0 := fun e => h ((low_byte c).2.2.2.1.1 e)
      have e1 : ∀ (d : UInt8) (z : Txt), d ≠ 0 → cleanL (d :: z) = d :: cleanL z := fun d z hd => by
        have := cleanL_app [d] z
        rw [List.singleton_append, cleanL_same [d] (by simpa using Ne.symm hd)] at this
        exact this
      rw [lowL_cons, e1 _ _ h2, e1 _ _ h, lowL_cons, ih]
theorem low_twice (l : Txt) : lowL (lowL l) = lowL l := by
  unfold lowL
  rw [List.map_map]
  refine List.map_congr_left fun c _ => (low_byte c).2.2.2.2
theorem low_quo (c : UInt8) (hc : quoB c = true) (x : UInt8) : (lowB x != c) = (x != c) := by
  unfold quoB at hc
  rw [Bool.or_eq_true, beq_iff_eq, beq_iff_eq] at hc
  rw [Bool.eq_iff_iff, bne_iff_ne, bne_iff_ne]
  rcases hc with rfl | rfl
  · exact not_congr (low_byte x).2.1
  · exact not_congr (low_byte x).2.2.1
theorem quo_low (c : UInt8) : quoB (lowB c) = quoB c ∧ (quoB c = true → lowB c = c) := by
  have h1 := (low_byte c).2.1
  have h2 := (low_byte c).2.2.1
  refine ⟨by unfold quoB; rw [Bool.eq_iff_iff]; simp [h1, h2], fun h => ?_⟩
  unfold quoB at h
  rw [Bool.or_eq_true, beq_iff_eq, beq_iff_eq] at h
  rcases h with rfl | rfl <;> decide
theorem st5_low (d : DocP) (ended : Bool) (c : UInt8) (t : Txt) (hc : quoB c = true) : st5 (lowD d) ended c (lowL t) = lowD (st5 d ended c t) := by
  obtain ⟨h1, h2⟩ := low_tw (· != c) (low_quo c hc) t
  unfold st5
  rw [h1, h2]
  cases t.dropWhile (· != c) with
  | nil => rw [low_clean]; rfl
  | cons x z =>
    rw [lowL_cons]
    simp only
    rw [(low_tw spaB (fun c => (low_byte c).1) z).2]
    have : (lowL (z.dropWhile spaB)).isEmpty = (z.dropWhile spaB).isEmpty := by cases z.dropWhile spaB <;> rfl
    rw [this, low_clean]; rfl
theorem st4_low (d : DocP) (ended : Bool) (l : Txt) : st4 (lowD d) ended (lowL l) = lowD (st4 d ended l) := by
  unfold st4
  rw [(low_tw spaB (fun c => (low_byte c).1) l).2]
  cases l.dropWhile spaB with
  | nil => rfl
  | cons c t =>
    rw [lowL_cons]
    simp only
    rw [(quo_low c).1]
    by_cases hc : quoB c = true
    · rw [if_pos hc, if_pos hc, (quo_low c).2 hc, st5_low d ended c t hc]
    · rw [if_neg hc, if_neg hc]; rfl
theorem st3_low (d : DocP) (ended : Bool) (l : Txt) : st3 (lowD d) ended (lowL l) = lowD (st3 d ended l) := by
  unfold st3
  rw [(low_tw spaB (fun c => (low_byte c).1) l).2]
  cases l.dropWhile spaB with
  | nil => rfl
  | cons c t =>
    rw [lowL_cons]
    simp only
    rw [(quo_low c).1]
    by_cases hc : quoB c = true
    · rw [if_pos hc, if_pos hc, (quo_low c).2 hc]
      obtain ⟨h1, h2⟩ := low_tw (· != c) (low_quo c hc) t
      rw [h1, h2]
      cases t.dropWhile (· != c) with
      | nil => rw [low_clean]; rfl
      | cons x z =>
        rw [lowL_cons]
        simp only
        rw [(low_tw spaB (fun c => (low_byte c).1) z).2]
        cases z.dropWhile spaB with
        | nil => rw [low_clean]; rfl
        | cons e u =>
          rw [lowL_cons]
          simp only
          rw [(quo_low e).1]
          by_cases he : quoB e = true
          · rw [if_pos he, if_pos he, (quo_low e).2 he, low_clean]
            exact st5_low { d with pub := cleanL (t.takeWhile (· != c)), hp := true } ended e u he
          · rw [if_neg he, if_neg he, low_clean]; rfl
    · rw [if_neg hc, if_neg hc]; rfl
theorem st2_low (d : DocP) (ended : Bool) (l : Txt) : st2 (lowD d) ended (lowL l) = lowD (st2 d ended l) := by
  unfold st2
  rw [(low_tw spaB (fun c => (low_byte c).1) l).2]
  cases l.dropWhile spaB with
  | nil => rfl
  | cons c t =>
    have hd : lowL ((c :: t).drop 6) = (lowL (c :: t)).drop 6 := by unfold lowL; rw [List.map_drop]
    have e : lowL (c :: t) = lowB c :: lowL t := lowL_cons c t
    rw [e]
    simp only
    rw [← e, low_twice, ← hd]
    by_cases h1 : pubL.isPrefixOf (lowL (c :: t)) = true
    · rw [if_pos h1, if_pos h1]; exact st3_low _ _ _
    · rw [if_neg h1, if_neg h1]
      by_cases h2 : sysL.isPrefixOf (lowL (c :: t)) = true
      · rw [if_pos h2, if_pos h2]; exact st4_low _ _ _
      · rw [if_neg h2, if_neg h2]; rfl
theorem parse_low (raw : Txt) (ended : Bool) : parseD (lowL raw) ended = lowD (parseD raw ended) := by
  unfold parseD
  rw [(low_tw spaB (fun c => (low_byte c).1) raw).2]
  cases raw.dropWhile spaB with
  | nil => rfl
  | cons c t =>
    have hns : ∀ c, (fun c => !spaB c) (lowB c) = (fun c => !spaB c) c := fun c => by simp only [(low_byte c).1]
    obtain ⟨h1, h2⟩ := low_tw (fun c => !spaB c) hns (c :: t)
    have e : lowL (c :: t) = lowB c :: lowL t := lowL_cons c t
    rw [e]
    simp only
    rw [← e, h2]
    have hn : dtN (lowL (c :: t)) = dtN (c :: t) := by unfold dtN; rw [h1, low_twice]
    rw [hn]
    exact st2_low ⟨dtN (c :: t), [], [], true, false, false, false⟩ ended _
end Go.Proofs.YtcamkphanakkdaaGreatDoor
