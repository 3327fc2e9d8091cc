/-
  An attribute that stands at a place, read at once: its name, its value, how many bytes it has: plain mathematics.
-/
import Derived.Test.YtpdmnnfbdeiejaaGreatDoorAttMath
namespace Go.Proofs.YtpdmnnfbdeiejaaGreatDoor
open Go.RowKit Go.Lib

/-- a value without quotes goes on; a name goes on -/
def valB (c : UInt8) : Bool := !(spB c || c == 62)
def nameB (c : UInt8) : Bool := !endB c

theorem take_tw (p : UInt8 → Bool) (l : Txt) : l.take (l.takeWhile p).length = l.takeWhile p := by
  conv => lhs; arg 2; rw [← List.takeWhile_append_dropWhile (p := p) (l := l)]
  exact List.take_left
theorem drop_tw (p : UInt8 → Bool) (l : Txt) : l.drop (l.takeWhile p).length = l.dropWhile p := by
  conv => lhs; arg 2; rw [← List.takeWhile_append_dropWhile (p := p) (l := l)]
  exact List.drop_left
theorem tw_le (p : UInt8 → Bool) (l : Txt) : (l.takeWhile p).length ≤ l.length := (List.takeWhile_sublist p).length_le
theorem tw_yes {p : UInt8 → Bool} {c : UInt8} {t : Txt} (h : p c = true) : (c :: t).takeWhile p = c :: t.takeWhile p := by rw [List.takeWhile_cons, if_pos h]
theorem tw_no {p : UInt8 → Bool} {c : UInt8} {t : Txt} (h : p c = false) : (c :: t).takeWhile p = [] := by rw [List.takeWhile_cons, h]; rfl
theorem dw_yes {p : UInt8 → Bool} {c : UInt8} {t : Txt} (h : p c = true) : (c :: t).dropWhile p = t.dropWhile p := by rw [List.dropWhile_cons, if_pos h]
theorem dw_no {p : UInt8 → Bool} {c : UInt8} {t : Txt} (h : p c = false) : (c :: t).dropWhile p = c :: t := by rw [List.dropWhile_cons, h]; rfl
theorem dw_head (p : UInt8 → Bool) : ∀ (l : Txt) (c : UInt8) (t : Txt), l.dropWhile p = c :: t → p c = false
  | [], c, t, h => by simp at h
  | d :: l, c, t, h => by
    cases hp : p d
    · rw [dw_no hp] at h
      injection h with h1 h2
      rw [← h1]; exact hp
    · rw [dw_yes hp] at h; exact dw_head p l c t h

theorem upN_add (a b : Nat) (r : Option Told) : (r.map (upN a)).map (upN b) = r.map (upN (a + b)) := by
  cases r with
  | none => rfl
  | some r => simp [upN, Nat.add_assoc]
theorem upN_nil (r : Option Told) : r.map (upN 0) = r := by
  cases r <;> rfl

theorem scan1 (l : List Ln) : ∀ (t nm : Txt), runA (.s1 l nm) t = (runA (.s2 l (nm ++ t.takeWhile nameB)) (t.dropWhile nameB)).map (upN (t.takeWhile nameB).length)
  | [], nm => by rw [List.dropWhile_nil, run_nil, run_nil]; rfl
  | c :: t, nm => by
    cases h : endB c
    · have hn : nameB c = true := by unfold nameB; rw [h]; rfl
      rw [run_more (go1_more h), scan1 l t (nm ++ [c]), tw_yes hn, dw_yes hn, upN_add, List.append_assoc, List.length_cons]; rfl
    · have hn : nameB c = false := by unfold nameB; rw [h]; rfl
      rw [tw_no hn, dw_no hn, List.append_nil, run_same (go1_end h)]; exact (upN_nil _).symm
theorem scan2 (l : List Ln) (nm : Txt) : ∀ t : Txt, runA (.s2 l nm) t = (runA (.s2 l nm) (t.dropWhile spB)).map (upN (t.takeWhile spB).length)
  | [] => by rw [List.dropWhile_nil, run_nil]; rfl
  | c :: t => by
    cases h : spB c
    · rw [tw_no h, dw_no h]; exact (upN_nil _).symm
    · rw [run_more (go2_space h), scan2 l nm t, tw_yes h, dw_yes h, upN_add]; rfl
theorem scan3 (l : List Ln) (nm : Txt) : ∀ t : Txt, runA (.s3 l nm) t = (runA (.s3 l nm) (t.dropWhile spB)).map (upN (t.takeWhile spB).length)
  | [] => by rw [List.dropWhile_nil, run_nil]; rfl
  | c :: t => by
    cases h : spB c
    · rw [tw_no h, dw_no h]; exact (upN_nil _).symm
    · rw [run_more (go3_space h), scan3 l nm t, tw_yes h, dw_yes h, upN_add]; rfl
theorem scan5 (l : List Ln) (nm : Txt) : ∀ (t v : Txt), runA (.s5 l nm v) t = (runA (.s0 (addL l nm (v ++ t.takeWhile valB))) (t.dropWhile valB)).map (upN (t.takeWhile valB).length)
  | [], v => by rw [List.dropWhile_nil, run_nil, run_nil]; rfl
  | c :: t, v => by
    cases h : (spB c || c == 62)
    · have hn : valB c = true := by unfold valB; rw [h]; rfl
      rw [run_more (go5_more h), scan5 l nm t (v ++ [c]), tw_yes hn, dw_yes hn, upN_add, List.append_assoc, List.length_cons]; rfl
    · have hn : valB c = false := by unfold valB; rw [h]; rfl
      rw [tw_no hn, dw_no hn, List.append_nil, run_same (go5_end h)]; exact (upN_nil _).symm
theorem scan4 (l : List Ln) (nm : Txt) (q : UInt8) : ∀ (t v : Txt), runA (.s4 l nm v q) t = (runA (.s0 (addL l nm (v ++ t.takeWhile (· != q)))) ((t.dropWhile (· != q)).tail)).map (upN ((t.takeWhile (· != q)).length + 1))
  | [], v => by rw [List.dropWhile_nil, run_nil, List.tail_nil, run_nil]; rfl
  | c :: t, v => by
    by_cases h : c = q
    · have hn : (c != q) = false := by simpa using h
      rw [tw_no (p := (· != q)) hn, dw_no (p := (· != q)) hn, List.append_nil, run_more (go4_end h), List.tail_cons]; rfl
    · have hn : (c != q) = true := by simpa using h
      rw [run_more (go4_more h), scan4 l nm q t (v ++ [c]), tw_yes (p := (· != q)) hn, dw_yes (p := (· != q)) hn, upN_add, List.append_assoc, List.length_cons]; rfl

/-- a value that stands at a place: its bytes, and how many bytes are read -/
def valT : Txt → Txt × Nat
  | [] => ([], 0)
  | c :: t => if c = 34 ∨ c = 39 then (t.takeWhile (· != c), (c :: t).length - ((t.dropWhile (· != c)).tail).length)
    else ((c :: t).takeWhile valB, ((c :: t).takeWhile valB).length)
/-- an attribute: the name's bytes, the value's, and how many are read -/
def anT (l : Txt) : Txt := l.take 1 ++ (l.drop 1).takeWhile nameB
def attV (r : Txt) (k : Nat) : Txt × Nat :=
  if r.head? = some 61 then ((valT ((r.drop 1).dropWhile spB)).1, k + 1 + ((r.drop 1).takeWhile spB).length + (valT ((r.drop 1).dropWhile spB)).2) else ([], k)
def attT (l : Txt) : Txt × Nat :=
  attV ((l.drop (anT l).length).dropWhile spB) ((anT l).length + ((l.drop (anT l).length).takeWhile spB).length)
theorem valT_cons (c : UInt8) (t : Txt) : valT (c :: t) = if c = 34 ∨ c = 39 then (t.takeWhile (· != c), (c :: t).length - ((t.dropWhile (· != c)).tail).length)
    else ((c :: t).takeWhile valB, ((c :: t).takeWhile valB).length) := rfl
theorem valT_le (l : Txt) : (valT l).2 ≤ l.length := by
  cases l with
  | nil => exact Nat.le_refl _
  | cons c t =>
    rw [valT_cons]
    split
    · exact Nat.sub_le _ _
    · exact tw_le _ _
theorem valT_len (l : Txt) : (valT l).1.length ≤ l.length := by
  cases l with
  | nil => exact Nat.le_refl _
  | cons c t =>
    rw [valT_cons]
    split
    · have := tw_le (· != c) t
      simp only [List.length_cons]; omega
    · exact tw_le _ _
theorem anT_le (l : Txt) : (anT l).length ≤ l.length := by
  cases l with
  | nil => exact Nat.le_refl _
  | cons c t =>
    have := tw_le nameB t
    simp [anT]; omega
theorem run_val (l : List Ln) (nm t : Txt) : runA (.s3 l nm) (t.dropWhile spB) = (runA (.s0 (addL l nm (valT (t.dropWhile spB)).1)) ((t.dropWhile spB).drop (valT (t.dropWhile spB)).2)).map (upN (valT (t.dropWhile spB)).2) := by
  cases h : t.dropWhile spB with
  | nil => rw [run_nil, List.drop_nil, run_nil]; rfl
  | cons c r =>
    have hs := dw_head spB t c r h
    by_cases hq : c = 34 ∨ c = 39
    · have e : valT (c :: r) = (r.takeWhile (· != c), (c :: r).length - ((r.dropWhile (· != c)).tail).length) := if_pos hq
      have hl : (r.takeWhile (· != c)).length + (r.dropWhile (· != c)).length = r.length := by rw [← List.length_append, List.takeWhile_append_dropWhile]
      have ht := List.length_tail (l := r.dropWhile (· != c))
      rw [e, run_more (go3_quote hq), scan4, List.nil_append, upN_add]
      simp only
      cases hd : r.dropWhile (· != c) with
      | nil =>
        rw [hd] at hl
        rw [List.tail_nil, run_nil, List.length_nil, List.drop_eq_nil_of_le (Nat.le_of_eq (Nat.sub_zero _).symm), run_nil]; rfl
      | cons d z =>
        rw [hd] at hl
        rw [List.tail_cons, List.length_cons]
        rw [List.length_cons] at hl
        rw [show r.length + 1 - z.length = (r.takeWhile (· != c)).length + 1 + 1 by omega, List.drop_succ_cons, ← List.drop_drop, drop_tw, hd]; rfl
    · by_cases h62 : c = 62
      · have hv : valB c = false := by rw [h62]; decide
        have e : valT (c :: r) = ([], 0) := by rw [valT_cons, if_neg hq, tw_no hv]; rfl
        rw [e, run_same (go3_end h62), List.drop_zero]; exact (upN_nil _).symm
      · have e : valT (c :: r) = ((c :: r).takeWhile valB, ((c :: r).takeWhile valB).length) := if_neg hq
        rw [e, run_same (go3_else hs hq h62), scan5, List.nil_append]
        simp only
        rw [drop_tw]
/-- what begins an attribute -/
def begB (c : UInt8) : Bool := !(spB c || c == 62 || c == 47)
theorem run_att (l : List Ln) (c : UInt8) (t : Txt) (h : begB c = true) :
    runA (.s0 l) (c :: t) = (runA (.s0 (addL l (anT (c :: t)) (attT (c :: t)).1)) ((c :: t).drop (attT (c :: t)).2)).map (upN (attT (c :: t)).2) := by
  have hb : spB c = false ∧ c ≠ 62 ∧ c ≠ 47 := by
    unfold begB at h
    cases hs : spB c <;> rw [hs] at h <;> simp at h
    exact ⟨rfl, h.1, h.2⟩
  have en : anT (c :: t) = c :: t.takeWhile nameB := rfl
  have el : (anT (c :: t)).length = (t.takeWhile nameB).length + 1 := by rw [en]; rfl
  have ed : (c :: t).drop (anT (c :: t)).length = t.dropWhile nameB := by rw [el, List.drop_succ_cons, drop_tw]
  rw [run_more (go0_name hb.1 hb.2.1 hb.2.2), scan1, scan2, upN_add, upN_add, List.cons_append, List.nil_append]
  obtain ⟨N, hN⟩ : ∃ N, anT (c :: t) = N := ⟨_, rfl⟩
  obtain ⟨r, hr⟩ : ∃ r, (t.dropWhile nameB).dropWhile spB = r := ⟨_, rfl⟩
  obtain ⟨K, hK⟩ : ∃ K, ((t.dropWhile nameB).takeWhile spB).length + ((t.takeWhile nameB).length + 1) = K := ⟨_, rfl⟩
  have hdr : (c :: t).drop K = r := by
    rw [← hK, show ((t.dropWhile nameB).takeWhile spB).length + ((t.takeWhile nameB).length + 1) = (anT (c :: t)).length + ((t.dropWhile nameB).takeWhile spB).length by rw [el]; omega, ← List.drop_drop, ed, drop_tw, hr]
  have ea : attT (c :: t) = if r.head? = some 61 then ((valT ((r.drop 1).dropWhile spB)).1, K + 1 + ((r.drop 1).takeWhile spB).length + (valT ((r.drop 1).dropWhile spB)).2) else ([], K) := by
    unfold attT
    rw [ed, hr, show (anT (c :: t)).length + ((t.dropWhile nameB).takeWhile spB).length = K by rw [el]; omega]
    rfl
  rw [show (c :: t.takeWhile nameB) = N by rw [← hN, en], hN, hr, hK, ea]
  cases r with
  | nil => rw [if_neg (by simp), run_nil]; simp only; rw [hdr, run_nil]
  | cons d z =>
    have hs := dw_head spB _ d z hr
    by_cases h61 : d = 61
    · rw [if_pos (by rw [h61]; rfl), List.drop_one, List.tail_cons, run_more (go2_eq h61), scan3, upN_add, upN_add, run_val, upN_add]
      simp only
      rw [show (c :: t).drop (K + 1 + (z.takeWhile spB).length + (valT (z.dropWhile spB)).2) = (z.dropWhile spB).drop (valT (z.dropWhile spB)).2 by
        rw [← List.drop_drop, ← List.drop_drop, ← List.drop_drop, hdr, List.drop_one, List.tail_cons, drop_tw]]
      rw [show (valT (z.dropWhile spB)).2 + ((z.takeWhile spB).length + (1 + K)) = K + 1 + (z.takeWhile spB).length + (valT (z.dropWhile spB)).2 by omega]
    · rw [if_neg (by intro h; injection h with h; exact h61 h), run_same (go2_else hs h61)]
      simp only
      rw [hdr]
theorem attT_bounds (c : UInt8) (t : Txt) : 1 ≤ (attT (c :: t)).2 ∧ (attT (c :: t)).2 ≤ (c :: t).length ∧ (attT (c :: t)).1.length ≤ (c :: t).length := by
  have en : anT (c :: t) = c :: t.takeWhile nameB := rfl
  have el : (anT (c :: t)).length = (t.takeWhile nameB).length + 1 := by rw [en]; rfl
  have ed : (c :: t).drop (anT (c :: t)).length = t.dropWhile nameB := by rw [el, List.drop_succ_cons, drop_tw]
  have h1 : (t.takeWhile nameB).length + (t.dropWhile nameB).length = t.length := by rw [← List.length_append, List.takeWhile_append_dropWhile]
  have h2 : ((t.dropWhile nameB).takeWhile spB).length + ((t.dropWhile nameB).dropWhile spB).length = (t.dropWhile nameB).length := by rw [← List.length_append, List.takeWhile_append_dropWhile]
  unfold attT
  rw [ed, el]
  unfold attV
  split
  · rename_i hh
    obtain ⟨r, hr⟩ : ∃ r, (t.dropWhile nameB).dropWhile spB = r := ⟨_, rfl⟩
    rw [hr] at hh h2 ⊢
    cases r with
    | nil => simp at hh
    | cons d z =>
      have h3 : (z.takeWhile spB).length + (z.dropWhile spB).length = z.length := by rw [← List.length_append, List.takeWhile_append_dropWhile]
      have h4 := valT_le (z.dropWhile spB)
      have h5 := valT_len (z.dropWhile spB)
      simp only [List.drop_succ_cons, List.drop_zero, List.length_cons] at *
      omega
  · simp only [List.length_cons, List.length_nil]
    omega
end Go.Proofs.YtpdmnnfbdeiejaaGreatDoor
