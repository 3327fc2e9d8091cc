/-
  What a comment is: its beginning, its text, its end: plain mathematics.
-/
import Derived.Test.YtcamkphanakkdaaDoorPT
import Derived.Test.YtcamkphanakkdaaDoorP1
import Derived.Test.YtcamkphanakkdaaDoorP4
namespace Go.Proofs.YtcamkphanakkdaaDoor
open Go.RowKit Go.Lib

/-- doctype -/
def dtL : Txt := [100, 111, 99, 116, 121, 112, 101]
/-- P10.1, of what stands at a place -/
def begC : Txt → Bool
  | 60 :: 33 :: t => !(dtL.isPrefixOf (lowL t))
  | 60 :: 63 :: _ => true
  | 60 :: 47 :: c :: _ => !(c == 62) && !(letterI (c.toNat : Int))
  | _ => false
/-- the first end behind the beginning: what stands ahead of it, and how many bytes that and the end are -/
def scanC : Txt → Option (Txt × Nat)
  | [] => none
  | c :: t => if [45, 45, 62].isPrefixOf (c :: t) = true then some ([], 3) else if [45, 45, 33, 62].isPrefixOf (c :: t) = true then some ([], 4) else (scanC t).map fun r => (c :: r.1, r.2 + 1)
/-- without an end -/
def tailC (l : Txt) : Txt :=
  if [45, 45, 33].isSuffixOf l = true then l.take (l.length - 3) else if [45, 45].isSuffixOf l = true then l.take (l.length - 2) else if [45].isSuffixOf l = true then l.take (l.length - 1) else l
def plainC (l : Txt) : Txt × Nat :=
  if [62].isPrefixOf l = true then ([], 1) else if [45, 62].isPrefixOf l = true then ([], 2) else match scanC l with
    | some r => r
    | none => (tailC l, l.length)
/-- up to the next bracket -/
def bogC (l : Txt) : Txt × Nat := (l.takeWhile (· != 62), l.length - ((l.dropWhile (· != 62)).tail).length)
/-- P10.2, of what stands at a place: the text as it stands there, and how many bytes -/
def comR (l : Txt) : Txt × Nat :=
  if [60, 33, 45, 45].isPrefixOf l = true then ((plainC (l.drop 4)).1, (plainC (l.drop 4)).2 + 4)
  else if (l.drop 1).head? = some 63 then ((bogC (l.drop 1)).1, (bogC (l.drop 1)).2 + 1) else ((bogC (l.drop 2)).1, (bogC (l.drop 2)).2 + 2)
def comT (x : Txt) : TokP := ⟨3, [], cleanL x, [], false⟩
def cbegV (s : Txt) (a : Int) : Bool := decide (0 ≤ a) && begC (s.drop a.toNat)
def comV (s : Txt) (a : Int) : TokP × Int × Bool :=
  if cbegV s a = true then (comT (comR (s.drop a.toNat)).1, a + ((comR (s.drop a.toNat)).2 : Int), true) else (zeroT, a, false)
theorem com_no (s : Txt) (a : Int) (h : cbegV s a = false) : comV s a = (zeroT, a, false) := by
  unfold comV; rw [h]; rfl
theorem cbeg_in (s : Txt) (k : Nat) : cbegV s (k : Int) = begC (s.drop k) := by
  unfold cbegV
  rw [show ((k : Nat) : Int).toNat = k by omega, decide_eq_true (by omega), Bool.true_and]
theorem com_in (s : Txt) (k : Nat) (h : begC (s.drop k) = true) : comV s (k : Int) = (comT (comR (s.drop k)).1, ((k + (comR (s.drop k)).2 : Nat) : Int), true) := by
  unfold comV
  rw [cbeg_in, h, if_pos rfl, show ((k : Nat) : Int).toNat = k by omega, Int.natCast_add]

/-- the two marks of a scan -/
theorem scan_step (c : UInt8) (t : Txt) (h1 : [45, 45, 62].isPrefixOf (c :: t) = false) (h2 : [45, 45, 33, 62].isPrefixOf (c :: t) = false) : scanC (c :: t) = (scanC t).map fun r => (c :: r.1, r.2 + 1) := by
  rw [scanC, h1, h2]; rfl
theorem scan_hit3 (t : Txt) : scanC (45 :: 45 :: 62 :: t) = some ([], 3) := by
  rw [scanC, if_pos (by simp [List.isPrefixOf])]
theorem scan_hit4 (t : Txt) : scanC (45 :: 45 :: 33 :: 62 :: t) = some ([], 4) := by
  rw [scanC, if_neg (by simp [List.isPrefixOf]), if_pos (by simp [List.isPrefixOf])]
/-- no two strokes side by side -/
def NoTwo (l : List UInt8) : Prop := ∀ i : Nat, l[i]? = some 45 → l[i + 1]? ≠ some 45
theorem noTwo_tail {c : UInt8} {l : Txt} (h : NoTwo (c :: l)) : NoTwo l := fun i hi => by
  have := h (i + 1)
  rw [List.getElem?_cons_succ, List.getElem?_cons_succ] at this
  exact this hi
/-- a text that has no two strokes side by side, and doesn't end in one, has no end within it, whatever stands behind -/
theorem scan_through : ∀ (l r : Txt), NoTwo l → l.getLast? ≠ some 45 → scanC (l ++ r) = (scanC r).map fun x => (l ++ x.1, x.2 + l.length)
  | [], r, _, _ => by
    rw [List.nil_append]
    cases scanC r <;> rfl
  | c :: l, r, h, hl => by
    have hp : ∀ z : Txt, ¬ ([45, 45].isPrefixOf (c :: (l ++ r)) = true ∧ z = z) := by
      intro z hz
      cases l with
      | nil =>
        simp only [List.nil_append] at hz
        have hc : c = 45 := by
          cases r <;> simp [List.isPrefixOf] at hz
          exact hz.1.symm
        exact hl (by rw [hc]; rfl)
      | cons d l =>
        simp [List.isPrefixOf] at hz
        exact h 0 (by rw [← hz.1]; rfl) (by rw [← hz.2]; rfl)
    have h1 : [45, 45, 62].isPrefixOf (c :: (l ++ r)) = false := by
      rw [Bool.eq_false_iff]; intro e
      refine hp [] ⟨?_, rfl⟩
      cases hx : l ++ r with
      | nil => rw [hx] at e; simp [List.isPrefixOf] at e
      | cons d z => rw [hx] at e; simp [List.isPrefixOf] at e ⊢; exact ⟨e.1, e.2.1⟩
    have h2 : [45, 45, 33, 62].isPrefixOf (c :: (l ++ r)) = false := by
      rw [Bool.eq_false_iff]; intro e
      refine hp [] ⟨?_, rfl⟩
      cases hx : l ++ r with
      | nil => rw [hx] at e; simp [List.isPrefixOf] at e
      | cons d z => rw [hx] at e; simp [List.isPrefixOf] at e ⊢; exact ⟨e.1, e.2.1⟩
    have hl2 : l.getLast? ≠ some 45 := by
      cases l with
      | nil => simp
      | cons d l => rw [List.getLast?_cons_cons] at hl; exact hl
    rw [List.cons_append, scan_step c (l ++ r) h1 h2, scan_through l r (noTwo_tail h) hl2]
    cases scanC r with
    | none => rfl
    | some x => simp; omega
/-- what a scan finds ends in a bracket -/
theorem scan_ends : ∀ (l x : Txt) (n : Nat), scanC l = some (x, n) → 3 ≤ n ∧ n ≤ l.length ∧ x.length ≤ n ∧ l.getD (n - 1) 0 = 62
  | [], x, n, h => by cases h
  | c :: t, x, n, h => by
    rw [scanC] at h
    by_cases h1 : [45, 45, 62].isPrefixOf (c :: t) = true
    · rw [if_pos h1] at h
      simp only [Option.some.injEq, Prod.mk.injEq] at h
      obtain ⟨rfl, rfl⟩ := h
      match t, h1 with
      | [], h1 => simp [List.isPrefixOf] at h1
      | [d], h1 => simp [List.isPrefixOf] at h1
      | d :: e :: r, h1 =>
        simp [List.isPrefixOf] at h1
        refine ⟨by decide, by simp, by simp, ?_⟩
        rw [← h1.2.2]; rfl
    · rw [if_neg h1] at h
      by_cases h2 : [45, 45, 33, 62].isPrefixOf (c :: t) = true
      · rw [if_pos h2] at h
        simp only [Option.some.injEq, Prod.mk.injEq] at h
        obtain ⟨rfl, rfl⟩ := h
        match t, h2 with
        | [], h2 => simp [List.isPrefixOf] at h2
        | [d], h2 => simp [List.isPrefixOf] at h2
        | [d, e], h2 => simp [List.isPrefixOf] at h2
        | d :: e :: f :: r, h2 =>
          simp [List.isPrefixOf] at h2
          refine ⟨by decide, by simp, by simp, ?_⟩
          rw [← h2.2.2.2]; rfl
      · rw [if_neg h2] at h
        cases hr : scanC t with
        | none => rw [hr] at h; cases h
        | some y =>
          obtain ⟨y, m⟩ := y
          rw [hr] at h
          simp only [Option.map_some, Option.some.injEq, Prod.mk.injEq] at h
          obtain ⟨rfl, rfl⟩ := h
          obtain ⟨e1, e2, e3, e4⟩ := scan_ends t y m hr
          refine ⟨by omega, by simp; omega, by simp; omega, ?_⟩
          rw [show m + 1 - 1 = (m - 1) + 1 by omega, List.getD_cons_succ]; exact e4
end Go.Proofs.YtcamkphanakkdaaDoor
