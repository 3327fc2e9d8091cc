/-
  Texts laid together: TagMath, TagSim, TagTok, ComMath, ComLaws, ComTold, Scan, DtMath, DtLaws, TxtMath, RawMath, RawText, ScrMath.
-/
import Derived.Test.YtbcmfcddkegcoaaGreatDoorP7
import Derived.Test.YtbcmfcddkegcoaaGreatDoorPT
import Derived.Test.YtbcmfcddkegcoaaGreatDoorP1
import Derived.Test.YtbcmfcddkegcoaaGreatDoorP4
import Derived.Test.YtbcmfcddkegcoaaGreatDoorP6
import Derived.Test.YtbcmfcddkegcoaaGreatDoorP3
/-! What a tag is: its beginning, its name, its attributes: plain mathematics. -/
namespace Go.Proofs.YtbcmfcddkegcoaaGreatDoor
open Go.RowKit Go.Lib

/-- a tag's name goes on; a letter -/
def tagB (c : UInt8) : Bool := !(spB c || c == 47 || c == 62)
def letB (c : UInt8) : Bool := letterI (c.toNat : Int)
/-- how many bytes stand ahead of a tag's name; 0: none begins -/
def begT (l : Txt) : Nat :=
  if l.head? = some 60 then
    (if (l.drop 1).head? = some 47 then (if (l.drop 2).head?.any letB = true then 2 else 0) else (if (l.drop 1).head?.any letB = true then 1 else 0))
  else 0
/-- a tag whose name is 'nm', with k bytes ahead of it -/
def tokT (k : Nat) (nm : Txt) (l : List Ln) (self : Bool) : TokP := if k = 1 then ⟨1, tellN nm, [], l, self⟩ else ⟨2, tellN nm, [], [], false⟩
/-- the name's bytes -/
def tgN (l : Txt) : Txt := (l.drop (begT l)).takeWhile tagB
/-- what is read, if a tag begins -/
noncomputable def tagR (l : Txt) : Option (TokP × Nat) :=
  (runA (.s0 []) (l.drop (begT l + (tgN l).length))).map fun r => (tokT (begT l) (tgN l) r.1 r.2.1, begT l + (tgN l).length + r.2.2)
/-- P9.1, P9.2 for any place -/
def begV (s : Txt) (a : Int) : Bool := decide (0 ≤ a ∧ begT (s.drop a.toNat) ≠ 0)
noncomputable def tagV (s : Txt) (a : Int) : TokP × Int × Bool :=
  if 0 ≤ a ∧ begT (s.drop a.toNat) ≠ 0 then match tagR (s.drop a.toNat) with
    | none => (zeroT, (s.length : Int), false)
    | some (t, n) => (t, a + (n : Int), true)
  else (zeroT, a, false)
theorem tag_out (s : Txt) (a : Int) (h : ¬ (0 ≤ a ∧ begT (s.drop a.toNat) ≠ 0)) : tagV s a = (zeroT, a, false) ∧ begV s a = false := ⟨if_neg h, decide_eq_false h⟩
theorem tag_none (s : Txt) (k : Nat) (hb : begT (s.drop k) ≠ 0) (h : tagR (s.drop k) = none) : tagV s (k : Int) = (zeroT, (s.length : Int), false) := by
  unfold tagV
  rw [show ((k : Nat) : Int).toNat = k by omega, if_pos ⟨by omega, hb⟩, h]
theorem tag_some (s : Txt) (k : Nat) (hb : begT (s.drop k) ≠ 0) (t : TokP) (n : Nat) (h : tagR (s.drop k) = some (t, n)) : tagV s (k : Int) = (t, ((k + n : Nat) : Int), true) := by
  unfold tagV
  rw [show ((k : Nat) : Int).toNat = k by omega, if_pos ⟨by omega, hb⟩, h]
  simp only [Int.natCast_add]
theorem beg_in (s : Txt) (k : Nat) : begV s (k : Int) = decide (begT (s.drop k) ≠ 0) := by
  unfold begV
  rw [show ((k : Nat) : Int).toNat = k by omega]
  simp
theorem beg_nil : begT [] = 0 := by decide

/-- what begins a tag -/
theorem beg_cases (l : Txt) (h : begT l ≠ 0) : ∃ c t, letB c = true ∧ ((l = 60 :: c :: t ∧ begT l = 1 ∧ c ≠ 47) ∨ (l = 60 :: 47 :: c :: t ∧ begT l = 2)) := by
  unfold begT at h ⊢
  by_cases h60 : l.head? = some 60
  · rw [if_pos h60] at h
    simp only [if_pos h60]
    cases l with
    | nil => simp at h60
    | cons d r =>
      simp only [List.head?_cons, Option.some.injEq] at h60
      subst h60
      simp only [List.drop_succ_cons, List.drop_zero] at h ⊢
      by_cases h47 : r.head? = some 47
      · rw [if_pos h47] at h
        simp only [if_pos h47]
        cases r with
        | nil => simp at h47
        | cons e z =>
          simp only [List.head?_cons, Option.some.injEq] at h47
          subst h47
          simp only [List.drop_succ_cons, List.drop_zero] at h ⊢
          cases z with
          | nil => simp at h
          | cons c t =>
            simp only [List.head?_cons, Option.any_some] at h ⊢
            by_cases hc : letB c = true
            · exact ⟨c, t, hc, .inr ⟨rfl, by simp [hc]⟩⟩
            · simp [hc] at h
      · rw [if_neg h47] at h
        simp only [if_neg h47]
        cases r with
        | nil => simp at h
        | cons c t =>
          simp only [List.head?_cons, Option.any_some] at h ⊢
          by_cases hc : letB c = true
          · exact ⟨c, t, hc, .inl ⟨rfl, by simp [hc], fun e => h47 (by rw [e]; rfl)⟩⟩
          · simp [hc] at h
  · rw [if_neg h60] at h; exact absurd rfl h

theorem let_facts : ∀ n, n < 256 → letB (UInt8.ofNat n) = true → tagB (UInt8.ofNat n) = true ∧ (97 ≤ (lowB (UInt8.ofNat n)).toNat ∧ (lowB (UInt8.ofNat n)).toNat ≤ 122) := by decide +kernel
theorem low_facts : ∀ n, n < 256 → spB (lowB (UInt8.ofNat n)) = spB (UInt8.ofNat n) ∧ letB (lowB (UInt8.ofNat n)) = letB (UInt8.ofNat n) ∧ tagB (lowB (UInt8.ofNat n)) = tagB (UInt8.ofNat n) ∧
    (lowB (UInt8.ofNat n) = 62 ↔ UInt8.ofNat n = 62) ∧ (lowB (UInt8.ofNat n) = 47 ↔ UInt8.ofNat n = 47) ∧ (lowB (UInt8.ofNat n) = 61 ↔ UInt8.ofNat n = 61) ∧ (lowB (UInt8.ofNat n) = 34 ↔ UInt8.ofNat n = 34) ∧ (lowB (UInt8.ofNat n) = 39 ↔ UInt8.ofNat n = 39) ∧ (lowB (UInt8.ofNat n) = 60 ↔ UInt8.ofNat n = 60) := by decide +kernel
theorem of_toNat (c : UInt8) : UInt8.ofNat c.toNat = c := by
  rw [← UInt8.toNat_inj, UInt8.toNat_ofNat']; exact Nat.mod_eq_of_lt c.toNat_lt
theorem let_is (c : UInt8) (h : letB c = true) : tagB c = true ∧ 97 ≤ (lowB c).toNat ∧ (lowB c).toNat ≤ 122 := by
  have := let_facts c.toNat c.toNat_lt
  rw [of_toNat] at this
  exact this h
theorem low_keeps (c : UInt8) : spB (lowB c) = spB c ∧ letB (lowB c) = letB c ∧ tagB (lowB c) = tagB c ∧ (lowB c = 62 ↔ c = 62) ∧ (lowB c = 47 ↔ c = 47) ∧ (lowB c = 61 ↔ c = 61) ∧ (lowB c = 34 ↔ c = 34) ∧ (lowB c = 39 ↔ c = 39) ∧ (lowB c = 60 ↔ c = 60) := by
  have := low_facts c.toNat c.toNat_lt
  rwa [of_toNat] at this

/-- the name begins with a letter -/
theorem tgN_head (l : Txt) (h : begT l ≠ 0) : ∃ c t, tgN l = c :: t ∧ letB c = true := by
  obtain ⟨c, t, hc, ⟨rfl, hk, -⟩ | ⟨rfl, hk⟩⟩ := beg_cases l h
  · refine ⟨c, t.takeWhile tagB, ?_, hc⟩
    unfold tgN
    rw [hk, List.drop_succ_cons, List.drop_zero, List.takeWhile_cons, if_pos (let_is c hc).1]
  · refine ⟨c, t.takeWhile tagB, ?_, hc⟩
    unfold tgN
    rw [hk, List.drop_succ_cons, List.drop_succ_cons, List.drop_zero, List.takeWhile_cons, if_pos (let_is c hc).1]
theorem tg_split (l : Txt) : l.drop (begT l) = tgN l ++ l.drop (begT l + (tgN l).length) := by
  unfold tgN
  rw [← List.drop_drop]
  conv => rhs; arg 2; arg 2; rw [← List.takeWhile_append_dropWhile (p := tagB) (l := l.drop (begT l))]
  rw [List.drop_left, List.takeWhile_append_dropWhile]
theorem tg_len (l : Txt) (h : begT l ≠ 0) : begT l + (tgN l).length ≤ l.length ∧ 1 ≤ (tgN l).length := by
  obtain ⟨c, t, h1, -⟩ := tgN_head l h
  have h2 := congrArg List.length (tg_split l)
  rw [List.length_drop, List.length_append, List.length_drop] at h2
  have h3 : 1 ≤ (tgN l).length := by rw [h1]; simp
  omega
/-- where what is read ends -/
theorem tag_ends (l : Txt) (t : TokP) (n : Nat) (hr : tagR l = some (t, n)) :
    begT l + (tgN l).length + 1 ≤ n ∧ n ≤ l.length ∧ l.getD (n - 1) 0 = 62 ∧ ∃ al self, t = tokT (begT l) (tgN l) al self ∧ runA (.s0 []) (l.drop (begT l + (tgN l).length)) = some (al, self, n - (begT l + (tgN l).length)) := by
  unfold tagR at hr
  cases hx : runA (.s0 []) (l.drop (begT l + (tgN l).length)) with
  | none => rw [hx] at hr; simp at hr
  | some r =>
    obtain ⟨al, self, m⟩ := r
    rw [hx] at hr
    simp only [Option.map_some, Option.some.injEq, Prod.mk.injEq] at hr
    obtain ⟨rfl, rfl⟩ := hr
    obtain ⟨e1, e2, e3, -⟩ := run_ends _ _ _ _ _ hx
    rw [List.length_drop] at e2
    refine ⟨by omega, by omega, ?_, al, self, rfl, by rw [Nat.add_sub_cancel_left]⟩
    rw [List.getD_eq_getElem?_getD, List.getElem?_drop] at e3
    rw [List.getD_eq_getElem?_getD, show begT l + (tgN l).length + m - 1 = begT l + (tgN l).length + (m - 1) by omega]
    exact e3
end Go.Proofs.YtbcmfcddkegcoaaGreatDoor

/-! In whatever letters a tag is written its name, its attributes' names, and where it ends are the same: plain mathematics. -/
namespace Go.Proofs.YtbcmfcddkegcoaaGreatDoor
open Go.RowKit Go.Lib

end Go.Proofs.YtbcmfcddkegcoaaGreatDoor

/-! What tag's Read answers, as a statement asks for it. -/
namespace Go.Proofs.YtbcmfcddkegcoaaGreatDoor
open Go.RowKit Go.Lib

end Go.Proofs.YtbcmfcddkegcoaaGreatDoor

/-! What a comment is: its beginning, its text, its end: plain mathematics. -/
namespace Go.Proofs.YtbcmfcddkegcoaaGreatDoor
open Go.RowKit Go.Lib

/-- doctype -/
def dtL : Txt := [100, 111, 99, 116, 121, 112, 101]
/-- P10.1, of what stands at a place -/
def begC : Txt → Bool
  | 60 :: 33 :: t => !(dtL.isPrefixOf (lowL t))
  | 60 :: 63 :: _ => true
  | 60 :: 47 :: c :: _ => !(c == 62) && !(letterI (c.toNat : Int))
  | _ => false
/-- the first end behind the beginning: what stands ahead of it, and how many bytes that and the end are -/
def scanC : Txt → Option (Txt × Nat)
  | [] => none
  | c :: t => if [45, 45, 62].isPrefixOf (c :: t) = true then some ([], 3) else if [45, 45, 33, 62].isPrefixOf (c :: t) = true then some ([], 4) else (scanC t).map fun r => (c :: r.1, r.2 + 1)
/-- without an end -/
def tailC (l : Txt) : Txt :=
  if [45, 45, 33].isSuffixOf l = true then l.take (l.length - 3) else if [45, 45].isSuffixOf l = true then l.take (l.length - 2) else if [45].isSuffixOf l = true then l.take (l.length - 1) else l
def plainC (l : Txt) : Txt × Nat :=
  if [62].isPrefixOf l = true then ([], 1) else if [45, 62].isPrefixOf l = true then ([], 2) else match scanC l with
    | some r => r
    | none => (tailC l, l.length)
/-- up to the next bracket -/
def bogC (l : Txt) : Txt × Nat := (l.takeWhile (· != 62), l.length - ((l.dropWhile (· != 62)).tail).length)
/-- P10.2, of what stands at a place: the text as it stands there, and how many bytes -/
def comR (l : Txt) : Txt × Nat :=
  if [60, 33, 45, 45].isPrefixOf l = true then ((plainC (l.drop 4)).1, (plainC (l.drop 4)).2 + 4)
  else if (l.drop 1).head? = some 63 then ((bogC (l.drop 1)).1, (bogC (l.drop 1)).2 + 1) else ((bogC (l.drop 2)).1, (bogC (l.drop 2)).2 + 2)
def comT (x : Txt) : TokP := ⟨3, [], cleanL x, [], false⟩
def cbegV (s : Txt) (a : Int) : Bool := decide (0 ≤ a) && begC (s.drop a.toNat)
def comV (s : Txt) (a : Int) : TokP × Int × Bool :=
  if cbegV s a = true then (comT (comR (s.drop a.toNat)).1, a + ((comR (s.drop a.toNat)).2 : Int), true) else (zeroT, a, false)
theorem com_no (s : Txt) (a : Int) (h : cbegV s a = false) : comV s a = (zeroT, a, false) := by
  unfold comV; rw [h]; rfl
theorem cbeg_in (s : Txt) (k : Nat) : cbegV s (k : Int) = begC (s.drop k) := by
  unfold cbegV
  rw [show ((k : Nat) : Int).toNat = k by omega, decide_eq_true (by omega), Bool.true_and]
theorem com_in (s : Txt) (k : Nat) (h : begC (s.drop k) = true) : comV s (k : Int) = (comT (comR (s.drop k)).1, ((k + (comR (s.drop k)).2 : Nat) : Int), true) := by
  unfold comV
  rw [cbeg_in, h, if_pos rfl, show ((k : Nat) : Int).toNat = k by omega, Int.natCast_add]

/-- the two marks of a scan -/
theorem scan_step (c : UInt8) (t : Txt) (h1 : [45, 45, 62].isPrefixOf (c :: t) = false) (h2 : [45, 45, 33, 62].isPrefixOf (c :: t) = false) : scanC (c :: t) = (scanC t).map fun r => (c :: r.1, r.2 + 1) := by
  rw [scanC, h1, h2]; rfl
theorem scan_hit3 (t : Txt) : scanC (45 :: 45 :: 62 :: t) = some ([], 3) := by
  rw [scanC, if_pos (by simp [List.isPrefixOf])]
theorem scan_hit4 (t : Txt) : scanC (45 :: 45 :: 33 :: 62 :: t) = some ([], 4) := by
  rw [scanC, if_neg (by simp [List.isPrefixOf]), if_pos (by simp [List.isPrefixOf])]
/-- no two strokes side by side -/
def NoTwo (l : List UInt8) : Prop := ∀ i : Nat, l[i]? = some 45 → l[i + 1]? ≠ some 45
/-- what a scan finds ends in a bracket -/
theorem scan_ends : ∀ (l x : Txt) (n : Nat), scanC l = some (x, n) → 3 ≤ n ∧ n ≤ l.length ∧ x.length ≤ n ∧ l.getD (n - 1) 0 = 62
  | [], x, n, h => by cases h
  | c :: t, x, n, h => by
    rw [scanC] at h
    by_cases h1 : [45, 45, 62].isPrefixOf (c :: t) = true
    · rw [if_pos h1] at h
      simp only [Option.some.injEq, Prod.mk.injEq] at h
      obtain ⟨rfl, rfl⟩ := h
      match t, h1 with
      | [], h1 => simp [List.isPrefixOf] at h1
      | [d], h1 => simp [List.isPrefixOf] at h1
      | d :: e :: r, h1 =>
        simp [List.isPrefixOf] at h1
        refine ⟨by decide, by simp, by simp, ?_⟩
        rw [← h1.2.2]; rfl
    · rw [if_neg h1] at h
      by_cases h2 : [45, 45, 33, 62].isPrefixOf (c :: t) = true
      · rw [if_pos h2] at h
        simp only [Option.some.injEq, Prod.mk.injEq] at h
        obtain ⟨rfl, rfl⟩ := h
        match t, h2 with
        | [], h2 => simp [List.isPrefixOf] at h2
        | [d], h2 => simp [List.isPrefixOf] at h2
        | [d, e], h2 => simp [List.isPrefixOf] at h2
        | d :: e :: f :: r, h2 =>
          simp [List.isPrefixOf] at h2
          refine ⟨by decide, by simp, by simp, ?_⟩
          rw [← h2.2.2.2]; rfl
      · rw [if_neg h2] at h
        cases hr : scanC t with
        | none => rw [hr] at h; cases h
        | some y =>
          obtain ⟨y, m⟩ := y
          rw [hr] at h
          simp only [Option.map_some, Option.some.injEq, Prod.mk.injEq] at h
          obtain ⟨rfl, rfl⟩ := h
          obtain ⟨e1, e2, e3, e4⟩ := scan_ends t y m hr
          refine ⟨by omega, by simp; omega, by simp; omega, ?_⟩
          rw [show m + 1 - 1 = (m - 1) + 1 by omega, List.getD_cons_succ]; exact e4
end Go.Proofs.YtbcmfcddkegcoaaGreatDoor

/-! What the laws of layer 10 want of comments: plain mathematics. -/
namespace Go.Proofs.YtbcmfcddkegcoaaGreatDoor
open Go.RowKit Go.Lib

/-- a text without marks -/
structure OpenT (l : Txt) : Prop where
  two : NoTwo l
  last : l.getLast? ≠ some 45
  first : l.head? ≠ some 45 ∧ l.head? ≠ some 62
/-- up to a bracket, or to the end -/
theorem bog_ends (l r : Txt) (h : 62 ∉ l) : bogC (l ++ 62 :: r) = (l, l.length + 1) := by
  have h1 : ∀ x ∈ l, (x != 62) = true := fun x hx => by
    rw [bne_iff_ne]; rintro rfl; exact h hx
  have e1 : (l ++ 62 :: r).takeWhile (· != 62) = l := by
    rw [List.takeWhile_append_of_pos h1]; simp
  have e2 : (l ++ 62 :: r).dropWhile (· != 62) = 62 :: r := by
    rw [List.dropWhile_append_of_pos h1]; simp
  unfold bogC
  rw [e1, e2, List.tail_cons, List.length_append, List.length_cons]
  congr 1
  omega
theorem bog_open (l : Txt) (h : 62 ∉ l) : bogC l = (l, l.length) := by
  have h1 : ∀ x ∈ l, (x != 62) = true := fun x hx => by
    rw [bne_iff_ne]; rintro rfl; exact h hx
  have e1 : l.takeWhile (· != 62) = l := by
    have := List.takeWhile_append_of_pos (l₂ := []) h1
    rw [List.append_nil] at this
    rw [this]; simp
  have e2 : l.dropWhile (· != 62) = [] := by
    have := List.dropWhile_append_of_pos (l₂ := []) h1
    rw [List.append_nil] at this
    rw [this]; rfl
  unfold bogC
  rw [e1, e2]; rfl
theorem first_of (c : UInt8) : ∀ l : Txt, c ∈ l → ∃ p r, l = p ++ c :: r ∧ c ∉ p
  | d :: l, h => by
    by_cases hd : d = c
    · exact ⟨[], l, by rw [hd]; rfl, by simp⟩
    · obtain ⟨p, r, e, hp⟩ := first_of c l ((List.mem_cons.1 h).resolve_left fun e => hd e.symm)
      refine ⟨d :: p, r, by rw [e]; rfl, ?_⟩
      rw [List.mem_cons, not_or]
      exact ⟨fun e => hd e.symm, hp⟩
theorem bog_cut (l m : Txt) (h : (bogC l).2 ≠ l.length) : (bogC l).2 < l.length ∧ 1 ≤ (bogC l).2 ∧ l.getD ((bogC l).2 - 1) 0 = 62 ∧ bogC (l.take (bogC l).2 ++ m) = bogC l := by
  by_cases hm : 62 ∈ l
  · obtain ⟨p, r, rfl, hp⟩ : ∃ p r, l = p ++ 62 :: r ∧ 62 ∉ p := by
      exact first_of 62 l hm
    rw [bog_ends p r hp] at h ⊢
    have e : (p ++ 62 :: r).take (p.length + 1) = p ++ [62] := by
      rw [List.take_append, List.take_of_length_le (by omega)]; simp
    refine ⟨?_, by simp, ?_, ?_⟩
    · rw [List.length_append, List.length_cons] at h ⊢; simp only at h ⊢; omega
    · simp only [Nat.add_sub_cancel]
      rw [List.getD_eq_getElem?_getD, List.getElem?_append_right (Nat.le_refl _), Nat.sub_self]; rfl
    · rw [e, List.append_assoc]; exact bog_ends p m hp
  · rw [bog_open l hm] at h; exact absurd rfl h
/-- a scan's end, whatever stands behind -/
theorem scan_cut (m : Txt) : ∀ (l x : Txt) (n : Nat), scanC l = some (x, n) → scanC (l.take n ++ m) = some (x, n)
  | [], x, n, h => by cases h
  | c :: t, x, n, h => by
    have he := scan_ends (c :: t) x n h
    rw [scanC] at h
    by_cases h1 : [45, 45, 62].isPrefixOf (c :: t) = true
    · rw [if_pos h1] at h
      simp only [Option.some.injEq, Prod.mk.injEq] at h
      obtain ⟨rfl, rfl⟩ := h
      obtain ⟨q, hq⟩ := List.isPrefixOf_iff_prefix.1 h1
      rw [← hq]
      exact scan_hit3 m
    · rw [if_neg h1] at h
      by_cases h2 : [45, 45, 33, 62].isPrefixOf (c :: t) = true
      · rw [if_pos h2] at h
        simp only [Option.some.injEq, Prod.mk.injEq] at h
        obtain ⟨rfl, rfl⟩ := h
        obtain ⟨q, hq⟩ := List.isPrefixOf_iff_prefix.1 h2
        rw [← hq]
        exact scan_hit4 m
      · rw [if_neg h2] at h
        cases hr : scanC t with
        | none => rw [hr] at h; cases h
        | some y =>
          obtain ⟨y, k⟩ := y
          rw [hr] at h
          simp only [Option.map_some, Option.some.injEq, Prod.mk.injEq] at h
          obtain ⟨rfl, rfl⟩ := h
          have hk := scan_ends t y k hr
          have key : ∀ p : Txt, p.length ≤ 4 → p.isPrefixOf (c :: t) = false → p.isPrefixOf (c :: (t.take k ++ m)) = false := by
            intro p hp hf
            rw [Bool.eq_false_iff] at hf ⊢
            intro e
            refine hf (List.isPrefixOf_iff_prefix.2 ?_)
            have e := List.isPrefixOf_iff_prefix.1 e
            rw [List.prefix_iff_eq_take] at e ⊢
            rw [e]
            have : (c :: (t.take k ++ m)).take p.length = (c :: t).take p.length := by
              cases hpl : p.length with
              | zero => rfl
              | succ j =>
                rw [List.take_succ_cons, List.take_succ_cons, List.take_append_of_le_length (by rw [List.length_take]; omega), List.take_take, Nat.min_eq_left (by omega)]
            rw [this, List.length_take, Nat.min_eq_left (by
              have h3 := congrArg List.length e
              rw [List.length_take] at h3
              simp only [List.length_cons]
              have := hk.2.1
              omega)]
          rw [List.take_succ_cons, List.cons_append, scan_step c _ (key _ (by decide) (Bool.eq_false_iff.2 h1)) (key _ (by decide) (Bool.eq_false_iff.2 h2)), scan_cut m t y k hr]
          rfl
end Go.Proofs.YtbcmfcddkegcoaaGreatDoor

/-! What is told of comments in the laws of layer 10: plain mathematics. -/
namespace Go.Proofs.YtbcmfcddkegcoaaGreatDoor
open Go.RowKit Go.Lib

theorem comR_plain (l : Txt) : comR (60 :: 33 :: 45 :: 45 :: l) = ((plainC l).1, (plainC l).2 + 4) := by
  unfold comR; rw [if_pos (by simp [List.isPrefixOf])]; rfl
theorem begC_plain (l : Txt) : begC (60 :: 33 :: 45 :: l) = true := by
  show (!(dtL.isPrefixOf (lowL (45 :: l)))) = true
  rw [lowL_cons]
  simp [dtL, List.isPrefixOf, show lowB 45 = 45 by decide]
theorem comR_ask (l : Txt) : comR (60 :: 63 :: l) = ((bogC (63 :: l)).1, (bogC (63 :: l)).2 + 1) := by
  unfold comR; rw [if_neg (by simp [List.isPrefixOf])]; rfl
theorem comR_else (c : UInt8) (l : Txt) (hc : c ≠ 63) (h : [60, 33, 45, 45].isPrefixOf (60 :: c :: l) = false) : comR (60 :: c :: l) = ((bogC l).1, (bogC l).2 + 2) := by
  unfold comR
  rw [h, if_neg Bool.false_ne_true, if_neg (by simp [hc])]; rfl
/-- what stands behind -/
theorem plain_cut (l m : Txt) (h : (plainC l).2 ≠ l.length) : (plainC l).2 < l.length ∧ 1 ≤ (plainC l).2 ∧ l.getD ((plainC l).2 - 1) 0 = 62 ∧ plainC (l.take (plainC l).2 ++ m) = plainC l := by
  by_cases h1 : [62].isPrefixOf l = true
  · obtain ⟨q, rfl⟩ := List.isPrefixOf_iff_prefix.1 h1
    have e : ∀ z : Txt, plainC ([62] ++ z) = ([], 1) := fun z => by unfold plainC; rw [if_pos (by simp [List.isPrefixOf])]
    rw [e] at h ⊢
    refine ⟨?_, by simp, rfl, ?_⟩
    · simp at h ⊢; exact Nat.pos_of_ne_zero fun e => h (by rw [List.length_eq_zero_iff.1 e])
    · exact e m
  · by_cases h2 : [45, 62].isPrefixOf l = true
    · obtain ⟨q, rfl⟩ := List.isPrefixOf_iff_prefix.1 h2
      have e : ∀ z : Txt, plainC ([45, 62] ++ z) = ([], 2) := fun z => by unfold plainC; rw [if_neg (by simp [List.isPrefixOf]), if_pos (by simp [List.isPrefixOf])]
      rw [e] at h ⊢
      refine ⟨?_, by simp, rfl, ?_⟩
      · simp at h ⊢; exact Nat.pos_of_ne_zero fun e => h (by rw [List.length_eq_zero_iff.1 e])
      · exact e m
    · cases hs : scanC l with
      | none =>
        have : plainC l = (tailC l, l.length) := by unfold plainC; rw [if_neg h1, if_neg h2, hs]
        rw [this] at h; exact absurd rfl h
      | some r =>
        obtain ⟨x, n⟩ := r
        have hp : plainC l = (x, n) := by unfold plainC; rw [if_neg h1, if_neg h2, hs]
        rw [hp] at h ⊢
        obtain ⟨e1, e2, e3, e4⟩ := scan_ends l x n hs
        have hcut := scan_cut m l x n hs
        refine ⟨by simp only at h ⊢; omega, by simp only; omega, e4, ?_⟩
        simp only
        have key : ∀ p : Txt, p.length ≤ 3 → ¬ p.isPrefixOf l = true → ¬ p.isPrefixOf (l.take n ++ m) = true := by
          intro p hp hf e
          refine hf (List.isPrefixOf_iff_prefix.2 ?_)
          have e := List.isPrefixOf_iff_prefix.1 e
          rw [List.prefix_iff_eq_take] at e ⊢
          rw [List.take_append_of_le_length (by rw [List.length_take]; omega), List.take_take, Nat.min_eq_left (by omega)] at e
          exact e
        unfold plainC
        rw [if_neg (key _ (by decide) h1), if_neg (key _ (by decide) h2), hcut]
theorem bog_le (l : Txt) : (bogC l).2 ≤ l.length ∧ (bogC l).1.length ≤ l.length := ⟨Nat.sub_le _ _, (List.takeWhile_sublist _).length_le⟩
theorem tail_le (l : Txt) : (tailC l).length ≤ l.length := by
  unfold tailC
  split
  · rw [List.length_take]; omega
  · split
    · rw [List.length_take]; omega
    · split
      · rw [List.length_take]; omega
      · exact Nat.le_refl _
theorem plain_le (l : Txt) : (plainC l).1.length ≤ l.length + 1 := by
  unfold plainC
  split
  · simp
  · split
    · simp
    · cases h : scanC l with
      | none => have := tail_le l; simp only; omega
      | some r =>
        obtain ⟨x, n⟩ := r
        have := scan_ends l x n h
        simp only; omega
/-- how the three kinds begin -/
theorem begC_cases (s : Txt) (h : begC s = true) : (∃ t, s = 60 :: 33 :: t ∧ dtL.isPrefixOf (lowL t) = false) ∨ (∃ t, s = 60 :: 63 :: t) ∨ ∃ c t, s = 60 :: 47 :: c :: t ∧ c ≠ 62 ∧ letterI (c.toNat : Int) = false := by
  unfold begC at h
  split at h
  · exact .inl ⟨_, rfl, by simpa using h⟩
  · exact .inr (.inl ⟨_, rfl⟩)
  · refine .inr (.inr ⟨_, _, rfl, ?_⟩)
    simpa using h
  · cases h
/-- a doctype doesn't begin behind a bracket -/
theorem dt_cut (t m : Txt) (k : Nat) (hk : 1 ≤ k ∧ k ≤ t.length) (h62 : t.getD (k - 1) 0 = 62) (h : dtL.isPrefixOf (lowL t) = false) : dtL.isPrefixOf (lowL (t.take k ++ m)) = false := by
  rw [Bool.eq_false_iff] at h ⊢
  intro e
  have e := List.isPrefixOf_iff_prefix.1 e
  have hlow : (lowL t)[k - 1]? = some 62 := by
    unfold lowL
    rw [List.getElem?_map]
    have : t[k - 1]? = some 62 := by
      rw [List.getD_eq_getElem?_getD] at h62
      rw [List.getElem?_eq_getElem (by omega)] at h62 ⊢
      exact congrArg some h62
    rw [this]; rfl
  by_cases h7 : 7 ≤ k - 1
  · refine h (List.isPrefixOf_iff_prefix.2 ?_)
    rw [List.prefix_iff_eq_take] at e ⊢
    rw [show dtL.length = 7 from rfl] at e ⊢
    rw [lowL_app, List.take_append_of_le_length (by rw [lowL_len, List.length_take]; omega)] at e
    unfold lowL at e ⊢
    rw [List.map_take, List.take_take, Nat.min_eq_left (by omega)] at e
    exact e
  · obtain ⟨q, hq⟩ := e
    have h1 : (lowL (t.take k ++ m))[k - 1]? = some 62 := by
      rw [lowL_app, List.getElem?_append_left (by rw [lowL_len, List.length_take]; omega)]
      unfold lowL at hlow ⊢
      rw [List.map_take, List.getElem?_take_of_lt (by omega)]; exact hlow
    rw [← hq, List.getElem?_append_left (by show k - 1 < 7; omega)] at h1
    have h2 : ∀ j, j < 7 → dtL[j]? ≠ some 62 := by decide
    exact h2 (k - 1) (by omega) h1
theorem cut_pre (q t m : Txt) (k : Nat) (hq : 62 ∉ q) (hk : 1 ≤ k ∧ k ≤ t.length) (h62 : t.getD (k - 1) 0 = 62) (h : q.isPrefixOf t = false) : q.isPrefixOf (t.take k ++ m) = false := by
  rw [Bool.eq_false_iff] at h ⊢
  intro e
  have e := List.isPrefixOf_iff_prefix.1 e
  by_cases hl : q.length ≤ k
  · refine h (List.isPrefixOf_iff_prefix.2 ?_)
    rw [List.prefix_iff_eq_take] at e ⊢
    rw [List.take_append_of_le_length (by rw [List.length_take]; omega), List.take_take, Nat.min_eq_left hl] at e
    exact e
  · obtain ⟨r, hr⟩ := e
    have h1 : (t.take k ++ m)[k - 1]? = some 62 := by
      rw [List.getElem?_append_left (by rw [List.length_take]; omega), List.getElem?_take_of_lt (by omega)]
      rw [List.getD_eq_getElem?_getD] at h62
      rw [List.getElem?_eq_getElem (by omega)] at h62 ⊢
      exact congrArg some h62
    rw [← hr, List.getElem?_append_left (by omega)] at h1
    exact hq (List.mem_of_getElem? h1)
theorem plain_n (l : Txt) : (plainC l).2 ≤ l.length := by
  by_cases h : (plainC l).2 = l.length
  · exact Nat.le_of_eq h
  · exact Nat.le_of_lt (plain_cut l [] h).1
theorem told_rest (s m : Txt) (h : begC s = true) : 2 ≤ (comR s).2 ∧ (comR s).2 ≤ s.length ∧ (comR s).1.length ≤ s.length + 1 ∧
    ((comR s).2 ≠ s.length → s.getD ((comR s).2 - 1) 0 = 62 ∧ begC (s.take (comR s).2 ++ m) = true ∧ comR (s.take (comR s).2 ++ m) = comR s) := by
  by_cases hp : [60, 33, 45, 45].isPrefixOf s = true
  · obtain ⟨l, rfl⟩ := List.isPrefixOf_iff_prefix.1 hp
    have e : ∀ z : Txt, [60, 33, 45, 45] ++ z = 60 :: 33 :: 45 :: 45 :: z := fun z => rfl
    rw [e, comR_plain]
    have h1 := plain_n l
    have h2 := plain_le l
    refine ⟨by simp only; omega, by simp only [List.length_cons]; omega, by simp only [List.length_cons]; omega, fun hn => ?_⟩
    obtain ⟨c1, c2, c3, c4⟩ := plain_cut l m (fun e => hn (by simp only [List.length_cons]; omega))
    obtain ⟨n, hn'⟩ : ∃ n, (plainC l).2 = n := ⟨_, rfl⟩
    rw [hn'] at c1 c2 c3 c4 ⊢
    simp only
    refine ⟨?_, ?_, ?_⟩
    · rw [show n + 4 - 1 = (n - 1) + 1 + 1 + 1 + 1 by omega, List.getD_cons_succ, List.getD_cons_succ, List.getD_cons_succ, List.getD_cons_succ]; exact c3
    · rw [show n + 4 = n + 1 + 1 + 1 + 1 from rfl, List.take_succ_cons, List.take_succ_cons, List.take_succ_cons]
      exact begC_plain _
    · rw [show n + 4 = n + 1 + 1 + 1 + 1 from rfl, List.take_succ_cons, List.take_succ_cons, List.take_succ_cons, List.take_succ_cons]
      rw [List.cons_append, List.cons_append, List.cons_append, List.cons_append, comR_plain, c4, hn']
  · have hp : [60, 33, 45, 45].isPrefixOf s = false := Bool.eq_false_iff.2 hp
    rcases begC_cases s h with ⟨t, rfl, hd⟩ | ⟨t, rfl⟩ | ⟨c, t, rfl, hc, hl⟩
    · rw [comR_else 33 t (by decide) hp]
      have h1 := bog_le t
      refine ⟨by simp only; omega, by simp only [List.length_cons]; omega, by simp only [List.length_cons]; omega, fun hn => ?_⟩
      obtain ⟨c1, c2, c3, c4⟩ := bog_cut t m (fun e => hn (by simp only [List.length_cons]; omega))
      obtain ⟨n, hn'⟩ : ∃ n, (bogC t).2 = n := ⟨_, rfl⟩
      rw [hn'] at c1 c2 c3 c4 ⊢
      simp only
      have e : (60 :: 33 :: t).take (n + 2) ++ m = 60 :: 33 :: (t.take n ++ m) := by
        rw [show n + 2 = n + 1 + 1 from rfl, List.take_succ_cons, List.take_succ_cons]; rfl
      have hp2 : [60, 33, 45, 45].isPrefixOf (60 :: 33 :: (t.take n ++ m)) = false := by
        have : [45, 45].isPrefixOf t = false := by simpa [List.isPrefixOf] using hp
        have := cut_pre [45, 45] t m n (by decide) ⟨c2, by omega⟩ c3 this
        simpa [List.isPrefixOf] using this
      refine ⟨?_, ?_, ?_⟩
      · rw [show n + 2 - 1 = (n - 1) + 1 + 1 by omega, List.getD_cons_succ, List.getD_cons_succ]; exact c3
      · rw [e]
        show (!(dtL.isPrefixOf (lowL (t.take n ++ m)))) = true
        rw [dt_cut t m n ⟨c2, by omega⟩ c3 hd]; rfl
      · rw [e, comR_else 33 _ (by decide) hp2, c4, hn']
    · rw [comR_ask]
      have h1 := bog_le (63 :: t)
      rw [List.length_cons] at h1
      refine ⟨?_, by simp only [List.length_cons]; omega, by simp only [List.length_cons]; omega, fun hn => ?_⟩
      · simp only
        by_cases e : (bogC (63 :: t)).2 = (63 :: t).length
        · rw [e]; simp
        · have := (bog_cut (63 :: t) [] e).2.1; omega
      obtain ⟨c1, c2, c3, c4⟩ := bog_cut (63 :: t) m (fun e => hn (by simp only [List.length_cons] at e ⊢; omega))
      obtain ⟨n, hn'⟩ : ∃ n, (bogC (63 :: t)).2 = n := ⟨_, rfl⟩
      rw [hn'] at c1 c2 c3 c4 ⊢
      obtain ⟨j, rfl⟩ : ∃ j, n = j + 1 := ⟨n - 1, by omega⟩
      rw [List.take_succ_cons, List.cons_append] at c4
      simp only
      have e : (60 :: 63 :: t).take (j + 1 + 1) ++ m = 60 :: 63 :: (t.take j ++ m) := by
        rw [List.take_succ_cons, List.take_succ_cons]; rfl
      refine ⟨?_, ?_, ?_⟩
      · rw [show j + 1 + 1 - 1 = (j + 1 - 1) + 1 by omega, List.getD_cons_succ]; exact c3
      · rw [e]; rfl
      · rw [e, comR_ask, c4, hn']
    · rw [comR_else 47 (c :: t) (by decide) hp]
      have h1 := bog_le (c :: t)
      rw [List.length_cons] at h1
      refine ⟨by simp only; omega, by simp only [List.length_cons]; omega, by simp only [List.length_cons]; omega, fun hn => ?_⟩
      obtain ⟨c1, c2, c3, c4⟩ := bog_cut (c :: t) m (fun e => hn (by simp only [List.length_cons] at e ⊢; omega))
      obtain ⟨n, hn'⟩ : ∃ n, (bogC (c :: t)).2 = n := ⟨_, rfl⟩
      rw [hn'] at c1 c2 c3 c4 ⊢
      obtain ⟨j, rfl⟩ : ∃ j, n = j + 1 := ⟨n - 1, by omega⟩
      rw [List.take_succ_cons, List.cons_append] at c4
      simp only
      have e : (60 :: 47 :: c :: t).take (j + 1 + 2) ++ m = 60 :: 47 :: c :: (t.take j ++ m) := by
        rw [show j + 1 + 2 = j + 1 + 1 + 1 from rfl, List.take_succ_cons, List.take_succ_cons, List.take_succ_cons]; rfl
      refine ⟨?_, ?_, ?_⟩
      · rw [show j + 1 + 2 - 1 = (j + 1 - 1) + 1 + 1 by omega, List.getD_cons_succ, List.getD_cons_succ]; exact c3
      · rw [e]
        show (!(c == 62) && !(letterI (c.toNat : Int))) = true
        rw [hl, beq_eq_false_iff_ne.2 hc]; rfl
      · rw [e, comR_else 47 _ (by decide) (by simp [List.isPrefixOf]), c4, hn']
end Go.Proofs.YtbcmfcddkegcoaaGreatDoor

/-! Where bytes of a kind end, from a place on: plain mathematics (no attributes, no names). -/
namespace Go.Proofs.YtbcmfcddkegcoaaGreatDoor
open Go.RowKit Go.Lib

/-- where bytes of a kind end -/
def seekP (p : UInt8 → Bool) (l : Txt) (i : Nat) : Nat := i + ((l.drop i).takeWhile p).length
/-- what stands where bytes of a kind end: nothing, or another byte -/
theorem dw_cases (p : UInt8 → Bool) (l : Txt) : l.dropWhile p = [] ∨ ∃ c t, l.dropWhile p = c :: t ∧ p c = false := by
  cases h : l.dropWhile p with
  | nil => exact .inl rfl
  | cons c t =>
    refine .inr ⟨c, t, rfl, ?_⟩
    have := List.head?_dropWhile_not (p := p) (l := l)
    rw [h] at this
    simpa using this
/-- what is left from a place on is nothing just at the end -/
theorem drop_nil (s : ByteArray) (i : Nat) (h : i ≤ s.size) : s.data.toList.drop i = [] ↔ i = s.size := by
  rw [List.drop_eq_nil_iff, ← Lib.size_eq]; omega
end Go.Proofs.YtbcmfcddkegcoaaGreatDoor

/-! What a doctype is, and what it says: plain mathematics. -/
namespace Go.Proofs.YtbcmfcddkegcoaaGreatDoor
open Go.RowKit Go.Lib

/-- what a doctype says -/
structure DocP where
  name : Txt
  pub : Txt
  sys : Txt
  hn : Bool
  hp : Bool
  hs : Bool
  q : Bool
def dctL : Txt := [60, 33, 100, 111, 99, 116, 121, 112, 101]
/-- P11.1 -/
def begD (l : Txt) : Bool := dctL.isPrefixOf (lowL l)
def dbegV (s : Txt) (a : Int) : Bool := decide (0 ≤ a) && begD (s.drop a.toNat)
def dctT (x : Txt) : TokP := ⟨4, [], cleanL x, [], false⟩
def dctV (s : Txt) (a : Int) : TokP × Int × Bool :=
  if dbegV s a = true then (dctT ((s.drop (a.toNat + 9)).takeWhile (· != 62)), ((if seekP (· != 62) s (a.toNat + 9) < s.length then seekP (· != 62) s (a.toNat + 9) + 1 else s.length : Nat) : Int), true) else (zeroT, a, false)
theorem dct_no (s : Txt) (a : Int) (h : dbegV s a = false) : dctV s a = (zeroT, a, false) := by
  unfold dctV; rw [h]; rfl
theorem dbeg_in (s : Txt) (k : Nat) : dbegV s (k : Int) = begD (s.drop k) := by
  unfold dbegV
  rw [show ((k : Nat) : Int).toNat = k by omega, decide_eq_true (by omega), Bool.true_and]
theorem dct_in (s : Txt) (k : Nat) (h : begD (s.drop k) = true) : dctV s (k : Int) = (dctT ((s.drop (k + 9)).takeWhile (· != 62)), ((if seekP (· != 62) s (k + 9) < s.length then seekP (· != 62) s (k + 9) + 1 else s.length : Nat) : Int), true) := by
  unfold dctV
  rw [dbeg_in, h, if_pos rfl, show ((k : Nat) : Int).toNat = k by omega]
theorem begD_len (l : Txt) (h : begD l = true) : 9 ≤ l.length := by
  have := (List.isPrefixOf_iff_prefix.1 h).length_le
  rw [lowL_len] at this; exact this
theorem dbeg_out (s : Txt) (a : Int) (h : ¬ (0 ≤ a ∧ a + 9 ≤ (s.length : Int))) : dbegV s a = false := by
  unfold dbegV
  by_cases h0 : 0 ≤ a
  · rw [decide_eq_true h0, Bool.true_and, Bool.eq_false_iff]
    intro e
    have := begD_len _ e
    rw [List.length_drop] at this; omega
  · rw [decide_eq_false h0, Bool.false_and]
end Go.Proofs.YtbcmfcddkegcoaaGreatDoor

/-! What the laws of layer 11 want of doctypes: plain mathematics. -/
namespace Go.Proofs.YtbcmfcddkegcoaaGreatDoor
open Go.RowKit Go.Lib

/-- what isn't there is empty -/
structure Whole (n : Txt) (d : DocP) : Prop where
  name : d.name = n ∧ d.hn = true
  pub : d.hp = false → d.pub = []
  sys : d.hs = false → d.sys = []
end Go.Proofs.YtbcmfcddkegcoaaGreatDoor

/-! Where markup begins, and what text is ahead of it: plain mathematics. -/
namespace Go.Proofs.YtbcmfcddkegcoaaGreatDoor
open Go.RowKit Go.Lib

/-- P14.1, of what stands at a place -/
def begE (l : Txt) : Bool := [60, 47, 62].isPrefixOf l
def mkB (l : Txt) : Bool := decide (begT l ≠ 0) || begC l || begD l || begE l
/-- how many bytes stand ahead of markup -/
def nextN : Txt → Nat
  | [] => 0
  | c :: t => if mkB (c :: t) = true then 0 else nextN t + 1
/-- a place as it counts -/
def atN (s : Txt) (a : Int) : Nat := (max 0 (min a (s.length : Int))).toNat
def mkV (s : Txt) (a : Int) : Bool := decide (0 ≤ a) && mkB (s.drop a.toNat)
def nextV (s : Txt) (a : Int) : Nat := atN s a + nextN (s.drop (atN s a))
/-- P14.2 -/
noncomputable def txtV (s : Txt) (a : Int) : Txt := ddL false ((s.drop (atN s a)).take (nextN (s.drop (atN s a))))

theorem atN_le (s : Txt) (a : Int) : atN s a ≤ s.length := by unfold atN; omega
theorem atN_in (s : Txt) (k : Nat) (h : k ≤ s.length) : atN s (k : Int) = k := by unfold atN; omega
theorem mk_in (s : Txt) (k : Nat) : mkV s (k : Int) = mkB (s.drop k) := by
  unfold mkV
  rw [decide_eq_true (by omega), Bool.true_and, show ((k : Nat) : Int).toNat = k by omega]
/-- the five ways of what may begin -/
inductive Kinds : Bool → Bool → Bool → Bool → Prop
  | none : Kinds false false false false
  | tag : Kinds true false false false
  | com : Kinds false true false false
  | doc : Kinds false false true false
  | emp : Kinds false false false true
theorem begD_is (c d : UInt8) (t : Txt) : begD (c :: d :: t) = (c == 60 && d == 33 && dtL.isPrefixOf (lowL t)) := by
  unfold begD
  have h : ∀ (x y : UInt8), (x.toNat : Int) < 65 → (x == lowB y) = (y == x) := fun x y hx => by
    have h3 := lowB_int y
    unfold lowI at h3
    rw [Bool.eq_iff_iff, beq_iff_eq, beq_iff_eq, ← UInt8.toNat_inj, ← UInt8.toNat_inj]
    split at h3 <;> omega
  rw [lowL_cons, lowL_cons]
  show [60, 33, 100, 111, 99, 116, 121, 112, 101].isPrefixOf (lowB c :: lowB d :: lowL t) = _
  rw [List.isPrefixOf_cons_cons, List.isPrefixOf_cons_cons, h 60 c (by decide), h 33 d (by decide), Bool.and_assoc]
  rfl
theorem mk_one (c : UInt8) : begT [c] = 0 ∧ begC [c] = false ∧ begD [c] = false ∧ begE [c] = false := by
  refine ⟨?_, ?_, ?_, ?_⟩
  · unfold begT; simp
  · unfold begC; split <;> simp_all
  · unfold begD
    rw [Bool.eq_false_iff]; intro e
    have := (List.isPrefixOf_iff_prefix.1 e).length_le
    rw [lowL_len] at this
    simp [dctL] at this
  · simp [begE, List.isPrefixOf]
/-- what begins with any two bytes -/
theorem mk_two (c d : UInt8) (t : Txt) : decide (begT (c :: d :: t) ≠ 0) = (c == 60 && (if d = 47 then t.head?.any letB else letB d)) ∧
    begC (c :: d :: t) = (c == 60 && (if d = 33 then !(dtL.isPrefixOf (lowL t)) else if d = 63 then true else if d = 47 then t.head?.any (fun e => !(e == 62) && !(letB e)) else false)) ∧
    begD (c :: d :: t) = (c == 60 && d == 33 && dtL.isPrefixOf (lowL t)) ∧ begE (c :: d :: t) = (c == 60 && d == 47 && t.head?.any (fun e => e == 62)) := by
  refine ⟨?_, ?_, begD_is c d t, ?_⟩
  · unfold begT
    by_cases hc : c = 60
    · rw [if_pos (by rw [hc]; rfl), show (c == 60) = true from beq_iff_eq.2 hc, Bool.true_and]
      simp only [List.drop_succ_cons, List.drop_zero, List.head?_cons, Option.some.injEq, Option.any_some]
      by_cases hd : d = 47
      · rw [if_pos hd, if_pos hd]
        cases h : t.head?.any letB
        · rfl
        · rfl
      · rw [if_neg hd, if_neg hd]
        cases h : letB d
        · rfl
        · rfl
    · rw [if_neg (by simpa using hc), show (c == 60) = false from beq_eq_false_iff_ne.2 hc, Bool.false_and]; rfl
  · by_cases hc : c = 60
    · subst hc
      by_cases h1 : d = 33
      · subst h1; rfl
      · by_cases h2 : d = 63
        · subst h2; rfl
        · by_cases h3 : d = 47
          · subst h3
            cases t with
            | nil => rfl
            | cons e t => rfl
          · rw [if_neg h1, if_neg h2, if_neg h3, Bool.and_false]
            unfold begC
            split <;> simp_all
    · rw [show (c == 60) = false from beq_eq_false_iff_ne.2 hc, Bool.false_and]
      unfold begC
      split <;> simp_all
  · unfold begE
    cases t with
    | nil => simp [List.isPrefixOf]
    | cons e t => simp [List.isPrefixOf, BEq.comm, Bool.and_assoc]
theorem mk_head (l : Txt) (h : mkB l = true) : ∃ t, l = 60 :: t := by
  match l with
  | [] => exact absurd h (by decide)
  | [c] =>
    obtain ⟨h1, h2, h3, h4⟩ := mk_one c
    unfold mkB at h
    rw [h1, h2, h3, h4] at h
    exact absurd h (by decide)
  | c :: d :: t =>
    obtain ⟨h1, h2, h3, h4⟩ := mk_two c d t
    unfold mkB at h
    rw [h1, h2, h3, h4] at h
    cases hc : c == 60
    · rw [hc] at h; simp at h
    · exact ⟨d :: t, by rw [beq_iff_eq.1 hc]⟩
theorem next_le : ∀ l : Txt, nextN l ≤ l.length
  | [] => Nat.le_refl _
  | c :: t => by
    rw [nextN]
    split
    · omega
    · have := next_le t; simp; omega
theorem next_here (l : Txt) (h : mkB l = true) : nextN l = 0 := by
  cases l with
  | nil => rfl
  | cons c t => rw [nextN, if_pos h]
theorem next_skip : ∀ (a z : Txt), 60 ∉ a → nextN (a ++ z) = a.length + nextN z
  | [], z, _ => by simp
  | c :: a, z, h => by
    rw [List.mem_cons, not_or] at h
    have : mkB (c :: (a ++ z)) = false := by
      rw [Bool.eq_false_iff]; intro e
      obtain ⟨t, e⟩ := mk_head _ e
      exact h.1 (List.cons.inj e).1.symm
    rw [List.cons_append, nextN, this, if_neg Bool.false_ne_true, next_skip a z h.2, List.length_cons]; omega
theorem next_step (s : ByteArray) (i : Nat) (h : i < s.size) (hm : mkB (s.data.toList.drop i) = false) : i + nextN (s.data.toList.drop i) = i + 1 + nextN (s.data.toList.drop (i + 1)) := by
  rw [drop_at s i h] at hm ⊢
  rw [nextN, hm, if_neg Bool.false_ne_true]; omega
theorem next_stop (s : ByteArray) (i : Nat) (hm : mkB (s.data.toList.drop i) = true) : i + nextN (s.data.toList.drop i) = i := by
  rw [next_here _ hm]; rfl
theorem low_mark : ∀ (p l : Txt), (∀ c ∈ p, (c.toNat : Int) < 65) → p.isPrefixOf (lowL l) = p.isPrefixOf l
  | [], l, _ => by simp
  | c :: p, [], _ => rfl
  | c :: p, d :: l, h => by
    rw [lowL_cons, List.isPrefixOf_cons_cons, List.isPrefixOf_cons_cons, low_mark p l (fun x hx => h x (.tail _ hx))]
    congr 1
    have h1 := h c (.head _)
    have h3 := lowB_int d
    unfold lowI at h3
    rw [Bool.eq_iff_iff, beq_iff_eq, beq_iff_eq, ← UInt8.toNat_inj, ← UInt8.toNat_inj]
    split at h3 <;> omega
/-- nothing between its brackets, for any place -/
def ebegV (s : Txt) (a : Int) : Bool := decide (0 ≤ a) && begE (s.drop a.toNat)
theorem beg_emp (s : ByteArray) (a : Int) : begS s a ⟨#[60, 47, 62]⟩ = ebegV s.data.toList a := by
  unfold begS ebegV begE
  rw [low_mark _ _ (by decide), show (⟨#[60, 47, 62]⟩ : ByteArray).data.toList = [60, 47, 62] from rfl]
  by_cases h : a ≤ (s.size : Int)
  · by_cases h0 : 0 ≤ a
    · rw [decide_eq_true ⟨h0, h⟩, decide_eq_true h0]
    · rw [decide_eq_false (fun e => h0 e.1), decide_eq_false h0]
  · rw [decide_eq_false (fun e => h e.2), List.drop_eq_nil_of_le (by rw [← Lib.size_eq]; omega), Bool.false_and]
    simp [List.isPrefixOf]
theorem mk_four (s : Txt) (a : Int) : mkV s a = (begV s a || (cbegV s a || (dbegV s a || ebegV s a))) := by
  unfold mkV begV cbegV dbegV ebegV mkB
  by_cases h : 0 ≤ a
  · rw [decide_eq_true h]
    simp [h, Bool.or_assoc]
  · rw [decide_eq_false h]
    simp [h]
theorem next_in (s : ByteArray) (i : Nat) (h : i ≤ s.size) : nextV s.data.toList (i : Int) = i + nextN (s.data.toList.drop i) := by
  unfold nextV; rw [atN_in _ _ (by rw [← Lib.size_eq]; exact h)]
theorem next_far (s : Txt) (a : Int) (h : (s.length : Int) ≤ a) : nextV s a = s.length := by
  unfold nextV
  rw [show atN s a = s.length by unfold atN; omega, List.drop_length]; rfl
theorem next_top (s : Txt) (a : Int) : nextV s a ≤ s.length ∧ atN s a ≤ nextV s a := by
  have h1 := next_le (s.drop (atN s a))
  have h2 := atN_le s a
  rw [List.length_drop] at h1
  unfold nextV
  omega
end Go.Proofs.YtbcmfcddkegcoaaGreatDoor

/-! Where a text ends with its own tag: plain mathematics. -/
namespace Go.Proofs.YtbcmfcddkegcoaaGreatDoor
open Go.RowKit Go.Lib

/-- a byte behind a name that ends it -/
def tailB (c : UInt8) : Bool := spaceI (c.toNat : Int) || c == 47 || c == 62
theorem tailB_int (c : UInt8) : tailB c = (spaceI ((c.toNat : Nat) : Int) || (((c.toNat : Nat) : Int) == 47) || (((c.toNat : Nat) : Int) == 62)) := by
  unfold tailB
  congr 1
  · congr 1
    rw [Bool.eq_iff_iff, beq_iff_eq, beq_iff_eq, ← UInt8.toNat_inj]
    show c.toNat = 47 ↔ _
    omega
  · rw [Bool.eq_iff_iff, beq_iff_eq, beq_iff_eq, ← UInt8.toNat_inj]
    show c.toNat = 62 ↔ _
    omega
/-- P12.1, of what stands at a place -/
def endR (nm l : Txt) : Bool := !nm.isEmpty && ((60 :: 47 :: nm).isPrefixOf (lowL l) && (l.drop (2 + nm.length)).head?.any tailB)
/-- how many bytes stand ahead of the first end -/
def findL (nm : Txt) : Txt → Nat
  | [] => 0
  | c :: t => if endR nm (c :: t) = true then 0 else findL nm t + 1
/-- P12.1, P12.2 for any place -/
def endV (nm s : Txt) (a : Int) : Bool := decide (0 ≤ a) && endR nm (s.drop a.toNat)
def plN (n : Nat) (a : Int) : Nat := min a.toNat n
def findV (nm s : Txt) (a : Int) : Nat := plN s.length a + findL nm (s.drop (plN s.length a))
theorem endR_nil (nm : Txt) : endR nm [] = false := by
  unfold endR
  rw [show lowL [] = [] from rfl]
  simp [List.isPrefixOf]
theorem endR_head (nm : Txt) (c : UInt8) (t : Txt) (h : endR nm (c :: t) = true) : c = 60 := by
  unfold endR at h
  rw [Bool.and_eq_true, Bool.and_eq_true] at h
  obtain ⟨-, h, -⟩ := h
  rw [lowL_cons, List.isPrefixOf_cons_cons, Bool.and_eq_true, beq_iff_eq] at h
  have h1 := lowB_int c
  have h2 := c.toNat_lt
  rw [← h.1] at h1
  have h1 : (60 : Int) = lowI (c.toNat : Int) := h1
  rw [← UInt8.toNat_inj]
  unfold lowI at h1
  split at h1
  · omega
  · show c.toNat = 60; omega
theorem endV_in (nm s : Txt) (k : Nat) : endV nm s (k : Int) = endR nm (s.drop k) := by
  unfold endV
  rw [show ((k : Nat) : Int).toNat = k by omega, decide_eq_true (by omega), Bool.true_and]
theorem endV_out (nm s : Txt) (a : Int) (h : a < 0 ∨ (s.length : Int) ≤ a) : endV nm s a = false := by
  unfold endV
  rcases h with h | h
  · rw [decide_eq_false (by omega), Bool.false_and]
  · rw [List.drop_eq_nil_of_le (by omega), endR_nil, Bool.and_false]
theorem findV_in (nm s : Txt) (k : Nat) (h : k ≤ s.length) : findV nm s (k : Int) = k + findL nm (s.drop k) := by
  unfold findV plN
  rw [show ((k : Nat) : Int).toNat = k by omega, Nat.min_eq_left h]
/-- what the first end is -/
theorem find_is (nm : Txt) : ∀ l : Txt, findL nm l ≤ l.length ∧ (∀ i, i < findL nm l → endR nm (l.drop i) = false) ∧ (findL nm l < l.length → endR nm (l.drop (findL nm l)) = true)
  | [] => ⟨Nat.le_refl _, fun i h => absurd h (Nat.not_lt_zero _), fun h => absurd h (Nat.lt_irrefl _)⟩
  | c :: t => by
    obtain ⟨h1, h2, h3⟩ := find_is nm t
    by_cases h : endR nm (c :: t) = true
    · have e : findL nm (c :: t) = 0 := by rw [findL, if_pos h]
      rw [e]
      exact ⟨Nat.zero_le _, fun i hi => absurd hi (Nat.not_lt_zero _), fun _ => h⟩
    · have e : findL nm (c :: t) = findL nm t + 1 := by rw [findL, if_neg h]
      rw [e, List.length_cons]
      refine ⟨by omega, fun i hi => ?_, fun hi => by rw [List.drop_succ_cons]; exact h3 (by omega)⟩
      cases i with
      | zero => exact Bool.eq_false_iff.2 h
      | succ i => rw [List.drop_succ_cons]; exact h2 i (by omega)
theorem find_one (nm l : Txt) (n : Nat) (h1 : n ≤ l.length) (h2 : ∀ i, i < n → endR nm (l.drop i) = false) (h3 : n = l.length ∨ endR nm (l.drop n) = true) : findL nm l = n := by
  obtain ⟨f1, f2, f3⟩ := find_is nm l
  rcases Nat.lt_trichotomy (findL nm l) n with h | h | h
  · have := f3 (by omega)
    rw [h2 _ h] at this; cases this
  · exact h
  · rcases h3 with h3 | h3
    · omega
    · rw [f2 n h] at h3; cases h3
end Go.Proofs.YtbcmfcddkegcoaaGreatDoor

/-! What a text says that ends with its own tag. -/
namespace Go.Proofs.YtbcmfcddkegcoaaGreatDoor
open Go.RowKit Go.Lib

/-- P12.2 -/
noncomputable def rawT (refs : Bool) (l : Txt) : Txt := cleanL (if refs = true then ddL false l else l)
end Go.Proofs.YtbcmfcddkegcoaaGreatDoor

/-! Where a program ends: plain mathematics. -/
namespace Go.Proofs.YtbcmfcddkegcoaaGreatDoor
open Go.RowKit Go.Lib

/-- script; <!-- -/
def scL : Txt := [115, 99, 114, 105, 112, 116]
def comL : Txt := [60, 33, 45, 45]
/-- the word behind an opening -/
def wordR (o l : Txt) : Bool := (o ++ scL).isPrefixOf (lowL l) && (l.drop (o.length + 6)).head?.any tailB
/-- one step: none: it ends here; else how many bytes are passed over, what it is from now on, how many strokes are counted -/
def stepS (st k : Nat) (l : Txt) : Option (Nat × Nat × Nat) :=
  if st = 0 then (if endR scL l = true then none else if comL.isPrefixOf (lowL l) = true then some (4, 1, 2) else some (1, 0, 0))
  else if l.head? = some 45 then some (1, st, k + 1)
  else if l.head? = some 62 ∧ 2 ≤ k then some (1, 0, 0)
  else if st = 1 ∧ endR scL l = true then none
  else if st = 1 ∧ wordR [60] l = true then some (8, 2, 0)
  else if st = 2 ∧ wordR [60, 47] l = true then some (9, 1, 0)
  else some (1, st, 0)
/-- where it ends, and what it is then: with fuel -/
def scrR : Nat → Nat → Nat → Txt → Nat × Nat
  | 0, st, _, _ => (0, st)
  | _ + 1, st, _, [] => (0, st)
  | f + 1, st, k, c :: t => match stepS st k (c :: t) with
    | none => (0, st)
    | some (n, st', k') => (n + (scrR f st' k' ((c :: t).drop n)).1, (scrR f st' k' ((c :: t).drop n)).2)
def scrV (st k : Nat) (l : Txt) : Nat × Nat := scrR l.length st k l
theorem word_len (o l : Txt) (h : wordR o l = true) : o.length + 7 ≤ l.length := by
  unfold wordR at h
  rw [Bool.and_eq_true] at h
  have : (l.drop (o.length + 6)) ≠ [] := fun e => by rw [e] at h; simp at h
  have := List.length_pos_iff.2 this
  rw [List.length_drop] at this; omega
theorem com_len (l : Txt) (h : comL.isPrefixOf (lowL l) = true) : 4 ≤ l.length := by
  have := (List.isPrefixOf_iff_prefix.1 h).length_le
  rw [lowL_len] at this; exact this
theorem step_some (st k : Nat) (l : Txt) (hl : l ≠ []) (n st' k' : Nat) (h : stepS st k l = some (n, st', k')) : 1 ≤ n ∧ n ≤ l.length ∧ (st ≤ 2 → st' ≤ 2) := by
  have h1 := List.length_pos_iff.2 hl
  unfold stepS at h
  by_cases c0 : st = 0
  · rw [if_pos c0] at h
    by_cases e : endR scL l = true
    · rw [if_pos e] at h; cases h
    · rw [if_neg e] at h
      by_cases m : comL.isPrefixOf (lowL l) = true
      · rw [if_pos m] at h
        have := com_len l m
        simp only [Option.some.injEq, Prod.mk.injEq] at h; omega
      · rw [if_neg m] at h
        simp only [Option.some.injEq, Prod.mk.injEq] at h; omega
  · rw [if_neg c0] at h
    by_cases c1 : l.head? = some 45
    · rw [if_pos c1] at h; simp only [Option.some.injEq, Prod.mk.injEq] at h; omega
    · rw [if_neg c1] at h
      by_cases c2 : l.head? = some 62 ∧ 2 ≤ k
      · rw [if_pos c2] at h; simp only [Option.some.injEq, Prod.mk.injEq] at h; omega
      · rw [if_neg c2] at h
        by_cases c3 : st = 1 ∧ endR scL l = true
        · rw [if_pos c3] at h; cases h
        · rw [if_neg c3] at h
          by_cases c4 : st = 1 ∧ wordR [60] l = true
          · rw [if_pos c4] at h
            have := word_len _ _ c4.2
            simp only [Option.some.injEq, Prod.mk.injEq, List.length_cons, List.length_nil] at h this; omega
          · rw [if_neg c4] at h
            by_cases c5 : st = 2 ∧ wordR [60, 47] l = true
            · rw [if_pos c5] at h
              have := word_len _ _ c5.2
              simp only [Option.some.injEq, Prod.mk.injEq, List.length_cons, List.length_nil] at h this; omega
            · rw [if_neg c5] at h; simp only [Option.some.injEq, Prod.mk.injEq] at h; omega
theorem step_none (st k : Nat) (l : Txt) (h : stepS st k l = none) : endR scL l = true ∧ (st = 0 ∨ st = 1) := by
  unfold stepS at h
  by_cases c0 : st = 0
  · rw [if_pos c0] at h
    by_cases e : endR scL l = true
    · exact ⟨e, .inl c0⟩
    · rw [if_neg e] at h; split at h <;> cases h
  · rw [if_neg c0] at h
    split at h
    · cases h
    · split at h
      · cases h
      · split at h
        · rename_i c; exact ⟨c.2, .inr c.1⟩
        · split at h
          · cases h
          · split at h <;> cases h
theorem scr_fuel : ∀ (f st k : Nat) (l : Txt), l.length ≤ f → scrR f st k l = scrV st k l
  | 0, st, k, l, h => by
    have : l = [] := List.length_eq_zero_iff.1 (by omega)
    subst this; rfl
  | f + 1, st, k, [], _ => rfl
  | f + 1, st, k, c :: t, h => by
    unfold scrV
    rw [List.length_cons, scrR, scrR]
    cases hs : stepS st k (c :: t) with
    | none => rfl
    | some r =>
      obtain ⟨n, st', k'⟩ := r
      have hb := step_some st k (c :: t) (by simp) n st' k' hs
      simp only
      have hl : ((c :: t).drop n).length ≤ t.length := by rw [List.length_drop]; rw [List.length_cons]; omega
      rw [List.length_cons] at h
      rw [scr_fuel f st' k' ((c :: t).drop n) (by omega)]
      have : scrR t.length st' k' ((c :: t).drop n) = scrV st' k' ((c :: t).drop n) := by
        by_cases ht : t.length ≤ f
        · exact scr_fuel t.length st' k' _ hl
        · omega
      rw [this]
termination_by f => f
theorem scr_nil (st k : Nat) : scrV st k [] = (0, st) := rfl
theorem scr_end (st k : Nat) (l : Txt) (hl : l ≠ []) (h : stepS st k l = none) : scrV st k l = (0, st) := by
  cases l with
  | nil => exact absurd rfl hl
  | cons c t => unfold scrV; rw [List.length_cons, scrR, h]
theorem scr_step (st k : Nat) (l : Txt) (hl : l ≠ []) (n st' k' : Nat) (h : stepS st k l = some (n, st', k')) : scrV st k l = (n + (scrV st' k' (l.drop n)).1, (scrV st' k' (l.drop n)).2) := by
  cases l with
  | nil => exact absurd rfl hl
  | cons c t =>
    have hb := step_some st k (c :: t) (by simp) n st' k' h
    have e : scrV st k (c :: t) = scrR (t.length + 1) st k (c :: t) := rfl
    rw [e, scrR, h]
    simp only
    rw [scr_fuel t.length st' k' _ (by rw [List.length_drop]; rw [List.length_cons]; omega)]
/-- P13.1 for any place -/
def scrP (s : Txt) (a : Int) : Nat × Nat := (plN s.length a + (scrV 0 0 (s.drop (plN s.length a))).1, (scrV 0 0 (s.drop (plN s.length a))).2)
theorem scrP_in (s : Txt) (k : Nat) (h : k ≤ s.length) : scrP s (k : Int) = (k + (scrV 0 0 (s.drop k)).1, (scrV 0 0 (s.drop k)).2) := by
  unfold scrP plN
  rw [show ((k : Nat) : Int).toNat = k by omega, Nat.min_eq_left h]

/-- induction along the run -/
theorem scr_ind {M : Nat → Nat → Txt → Prop} (h0 : ∀ st k, M st k []) (h1 : ∀ st k l, l ≠ [] → stepS st k l = none → M st k l) (h2 : ∀ st k l n st' k', l ≠ [] → stepS st k l = some (n, st', k') → M st' k' (l.drop n) → M st k l) :
    ∀ (m : Nat) (st k : Nat) (l : Txt), l.length ≤ m → M st k l
  | 0, st, k, l, h => by
    have : l = [] := List.length_eq_zero_iff.1 (by omega)
    subst this; exact h0 st k
  | m + 1, st, k, l, h => by
    by_cases hl : l = []
    · subst hl; exact h0 st k
    · cases hs : stepS st k l with
      | none => exact h1 st k l hl hs
      | some r =>
        obtain ⟨n, st', k'⟩ := r
        have hb := step_some st k l hl n st' k' hs
        exact h2 st k l n st' k' hl hs (scr_ind h0 h1 h2 m st' k' (l.drop n) (by rw [List.length_drop]; omega))
/-- where it ends its tag's end stands -/
theorem scr_is (st k : Nat) (l : Txt) (hst : st ≤ 2) : (scrV st k l).1 ≤ l.length ∧ (scrV st k l).2 ≤ 2 ∧ ((scrV st k l).1 < l.length → endR scL (l.drop (scrV st k l).1) = true ∧ (scrV st k l).2 ≠ 2) := by
  have := scr_ind (M := fun st k l => st ≤ 2 → (scrV st k l).1 ≤ l.length ∧ (scrV st k l).2 ≤ 2 ∧ ((scrV st k l).1 < l.length → endR scL (l.drop (scrV st k l).1) = true ∧ (scrV st k l).2 ≠ 2))
    (fun st k h => ⟨Nat.le_refl _, h, fun h => absurd h (Nat.lt_irrefl _)⟩)
    (fun st k l hl hs h => by
      rw [scr_end st k l hl hs]
      obtain ⟨e1, e2⟩ := step_none st k l hs
      exact ⟨Nat.zero_le _, h, fun _ => ⟨e1, by show st ≠ 2; omega⟩⟩)
    (fun st k l n st' k' hl hs ih h => by
      obtain ⟨b1, b2, b3⟩ := step_some st k l hl n st' k' hs
      obtain ⟨i1, i2, i3⟩ := ih (b3 h)
      rw [List.length_drop] at i1 i3
      rw [scr_step st k l hl n st' k' hs]
      refine ⟨by simp only; omega, i2, fun hlt => ?_⟩
      simp only at hlt
      have := i3 (by omega)
      rwa [List.drop_drop] at this)
    l.length st k l (Nat.le_refl _)
  exact this hst
end Go.Proofs.YtbcmfcddkegcoaaGreatDoor
