/-
  Texts laid together: AttMath, AttScan, AttAdd, AttRef, AttEnds, AttOne, AttKnow, AttCode, AttGood, AttRead.
-/
import Derived.Test.YtbcmfcddkegcoaaGreatDoorP4
import Derived.Test.YtbcmfcddkegcoaaGreatDoorP6
import Derived.Test.YtbcmfcddkegcoaaGreatDoorP3
import Derived.Test.YtbcmfcddkegcoaaGreatDoorP1
import Derived.Test.YtbcmfcddkegcoaaGreatDoorPT
import Derived.Maps.OwnOps
import Derived.Maps.Views
import Derived.ProofKit
import Derived.WalkKit
/-! What stands in a tag, byte by byte: plain mathematics. -/
namespace Go.Proofs.YtbcmfcddkegcoaaGreatDoor
open Go.RowKit Go.Lib

/-- a Space -/
def spB (c : UInt8) : Bool := spaceI (c.toNat : Int)
/-- a name and a value as they are told -/
def tellN (name : Txt) : Txt := cleanL (lowL name)
noncomputable def tellV (val : Txt) : Txt := cleanL (ddL true val)
/-- an attribute more, unless its name was there -/
noncomputable def addL (l : List Ln) (name val : Txt) : List Ln := if l.any (fun r => r.1 == tellN name) then l else l ++ [(tellN name, tellV val)]

/-- what is read: what stands ahead of a name, a name, what is behind one, what is ahead of a value, a value in quotes, or without -/
inductive At where
  | s0 (l : List Ln)
  | s1 (l : List Ln) (name : Txt)
  | s2 (l : List Ln) (name : Txt)
  | s3 (l : List Ln) (name : Txt)
  | s4 (l : List Ln) (name val : Txt) (q : UInt8)
  | s5 (l : List Ln) (name val : Txt)
inductive Step where
  | more (a : At)
  | done (l : List Ln) (self : Bool) (n : Nat)
/-- what ends a name -/
def endB (c : UInt8) : Bool := spB c || c == 47 || c == 62 || c == 61
def go0 (l : List Ln) (c : UInt8) (t : Txt) : Step :=
  if spB c then .more (.s0 l) else if c = 62 then .done l false 1
  else if c = 47 then (if t.head? = some 62 then .done l true 2 else .more (.s0 l))
  else .more (.s1 l [c])
noncomputable def go2 (l : List Ln) (name : Txt) (c : UInt8) (t : Txt) : Step :=
  if spB c then .more (.s2 l name) else if c = 61 then .more (.s3 l name) else go0 (addL l name []) c t
noncomputable def go1 (l : List Ln) (name : Txt) (c : UInt8) (t : Txt) : Step := if endB c then go2 l name c t else .more (.s1 l (name ++ [c]))
noncomputable def go5 (l : List Ln) (name val : Txt) (c : UInt8) (t : Txt) : Step := if spB c || c == 62 then go0 (addL l name val) c t else .more (.s5 l name (val ++ [c]))
noncomputable def go3 (l : List Ln) (name : Txt) (c : UInt8) (t : Txt) : Step :=
  if spB c then .more (.s3 l name) else if c = 34 ∨ c = 39 then .more (.s4 l name [] c) else if c = 62 then go0 (addL l name []) c t else go5 l name [] c t
noncomputable def go4 (l : List Ln) (name val : Txt) (q c : UInt8) : Step := if c = q then .more (.s0 (addL l name val)) else .more (.s4 l name (val ++ [c]) q)
noncomputable def goA : At → UInt8 → Txt → Step
  | .s0 l, c, t => go0 l c t
  | .s1 l name, c, t => go1 l name c t
  | .s2 l name, c, t => go2 l name c t
  | .s3 l name, c, t => go3 l name c t
  | .s4 l name val q, c, _ => go4 l name val q c
  | .s5 l name val, c, t => go5 l name val c t
abbrev Told := List Ln × Bool × Nat
def upN (k : Nat) (r : Told) : Told := (r.1, r.2.1, r.2.2 + k)
/-- from a place on: the attributes, whether the tag closes itself, how many bytes are read -/
noncomputable def runA : At → Txt → Option Told
  | _, [] => none
  | a, c :: t => match goA a c t with
    | .done l self n => some (l, self, n)
    | .more a' => (runA a' t).map (upN 1)
theorem run_nil (a : At) : runA a [] = none := by cases a <;> rfl
theorem run_more {a a' : At} {c : UInt8} {t : Txt} (h : goA a c t = .more a') : runA a (c :: t) = (runA a' t).map (upN 1) := by
  rw [runA, h]
theorem run_done {a : At} {c : UInt8} {t : Txt} {l : List Ln} {self : Bool} {n : Nat} (h : goA a c t = .done l self n) : runA a (c :: t) = some (l, self, n) := by
  rw [runA, h]
theorem run_same {a b : At} {c : UInt8} {t : Txt} (h : goA a c t = goA b c t) : runA a (c :: t) = runA b (c :: t) := by
  rw [runA, runA, h]

/-- the same, told with a place: 'i' bytes stand ahead -/
noncomputable def runI (i : Nat) (a : At) (t : Txt) : Option Told := (runA a t).map (upN i)
theorem upN_one (i : Nat) (r : Option Told) : (r.map (upN 1)).map (upN i) = r.map (upN (i + 1)) := by
  cases r with
  | none => rfl
  | some r => simp [upN]; omega
theorem runI_more {i : Nat} {a a' : At} {c : UInt8} {t : Txt} {T : Option Told} (h : goA a c t = .more a') (hT : runI i a (c :: t) = T) : runI (i + 1) a' t = T := by
  unfold runI at hT ⊢
  rw [run_more h, upN_one] at hT
  exact hT
theorem runI_done {i : Nat} {a : At} {c : UInt8} {t : Txt} {l : List Ln} {self : Bool} {n : Nat} {T : Option Told} (h : goA a c t = .done l self n) (hT : runI i a (c :: t) = T) : T = some (l, self, i + n) := by
  unfold runI at hT
  rw [run_done h] at hT
  rw [← hT]; simp [upN]; omega
theorem runI_nil {i : Nat} {a : At} {T : Option Told} (hT : runI i a [] = T) : T = none := by
  unfold runI at hT; rw [run_nil] at hT; exact hT.symm

/-- P8.1 for any place -/
noncomputable def attrsV (s : Txt) (a : Int) : List Ln × Bool × Int × Bool :=
  if 0 ≤ a ∧ a ≤ (s.length : Int) then match runI a.toNat (.s0 []) (s.drop a.toNat) with
    | none => ([], false, (s.length : Int), false)
    | some (l, self, n) => (l, self, (n : Int), true)
  else ([], false, a, false)
theorem attrs_out (s : Txt) (a : Int) (h : ¬ (0 ≤ a ∧ a ≤ (s.length : Int))) : attrsV s a = ([], false, a, false) := if_neg h
theorem attrs_none (s : Txt) (k : Nat) (h : k ≤ s.length) (hT : runI k (.s0 []) (s.drop k) = none) : attrsV s (k : Int) = ([], false, (s.length : Int), false) := by
  unfold attrsV
  rw [if_pos ⟨by omega, by omega⟩, show ((k : Nat) : Int).toNat = k by omega, hT]
theorem attrs_some (s : Txt) (k : Nat) (h : k ≤ s.length) (l : List Ln) (self : Bool) (n : Nat) (hT : runI k (.s0 []) (s.drop k) = some (l, self, n)) : attrsV s (k : Int) = (l, self, (n : Int), true) := by
  unfold attrsV
  rw [if_pos ⟨by omega, by omega⟩, show ((k : Nat) : Int).toNat = k by omega, hT]

/-- each step, by the byte -/
theorem go0_space {l : List Ln} {c : UInt8} {t : Txt} (h : spB c = true) : goA (.s0 l) c t = .more (.s0 l) := if_pos h
theorem go0_end {l : List Ln} {c : UInt8} {t : Txt} (h : c = 62) : goA (.s0 l) c t = .done l false 1 := by subst h; rfl
theorem go0_self {l : List Ln} {c : UInt8} {t : Txt} (h : c = 47) (ht : t.head? = some 62) : goA (.s0 l) c t = .done l true 2 := by
  subst h
  show go0 l 47 t = _
  unfold go0
  rw [if_neg (by decide), if_neg (by decide), if_pos rfl, if_pos ht]
theorem go0_stroke {l : List Ln} {c : UInt8} {t : Txt} (h : c = 47) (ht : t.head? ≠ some 62) : goA (.s0 l) c t = .more (.s0 l) := by
  subst h
  show go0 l 47 t = _
  unfold go0
  rw [if_neg (by decide), if_neg (by decide), if_pos rfl, if_neg ht]
theorem go0_name {l : List Ln} {c : UInt8} {t : Txt} (h : spB c = false) (h1 : c ≠ 62) (h2 : c ≠ 47) : goA (.s0 l) c t = .more (.s1 l [c]) := by
  show go0 l c t = _
  unfold go0
  rw [h, if_neg Bool.false_ne_true, if_neg h1, if_neg h2]
theorem go1_end {l : List Ln} {name : Txt} {c : UInt8} {t : Txt} (h : endB c = true) : goA (.s1 l name) c t = goA (.s2 l name) c t := if_pos h
theorem go1_more {l : List Ln} {name : Txt} {c : UInt8} {t : Txt} (h : endB c = false) : goA (.s1 l name) c t = .more (.s1 l (name ++ [c])) := by
  show go1 l name c t = _
  unfold go1; rw [h]; rfl
theorem go2_space {l : List Ln} {name : Txt} {c : UInt8} {t : Txt} (h : spB c = true) : goA (.s2 l name) c t = .more (.s2 l name) := if_pos h
theorem go2_eq {l : List Ln} {name : Txt} {c : UInt8} {t : Txt} (h : c = 61) : goA (.s2 l name) c t = .more (.s3 l name) := by subst h; rfl
theorem go2_else {l : List Ln} {name : Txt} {c : UInt8} {t : Txt} (h : spB c = false) (h1 : c ≠ 61) : goA (.s2 l name) c t = goA (.s0 (addL l name [])) c t := by
  show go2 l name c t = go0 _ c t
  unfold go2; rw [h, if_neg Bool.false_ne_true, if_neg h1]
theorem go3_space {l : List Ln} {name : Txt} {c : UInt8} {t : Txt} (h : spB c = true) : goA (.s3 l name) c t = .more (.s3 l name) := if_pos h
theorem go3_quote {l : List Ln} {name : Txt} {c : UInt8} {t : Txt} (h : c = 34 ∨ c = 39) : goA (.s3 l name) c t = .more (.s4 l name [] c) := by
  rcases h with rfl | rfl <;> rfl
theorem go3_end {l : List Ln} {name : Txt} {c : UInt8} {t : Txt} (h : c = 62) : goA (.s3 l name) c t = goA (.s0 (addL l name [])) c t := by subst h; rfl
theorem go3_else {l : List Ln} {name : Txt} {c : UInt8} {t : Txt} (h : spB c = false) (h1 : ¬ (c = 34 ∨ c = 39)) (h2 : c ≠ 62) : goA (.s3 l name) c t = goA (.s5 l name []) c t := by
  show go3 l name c t = go5 l name [] c t
  unfold go3; rw [h, if_neg Bool.false_ne_true, if_neg h1, if_neg h2]
theorem go4_end {l : List Ln} {name val : Txt} {q c : UInt8} {t : Txt} (h : c = q) : goA (.s4 l name val q) c t = .more (.s0 (addL l name val)) := if_pos h
theorem go4_more {l : List Ln} {name val : Txt} {q c : UInt8} {t : Txt} (h : c ≠ q) : goA (.s4 l name val q) c t = .more (.s4 l name (val ++ [c]) q) := if_neg h
theorem go5_end {l : List Ln} {name val : Txt} {c : UInt8} {t : Txt} (h : (spB c || c == 62) = true) : goA (.s5 l name val) c t = goA (.s0 (addL l name val)) c t := if_pos h
theorem go5_more {l : List Ln} {name val : Txt} {c : UInt8} {t : Txt} (h : (spB c || c == 62) = false) : goA (.s5 l name val) c t = .more (.s5 l name (val ++ [c])) := by
  show go5 l name val c t = _
  unfold go5; rw [h]; rfl
end Go.Proofs.YtbcmfcddkegcoaaGreatDoor

/-! An attribute that stands at a place, read at once: its name, its value, how many bytes it has: plain mathematics. -/
namespace Go.Proofs.YtbcmfcddkegcoaaGreatDoor
open Go.RowKit Go.Lib

/-- a value without quotes goes on; a name goes on -/
def valB (c : UInt8) : Bool := !(spB c || c == 62)
def nameB (c : UInt8) : Bool := !endB c

theorem take_tw (p : UInt8 → Bool) (l : Txt) : l.take (l.takeWhile p).length = l.takeWhile p := by
  conv => lhs; arg 2; rw [← List.takeWhile_append_dropWhile (p := p) (l := l)]
  exact List.take_left
theorem drop_tw (p : UInt8 → Bool) (l : Txt) : l.drop (l.takeWhile p).length = l.dropWhile p := by
  conv => lhs; arg 2; rw [← List.takeWhile_append_dropWhile (p := p) (l := l)]
  exact List.drop_left
theorem tw_le (p : UInt8 → Bool) (l : Txt) : (l.takeWhile p).length ≤ l.length := (List.takeWhile_sublist p).length_le
theorem tw_yes {p : UInt8 → Bool} {c : UInt8} {t : Txt} (h : p c = true) : (c :: t).takeWhile p = c :: t.takeWhile p := by rw [List.takeWhile_cons, if_pos h]
theorem tw_no {p : UInt8 → Bool} {c : UInt8} {t : Txt} (h : p c = false) : (c :: t).takeWhile p = [] := by rw [List.takeWhile_cons, h]; rfl
theorem dw_yes {p : UInt8 → Bool} {c : UInt8} {t : Txt} (h : p c = true) : (c :: t).dropWhile p = t.dropWhile p := by rw [List.dropWhile_cons, if_pos h]
theorem dw_no {p : UInt8 → Bool} {c : UInt8} {t : Txt} (h : p c = false) : (c :: t).dropWhile p = c :: t := by rw [List.dropWhile_cons, h]; rfl
theorem dw_head (p : UInt8 → Bool) : ∀ (l : Txt) (c : UInt8) (t : Txt), l.dropWhile p = c :: t → p c = false
  | [], c, t, h => by simp at h
  | d :: l, c, t, h => by
    cases hp : p d
    · rw [dw_no hp] at h
      injection h with h1 h2
      rw [← h1]; exact hp
    · rw [dw_yes hp] at h; exact dw_head p l c t h

theorem upN_add (a b : Nat) (r : Option Told) : (r.map (upN a)).map (upN b) = r.map (upN (a + b)) := by
  cases r with
  | none => rfl
  | some r => simp [upN, Nat.add_assoc]
theorem upN_nil (r : Option Told) : r.map (upN 0) = r := by
  cases r <;> rfl

theorem scan1 (l : List Ln) : ∀ (t nm : Txt), runA (.s1 l nm) t = (runA (.s2 l (nm ++ t.takeWhile nameB)) (t.dropWhile nameB)).map (upN (t.takeWhile nameB).length)
  | [], nm => by rw [List.dropWhile_nil, run_nil, run_nil]; rfl
  | c :: t, nm => by
    cases h : endB c
    · have hn : nameB c = true := by unfold nameB; rw [h]; rfl
      rw [run_more (go1_more h), scan1 l t (nm ++ [c]), tw_yes hn, dw_yes hn, upN_add, List.append_assoc, List.length_cons]; rfl
    · have hn : nameB c = false := by unfold nameB; rw [h]; rfl
      rw [tw_no hn, dw_no hn, List.append_nil, run_same (go1_end h)]; exact (upN_nil _).symm
theorem scan2 (l : List Ln) (nm : Txt) : ∀ t : Txt, runA (.s2 l nm) t = (runA (.s2 l nm) (t.dropWhile spB)).map (upN (t.takeWhile spB).length)
  | [] => by rw [List.dropWhile_nil, run_nil]; rfl
  | c :: t => by
    cases h : spB c
    · rw [tw_no h, dw_no h]; exact (upN_nil _).symm
    · rw [run_more (go2_space h), scan2 l nm t, tw_yes h, dw_yes h, upN_add]; rfl
theorem scan3 (l : List Ln) (nm : Txt) : ∀ t : Txt, runA (.s3 l nm) t = (runA (.s3 l nm) (t.dropWhile spB)).map (upN (t.takeWhile spB).length)
  | [] => by rw [List.dropWhile_nil, run_nil]; rfl
  | c :: t => by
    cases h : spB c
    · rw [tw_no h, dw_no h]; exact (upN_nil _).symm
    · rw [run_more (go3_space h), scan3 l nm t, tw_yes h, dw_yes h, upN_add]; rfl
theorem scan5 (l : List Ln) (nm : Txt) : ∀ (t v : Txt), runA (.s5 l nm v) t = (runA (.s0 (addL l nm (v ++ t.takeWhile valB))) (t.dropWhile valB)).map (upN (t.takeWhile valB).length)
  | [], v => by rw [List.dropWhile_nil, run_nil, run_nil]; rfl
  | c :: t, v => by
    cases h : (spB c || c == 62)
    · have hn : valB c = true := by unfold valB; rw [h]; rfl
      rw [run_more (go5_more h), scan5 l nm t (v ++ [c]), tw_yes hn, dw_yes hn, upN_add, List.append_assoc, List.length_cons]; rfl
    · have hn : valB c = false := by unfold valB; rw [h]; rfl
      rw [tw_no hn, dw_no hn, List.append_nil, run_same (go5_end h)]; exact (upN_nil _).symm
theorem scan4 (l : List Ln) (nm : Txt) (q : UInt8) : ∀ (t v : Txt), runA (.s4 l nm v q) t = (runA (.s0 (addL l nm (v ++ t.takeWhile (· != q)))) ((t.dropWhile (· != q)).tail)).map (upN ((t.takeWhile (· != q)).length + 1))
  | [], v => by rw [List.dropWhile_nil, run_nil, List.tail_nil, run_nil]; rfl
  | c :: t, v => by
    by_cases h : c = q
    · have hn : (c != q) = false := by simpa using h
      rw [tw_no (p := (· != q)) hn, dw_no (p := (· != q)) hn, List.append_nil, run_more (go4_end h), List.tail_cons]; rfl
    · have hn : (c != q) = true := by simpa using h
      rw [run_more (go4_more h), scan4 l nm q t (v ++ [c]), tw_yes (p := (· != q)) hn, dw_yes (p := (· != q)) hn, upN_add, List.append_assoc, List.length_cons]; rfl

/-- a value that stands at a place: its bytes, and how many bytes are read -/
def valT : Txt → Txt × Nat
  | [] => ([], 0)
  | c :: t => if c = 34 ∨ c = 39 then (t.takeWhile (· != c), (c :: t).length - ((t.dropWhile (· != c)).tail).length)
    else ((c :: t).takeWhile valB, ((c :: t).takeWhile valB).length)
/-- an attribute: the name's bytes, the value's, and how many are read -/
def anT (l : Txt) : Txt := l.take 1 ++ (l.drop 1).takeWhile nameB
def attV (r : Txt) (k : Nat) : Txt × Nat :=
  if r.head? = some 61 then ((valT ((r.drop 1).dropWhile spB)).1, k + 1 + ((r.drop 1).takeWhile spB).length + (valT ((r.drop 1).dropWhile spB)).2) else ([], k)
def attT (l : Txt) : Txt × Nat :=
  attV ((l.drop (anT l).length).dropWhile spB) ((anT l).length + ((l.drop (anT l).length).takeWhile spB).length)
theorem valT_cons (c : UInt8) (t : Txt) : valT (c :: t) = if c = 34 ∨ c = 39 then (t.takeWhile (· != c), (c :: t).length - ((t.dropWhile (· != c)).tail).length)
    else ((c :: t).takeWhile valB, ((c :: t).takeWhile valB).length) := rfl
theorem valT_le (l : Txt) : (valT l).2 ≤ l.length := by
  cases l with
  | nil => exact Nat.le_refl _
  | cons c t =>
    rw [valT_cons]
    split
    · exact Nat.sub_le _ _
    · exact tw_le _ _
theorem valT_len (l : Txt) : (valT l).1.length ≤ l.length := by
  cases l with
  | nil => exact Nat.le_refl _
  | cons c t =>
    rw [valT_cons]
    split
    · have := tw_le (· != c) t
      simp only [List.length_cons]; omega
    · exact tw_le _ _
theorem anT_le (l : Txt) : (anT l).length ≤ l.length := by
  cases l with
  | nil => exact Nat.le_refl _
  | cons c t =>
    have := tw_le nameB t
    simp [anT]; omega
theorem run_val (l : List Ln) (nm t : Txt) : runA (.s3 l nm) (t.dropWhile spB) = (runA (.s0 (addL l nm (valT (t.dropWhile spB)).1)) ((t.dropWhile spB).drop (valT (t.dropWhile spB)).2)).map (upN (valT (t.dropWhile spB)).2) := by
  cases h : t.dropWhile spB with
  | nil => rw [run_nil, List.drop_nil, run_nil]; rfl
  | cons c r =>
    have hs := dw_head spB t c r h
    by_cases hq : c = 34 ∨ c = 39
    · have e : valT (c :: r) = (r.takeWhile (· != c), (c :: r).length - ((r.dropWhile (· != c)).tail).length) := if_pos hq
      have hl : (r.takeWhile (· != c)).length + (r.dropWhile (· != c)).length = r.length := by rw [← List.length_append, List.takeWhile_append_dropWhile]
      have ht := List.length_tail (l := r.dropWhile (· != c))
      rw [e, run_more (go3_quote hq), scan4, List.nil_append, upN_add]
      simp only
      cases hd : r.dropWhile (· != c) with
      | nil =>
        rw [hd] at hl
        rw [List.tail_nil, run_nil, List.length_nil, List.drop_eq_nil_of_le (Nat.le_of_eq (Nat.sub_zero _).symm), run_nil]; rfl
      | cons d z =>
        rw [hd] at hl
        rw [List.tail_cons, List.length_cons]
        rw [List.length_cons] at hl
        rw [show r.length + 1 - z.length = (r.takeWhile (· != c)).length + 1 + 1 by omega, List.drop_succ_cons, ← List.drop_drop, drop_tw, hd]; rfl
    · by_cases h62 : c = 62
      · have hv : valB c = false := by rw [h62]; decide
        have e : valT (c :: r) = ([], 0) := by rw [valT_cons, if_neg hq, tw_no hv]; rfl
        rw [e, run_same (go3_end h62), List.drop_zero]; exact (upN_nil _).symm
      · have e : valT (c :: r) = ((c :: r).takeWhile valB, ((c :: r).takeWhile valB).length) := if_neg hq
        rw [e, run_same (go3_else hs hq h62), scan5, List.nil_append]
        simp only
        rw [drop_tw]
/-- what begins an attribute -/
def begB (c : UInt8) : Bool := !(spB c || c == 62 || c == 47)
theorem run_att (l : List Ln) (c : UInt8) (t : Txt) (h : begB c = true) :
    runA (.s0 l) (c :: t) = (runA (.s0 (addL l (anT (c :: t)) (attT (c :: t)).1)) ((c :: t).drop (attT (c :: t)).2)).map (upN (attT (c :: t)).2) := by
  have hb : spB c = false ∧ c ≠ 62 ∧ c ≠ 47 := by
    unfold begB at h
    cases hs : spB c <;> rw [hs] at h <;> simp at h
    exact ⟨rfl, h.1, h.2⟩
  have en : anT (c :: t) = c :: t.takeWhile nameB := rfl
  have el : (anT (c :: t)).length = (t.takeWhile nameB).length + 1 := by rw [en]; rfl
  have ed : (c :: t).drop (anT (c :: t)).length = t.dropWhile nameB := by rw [el, List.drop_succ_cons, drop_tw]
  rw [run_more (go0_name hb.1 hb.2.1 hb.2.2), scan1, scan2, upN_add, upN_add, List.cons_append, List.nil_append]
  obtain ⟨N, hN⟩ : ∃ N, anT (c :: t) = N := ⟨_, rfl⟩
  obtain ⟨r, hr⟩ : ∃ r, (t.dropWhile nameB).dropWhile spB = r := ⟨_, rfl⟩
  obtain ⟨K, hK⟩ : ∃ K, ((t.dropWhile nameB).takeWhile spB).length + ((t.takeWhile nameB).length + 1) = K := ⟨_, rfl⟩
  have hdr : (c :: t).drop K = r := by
    rw [← hK, show ((t.dropWhile nameB).takeWhile spB).length + ((t.takeWhile nameB).length + 1) = (anT (c :: t)).length + ((t.dropWhile nameB).takeWhile spB).length by rw [el]; omega, ← List.drop_drop, ed, drop_tw, hr]
  have ea : attT (c :: t) = if r.head? = some 61 then ((valT ((r.drop 1).dropWhile spB)).1, K + 1 + ((r.drop 1).takeWhile spB).length + (valT ((r.drop 1).dropWhile spB)).2) else ([], K) := by
    unfold attT
    rw [ed, hr, show (anT (c :: t)).length + ((t.dropWhile nameB).takeWhile spB).length = K by rw [el]; omega]
    rfl
  rw [show (c :: t.takeWhile nameB) = N by rw [← hN, en], hN, hr, hK, ea]
  cases r with
  | nil => rw [if_neg (by simp), run_nil]; simp only; rw [hdr, run_nil]
  | cons d z =>
    have hs := dw_head spB _ d z hr
    by_cases h61 : d = 61
    · rw [if_pos (by rw [h61]; rfl), List.drop_one, List.tail_cons, run_more (go2_eq h61), scan3, upN_add, upN_add, run_val, upN_add]
      simp only
      rw [show (c :: t).drop (K + 1 + (z.takeWhile spB).length + (valT (z.dropWhile spB)).2) = (z.dropWhile spB).drop (valT (z.dropWhile spB)).2 by
        rw [← List.drop_drop, ← List.drop_drop, ← List.drop_drop, hdr, List.drop_one, List.tail_cons, drop_tw]]
      rw [show (valT (z.dropWhile spB)).2 + ((z.takeWhile spB).length + (1 + K)) = K + 1 + (z.takeWhile spB).length + (valT (z.dropWhile spB)).2 by omega]
    · rw [if_neg (by intro h; injection h with h; exact h61 h), run_same (go2_else hs h61)]
      simp only
      rw [hdr]
theorem attT_bounds (c : UInt8) (t : Txt) : 1 ≤ (attT (c :: t)).2 ∧ (attT (c :: t)).2 ≤ (c :: t).length ∧ (attT (c :: t)).1.length ≤ (c :: t).length := by
  have en : anT (c :: t) = c :: t.takeWhile nameB := rfl
  have el : (anT (c :: t)).length = (t.takeWhile nameB).length + 1 := by rw [en]; rfl
  have ed : (c :: t).drop (anT (c :: t)).length = t.dropWhile nameB := by rw [el, List.drop_succ_cons, drop_tw]
  have h1 : (t.takeWhile nameB).length + (t.dropWhile nameB).length = t.length := by rw [← List.length_append, List.takeWhile_append_dropWhile]
  have h2 : ((t.dropWhile nameB).takeWhile spB).length + ((t.dropWhile nameB).dropWhile spB).length = (t.dropWhile nameB).length := by rw [← List.length_append, List.takeWhile_append_dropWhile]
  unfold attT
  rw [ed, el]
  unfold attV
  split
  · rename_i hh
    obtain ⟨r, hr⟩ : ∃ r, (t.dropWhile nameB).dropWhile spB = r := ⟨_, rfl⟩
    rw [hr] at hh h2 ⊢
    cases r with
    | nil => simp at hh
    | cons d z =>
      have h3 : (z.takeWhile spB).length + (z.dropWhile spB).length = z.length := by rw [← List.length_append, List.takeWhile_append_dropWhile]
      have h4 := valT_le (z.dropWhile spB)
      have h5 := valT_len (z.dropWhile spB)
      simp only [List.drop_succ_cons, List.drop_zero, List.length_cons] at *
      omega
  · simp only [List.length_cons, List.length_nil]
    omega
end Go.Proofs.YtbcmfcddkegcoaaGreatDoor

/-! What the document's add of layer 8 does with its own list, and what Same tells of two. -/
namespace Go.Proofs.YtbcmfcddkegcoaaGreatDoor
open Go.RowKit Go.Lib

theorem info_attr : (Tryz.prog.info? 141).map (fun i => (i.zero, i.size, i.bytes)) = some (some (.agg #[.string ⟨#[]⟩, .string ⟨#[]⟩]), 2, 32) := by kernel_rfl
/-- an own row stands where the memory only grows -/
theorem own_below {w w' : World} {base e size : Nat} {v : Value} {n : Nat} {xs : List Value} (h : w.ownsRow base e size v n xs) (hb : Below w.heap.size w w') : w'.ownsRow base e size v n xs :=
  h.kept (row := none) ⟨hb.os, hb.tape, hb.output, hb.size, fun k hk _ => hb.block k hk⟩ (Classical.em _)
end Go.Proofs.YtbcmfcddkegcoaaGreatDoor

/-! What the document's Read of layer 8 answers, for every text and place. -/
namespace Go.Proofs.YtbcmfcddkegcoaaGreatDoor
open Go.RowKit Go.Lib

theorem results_tmp4 {fn : Func} {t u v x : Tmp} (h : fn.results = #[.tmp t, .tmp u, .tmp v, .tmp x]) (tmps : Array Value) (P : Program) (w : World) :
    (results fn tmps).run P w = .ok (.tuple #[tmps.getD t undef, tmps.getD u undef, tmps.getD v undef, tmps.getD x undef]) w := by
  simp [results, h]
/-- the same, and the attributes lie in new memory -/
def TellF (s : ByteArray) (a : Int) (w : World) (e : Ending) (w' : World) : Prop :=
  ∃ ad len cap l self n ok, e = .returned (.tuple #[.slice ad len cap, .bool self, .int .i64 n, .bool ok]) ∧ IsRows w' ad len cap l ∧ attrsV s.data.toList a = (l, self, n, ok) ∧ Below w.heap.size w w' ∧ ∀ k, (Value.slice ad len cap).ownBlock = some k → w.heap.size ≤ k
end Go.Proofs.YtbcmfcddkegcoaaGreatDoor

/-! What package attrs' functions answer, but for Read: where bytes of a kind end, a value, an attribute. -/
namespace Go.Proofs.YtbcmfcddkegcoaaGreatDoor
open Go.RowKit Go.Lib

theorem spB_int (c : UInt8) (q : Int) (h : (c.toNat : Int) = q) : spaceI q = spB c := by rw [← h]; rfl
theorem beq_int (c : UInt8) (q : Int) (n : Nat) (hn : n < 256) (h : (c.toNat : Int) = q) : (q == (n : Int)) = (c == UInt8.ofNat n) := by rw [← h]; exact u8_beq c n hn

set_option maxRecDepth 100000 in
set_option maxHeartbeats 1000000 in
theorem inValue_any (c : UInt8) (q : Int) (w : World) (hq : (c.toNat : Int) = q) :
    Calls Tryz.prog 151 #[.int .u8 q] w fun e w' => e = .returned (.bool (valB c)) ∧ w' = w := by
  have hlt := c.toNat_lt
  have HS := fun w => Lib.hid (space q w (by omega) (by omega))
  have HV : Hid (valB c = (!spaceI q && !(q == 62))) := Lib.hid (by
    rw [spB_int c q hq, show (q == 62) = (c == 62) from beq_int c q 62 (by decide) hq]
    unfold valB; cases spB c <;> cases (c == 62) <;> rfl)
  rw [HV.out]
  clear hq hlt HV
  cases hs : spaceI q
  · rw [hs] at HS
    cases h62 : (q == 62)
    all_goals
      go_enter Tryz.func151, Tryz.ntmps151
      go_wp2_with (go_at_call 123; refine (HS _).out.mono ?_; rintro e w' ⟨rfl, rfl⟩)
      go_ret
      exact ⟨ret_bool (by simp [bne, h62]), rfl⟩
  · rw [hs] at HS
    go_enter Tryz.func151, Tryz.ntmps151
    go_wp2_with (go_at_call 123; refine (HS _).out.mono ?_; rintro e w' ⟨rfl, rfl⟩)
    go_ret
    exact ⟨rfl, rfl⟩

set_option maxRecDepth 100000 in
set_option maxHeartbeats 1000000 in
theorem inName_any (c : UInt8) (q : Int) (w : World) (hq : (c.toNat : Int) = q) :
    Calls Tryz.prog 137 #[.int .u8 q] w fun e w' => e = .returned (.bool (nameB c)) ∧ w' = w := by
  have HS := fun w => Lib.hid (inValue_any c q w hq)
  have HV : Hid (nameB c = (valB c && !(q == 47) && !(q == 61))) := Lib.hid (by
    rw [show (q == 47) = (c == 47) from beq_int c q 47 (by decide) hq, show (q == 61) = (c == 61) from beq_int c q 61 (by decide) hq]
    unfold nameB endB valB; cases spB c <;> cases (c == 62) <;> cases (c == 47) <;> cases (c == 61) <;> rfl)
  rw [HV.out]
  clear hq HV
  cases hs : valB c
  · rw [hs] at HS
    go_enter Tryz.func137, Tryz.ntmps137
    go_wp2_with (go_at_call 151; refine (HS _).out.mono ?_; rintro e w' ⟨rfl, rfl⟩)
    go_ret
    exact ⟨rfl, rfl⟩
  · rw [hs] at HS
    cases h47 : (q == 47)
    all_goals
      have h47' : (q != 47) = !(q == 47) := rfl
      rw [h47] at h47'
      go_enter Tryz.func137, Tryz.ntmps137
      go_wp2_with (go_at_call 151; refine (HS _).out.mono ?_; rintro e w' ⟨rfl, rfl⟩)
      go_ret
      exact ⟨ret_bool (by first | rfl | simp [bne]), rfl⟩
theorem space_any (c : UInt8) (q : Int) (w : World) (hq : (c.toNat : Int) = q) :
    Calls Tryz.prog 123 #[.int .u8 q] w fun e w' => e = .returned (.bool (spB c)) ∧ w' = w := by
  have hlt := c.toNat_lt
  have := space q w (by omega) (by omega)
  rwa [spB_int c q hq] at this

/-- where bytes of a kind end -/
def bhN (p : UInt8 → Bool) (l : Txt) (i : Nat) : Nat := i + ((l.drop i).takeWhile p).length
theorem bhN_yes (p : UInt8 → Bool) (s : ByteArray) (i : Nat) (h : i < s.size) (hp : p s[i] = true) : bhN p s.data.toList i = bhN p s.data.toList (i + 1) := by
  unfold bhN
  rw [drop_at s i h, tw_yes hp, List.length_cons]; omega
theorem bhN_no (p : UInt8 → Bool) (s : ByteArray) (i : Nat) (h : i < s.size) (hp : p s[i] = false) : bhN p s.data.toList i = i := by
  unfold bhN
  rw [drop_at s i h, tw_no hp]; rfl
theorem bhN_end (p : UInt8 → Bool) (s : ByteArray) : bhN p s.data.toList s.size = s.size := by
  unfold bhN
  rw [List.drop_eq_nil_of_le (by rw [← Lib.size_eq]; exact Nat.le_refl _)]; rfl
theorem bhN_le (p : UInt8 → Bool) (s : ByteArray) (i : Nat) (h : i ≤ s.size) : i ≤ bhN p s.data.toList i ∧ bhN p s.data.toList i ≤ s.size := by
  have h1 := tw_le p (s.data.toList.drop i)
  rw [List.length_drop, ← Lib.size_eq] at h1
  unfold bhN
  omega

set_option maxRecDepth 100000 in
set_option maxHeartbeats 1000000 in
theorem behind_name (s : ByteArray) (a : Int) (i : Nat) (w : World) (hs : s.size ≤ 1099511627776) (ha : (i : Int) = a) (hi : i ≤ s.size) :
    Calls Tryz.prog 136 #[.string s, .int .i64 a, .func (.func 137) #[] #[]] w fun e w' => e = .returned (.int .i64 (bhN nameB s.data.toList i : Int)) ∧ w' = w := by
  subst ha
  have HK := fun c q w h => Lib.hid (inName_any c q w h)
  obtain ⟨R, hR⟩ : ∃ R, bhN nameB s.data.toList i = R := ⟨_, rfl⟩
  rw [hR]
  have HR := Lib.hid hR
  clear hR
  go_enter Tryz.func136, Tryz.ntmps136
  go_wp2
  go_loopw [1] (fun v wr => ∃ k : Nat, v = .int .i64 (k : Int) ∧ w = wr ∧ k ≤ s.size ∧ bhN nameB s.data.toList k = R) (fun v _ => s.size - (intOf v).toNat)
  case atStart => exact ⟨i, rfl, rfl, hi, HR.out⟩
  case round =>
    obtain ⟨k, rfl, rfl, hk, hR⟩ := hrel
    have HRR := Lib.hid hR
    clear hR HR
    by_cases hlt : k < s.size
    · cases hp : nameB s[k]
      · have hRk := Lib.hid ((bhN_no nameB s k hlt hp).symm.trans HRR.out)
        have HC := fun w => Lib.hid (HK s[k] _ w rfl).out
        rw [hp] at HC
        clear hp HK HRR
        go_wp2_with (go_at_call 137; refine (HC _).out.mono ?_; rintro e w' ⟨rfl, rfl⟩)
        go_ret
        exact ⟨ret_int (by rw [hRk.out]), rfl⟩
      · have hRk := Lib.hid ((bhN_yes nameB s k hlt hp).symm.trans HRR.out)
        have HC := fun w => Lib.hid (HK s[k] _ w rfl).out
        rw [hp] at HC
        clear hp HK HRR
        go_wp2_with (go_at_call 137; refine (HC _).out.mono ?_; rintro e w' ⟨rfl, rfl⟩)
        go_roundw
        case rel => exact ⟨k + 1, by go_num, trivial, by omega, hRk.out⟩
        case measure => simp [intOf]; omega
    · have hke : k = s.size := by omega
      have hRk := Lib.hid ((bhN_end nameB s).symm.trans (hke ▸ HRR.out))
      clear HRR
      subst hke
      go_wp2
      go_ret
      exact ⟨ret_int (by rw [hRk.out]), rfl⟩

set_option maxRecDepth 100000 in
set_option maxHeartbeats 1000000 in
theorem behind_value (s : ByteArray) (a : Int) (i : Nat) (w : World) (hs : s.size ≤ 1099511627776) (ha : (i : Int) = a) (hi : i ≤ s.size) :
    Calls Tryz.prog 136 #[.string s, .int .i64 a, .func (.func 151) #[] #[]] w fun e w' => e = .returned (.int .i64 (bhN valB s.data.toList i : Int)) ∧ w' = w := by
  subst ha
  have HK := fun c q w h => Lib.hid (inValue_any c q w h)
  obtain ⟨R, hR⟩ : ∃ R, bhN valB s.data.toList i = R := ⟨_, rfl⟩
  rw [hR]
  have HR := Lib.hid hR
  clear hR
  go_enter Tryz.func136, Tryz.ntmps136
  go_wp2
  go_loopw [1] (fun v wr => ∃ k : Nat, v = .int .i64 (k : Int) ∧ w = wr ∧ k ≤ s.size ∧ bhN valB s.data.toList k = R) (fun v _ => s.size - (intOf v).toNat)
  case atStart => exact ⟨i, rfl, rfl, hi, HR.out⟩
  case round =>
    obtain ⟨k, rfl, rfl, hk, hR⟩ := hrel
    have HRR := Lib.hid hR
    clear hR HR
    by_cases hlt : k < s.size
    · cases hp : valB s[k]
      · have hRk := Lib.hid ((bhN_no valB s k hlt hp).symm.trans HRR.out)
        have HC := fun w => Lib.hid (HK s[k] _ w rfl).out
        rw [hp] at HC
        clear hp HK HRR
        go_wp2_with (go_at_call 151; refine (HC _).out.mono ?_; rintro e w' ⟨rfl, rfl⟩)
        go_ret
        exact ⟨ret_int (by rw [hRk.out]), rfl⟩
      · have hRk := Lib.hid ((bhN_yes valB s k hlt hp).symm.trans HRR.out)
        have HC := fun w => Lib.hid (HK s[k] _ w rfl).out
        rw [hp] at HC
        clear hp HK HRR
        go_wp2_with (go_at_call 151; refine (HC _).out.mono ?_; rintro e w' ⟨rfl, rfl⟩)
        go_roundw
        case rel => exact ⟨k + 1, by go_num, trivial, by omega, hRk.out⟩
        case measure => simp [intOf]; omega
    · have hke : k = s.size := by omega
      have hRk := Lib.hid ((bhN_end valB s).symm.trans (hke ▸ HRR.out))
      clear HRR
      subst hke
      go_wp2
      go_ret
      exact ⟨ret_int (by rw [hRk.out]), rfl⟩

set_option maxRecDepth 100000 in
set_option maxHeartbeats 1000000 in
theorem behind_space (s : ByteArray) (a : Int) (i : Nat) (w : World) (hs : s.size ≤ 1099511627776) (ha : (i : Int) = a) (hi : i ≤ s.size) :
    Calls Tryz.prog 136 #[.string s, .int .i64 a, .func (.func 123) #[] #[]] w fun e w' => e = .returned (.int .i64 (bhN spB s.data.toList i : Int)) ∧ w' = w := by
  subst ha
  have HK := fun c q w h => Lib.hid (space_any c q w h)
  obtain ⟨R, hR⟩ : ∃ R, bhN spB s.data.toList i = R := ⟨_, rfl⟩
  rw [hR]
  have HR := Lib.hid hR
  clear hR
  go_enter Tryz.func136, Tryz.ntmps136
  go_wp2
  go_loopw [1] (fun v wr => ∃ k : Nat, v = .int .i64 (k : Int) ∧ w = wr ∧ k ≤ s.size ∧ bhN spB s.data.toList k = R) (fun v _ => s.size - (intOf v).toNat)
  case atStart => exact ⟨i, rfl, rfl, hi, HR.out⟩
  case round =>
    obtain ⟨k, rfl, rfl, hk, hR⟩ := hrel
    have HRR := Lib.hid hR
    clear hR HR
    by_cases hlt : k < s.size
    · cases hp : spB s[k]
      · have hRk := Lib.hid ((bhN_no spB s k hlt hp).symm.trans HRR.out)
        have HC := fun w => Lib.hid (HK s[k] _ w rfl).out
        rw [hp] at HC
        clear hp HK HRR
        go_wp2_with (go_at_call 123; refine (HC _).out.mono ?_; rintro e w' ⟨rfl, rfl⟩)
        go_ret
        exact ⟨ret_int (by rw [hRk.out]), rfl⟩
      · have hRk := Lib.hid ((bhN_yes spB s k hlt hp).symm.trans HRR.out)
        have HC := fun w => Lib.hid (HK s[k] _ w rfl).out
        rw [hp] at HC
        clear hp HK HRR
        go_wp2_with (go_at_call 123; refine (HC _).out.mono ?_; rintro e w' ⟨rfl, rfl⟩)
        go_roundw
        case rel => exact ⟨k + 1, by go_num, trivial, by omega, hRk.out⟩
        case measure => simp [intOf]; omega
    · have hke : k = s.size := by omega
      have hRk := Lib.hid ((bhN_end spB s).symm.trans (hke ▸ HRR.out))
      clear HRR
      subst hke
      go_wp2
      go_ret
      exact ⟨ret_int (by rw [hRk.out]), rfl⟩
end Go.Proofs.YtbcmfcddkegcoaaGreatDoor

/-! What package attrs' valueAt and attribute answer. -/
namespace Go.Proofs.YtbcmfcddkegcoaaGreatDoor
open Go.RowKit Go.Lib

theorem bh_drop (p : UInt8 → Bool) (l : Txt) (i : Nat) : l.drop (bhN p l i) = (l.drop i).dropWhile p := by
  unfold bhN; rw [← List.drop_drop, drop_tw]
theorem val_bare (l : Txt) (h : ∀ c, l.head? = some c → ¬ (c = 34 ∨ c = 39)) : valT l = (l.takeWhile valB, (l.takeWhile valB).length) := by
  cases l with
  | nil => rfl
  | cons c t => rw [valT_cons, if_neg (h c rfl)]
theorem att_at (l : Txt) (i : Nat) (h : i < l.length) :
    (l.drop i).take (bhN nameB l (i + 1) - i) = anT (l.drop i) ∧
    attT (l.drop i) = if (l.drop (bhN spB l (bhN nameB l (i + 1)))).head? = some 61
      then ((valT (l.drop (bhN spB l (bhN spB l (bhN nameB l (i + 1)) + 1)))).1, bhN spB l (bhN spB l (bhN nameB l (i + 1)) + 1) + (valT (l.drop (bhN spB l (bhN spB l (bhN nameB l (i + 1)) + 1)))).2 - i)
      else ([], bhN spB l (bhN nameB l (i + 1)) - i) := by
  have ht : l.drop i = l[i] :: l.drop (i + 1) := List.drop_eq_getElem_cons h
  have ea : anT (l.drop i) = l[i] :: (l.drop (i + 1)).takeWhile nameB := by rw [ht]; rfl
  have el : (anT (l.drop i)).length = ((l.drop (i + 1)).takeWhile nameB).length + 1 := by rw [ea]; rfl
  have e1 : bhN nameB l (i + 1) = i + (anT (l.drop i)).length := by rw [el]; unfold bhN; omega
  refine ⟨?_, ?_⟩
  · rw [e1, Nat.add_sub_cancel_left, el, ht, List.take_succ_cons, take_tw, ← ht, ea]
  · unfold attT
    rw [List.drop_drop, ← e1]
    obtain ⟨a, ha⟩ : ∃ a, bhN nameB l (i + 1) = a := ⟨_, rfl⟩
    rw [ha] at e1 ⊢
    have e2 : (anT (l.drop i)).length + ((l.drop a).takeWhile spB).length = bhN spB l a - i := by unfold bhN; omega
    have hb1 : i + 1 ≤ bhN spB l a := by unfold bhN; omega
    rw [e2, ← bh_drop]
    obtain ⟨b, hb⟩ : ∃ b, bhN spB l a = b := ⟨_, rfl⟩
    rw [hb] at hb1 ⊢
    unfold attV
    split
    · rw [List.drop_drop, ← bh_drop]
      congr 1
      have e3 : b - i + 1 + ((l.drop (b + 1)).takeWhile spB).length = bhN spB l (b + 1) - i := by unfold bhN; omega
      have hb3 : i ≤ bhN spB l (b + 1) := by unfold bhN; omega
      rw [e3]; omega
    · rfl
theorem low_is (n : Nat) (hn : n < 256) (hl : ¬ (97 ≤ n ∧ n ≤ 122)) (hu : ¬ (65 ≤ n ∧ n ≤ 90)) (c : UInt8) : (UInt8.ofNat n == lowB c) = (c == UInt8.ofNat n) := by
  have h1 := lowB_int c
  have h2 : (UInt8.ofNat n).toNat = n := by rw [UInt8.toNat_ofNat']; exact Nat.mod_eq_of_lt hn
  have h3 := c.toNat_lt
  rw [Bool.eq_iff_iff, beq_iff_eq, beq_iff_eq, ← UInt8.toNat_inj, ← UInt8.toNat_inj, h2]
  by_cases hc : 65 ≤ (c.toNat : Int) ∧ (c.toNat : Int) ≤ 90
  · rw [show lowI (c.toNat : Int) = (c.toNat : Int) + 32 from if_pos hc] at h1
    constructor <;> intro h <;> omega
  · rw [show lowI (c.toNat : Int) = (c.toNat : Int) from if_neg hc] at h1
    constructor <;> intro h <;> omega
theorem beg_eq (s : ByteArray) (i : Nat) (h : i ≤ s.size) : begS s (i : Int) ⟨#[61]⟩ = decide ((s.data.toList.drop i).head? = some 61) := by
  unfold begS
  rw [decide_eq_true (show 0 ≤ (i : Int) ∧ (i : Int) ≤ (s.size : Int) by omega), Bool.true_and, show ((i : Nat) : Int).toNat = i by omega]
  show [61].isPrefixOf _ = _
  cases s.data.toList.drop i with
  | nil => rfl
  | cons c t =>
    rw [lowL_cons, List.isPrefixOf_cons_cons, List.isPrefixOf_nil_left, Bool.and_true, show ((61 : UInt8) == lowB c) = (c == 61) from low_is 61 (by decide) (by decide) (by decide) c]
    rw [Bool.eq_iff_iff]; simp
theorem beg_close (s : ByteArray) (i : Nat) (h : i ≤ s.size) : begS s (i : Int) ⟨#[47, 62]⟩ = decide ((s.data.toList.drop i).head? = some 47 ∧ (s.data.toList.drop (i + 1)).head? = some 62) := by
  unfold begS
  rw [decide_eq_true (show 0 ≤ (i : Int) ∧ (i : Int) ≤ (s.size : Int) by omega), Bool.true_and, show ((i : Nat) : Int).toNat = i by omega, ← List.drop_drop]
  show [47, 62].isPrefixOf _ = _
  cases s.data.toList.drop i with
  | nil => rfl
  | cons c t =>
    cases t with
    | nil => 
      rw [lowL_cons, List.isPrefixOf_cons_cons]
      simp [lowL]
    | cons d r =>
      rw [lowL_cons, List.isPrefixOf_cons_cons, lowL_cons, List.isPrefixOf_cons_cons, List.isPrefixOf_nil_left, Bool.and_true, show ((47 : UInt8) == lowB c) = (c == 47) from low_is 47 (by decide) (by decide) (by decide) c,
        show ((62 : UInt8) == lowB d) = (d == 62) from low_is 62 (by decide) (by decide) (by decide) d]
      rw [Bool.eq_iff_iff]; simp

set_option maxRecDepth 100000 in
set_option maxHeartbeats 2000000 in
theorem valueAt_any (s : ByteArray) (a : Int) (i : Nat) (w : World) (hs : s.size ≤ 1099511627776) (ha : (i : Int) = a) (hi : i ≤ s.size) :
    Calls Tryz.prog 138 #[.string s, .int .i64 a] w fun e w' => e = .returned (.tuple #[.string ⟨(valT (s.data.toList.drop i)).1.toArray⟩, .int .i64 ((i + (valT (s.data.toList.drop i)).2 : Nat) : Int)]) ∧ ∃ n, w' = w.drewN n := by
  subst ha
  have hlen : (s.data.toList.drop i).length = s.size - i := by rw [List.length_drop, ← Lib.size_eq]
  by_cases hq : ∃ h : i < s.size, s[i] = 34 ∨ s[i] = 39
  · obtain ⟨hlt, hq⟩ := hq
    have hv : valT (s.data.toList.drop i) = ((s.data.toList.drop (i + 1)).takeWhile (· != s[i]), s.size - i - (((s.data.toList.drop (i + 1)).dropWhile (· != s[i])).tail).length) := by
      rw [drop_at s i hlt, valT_cons, if_pos hq, ← drop_at s i hlt, hlen]
    obtain ⟨t, ht⟩ : ∃ t, s.data.toList.drop (i + 1) = t := ⟨_, rfl⟩
    have htl : t.length = s.size - (i + 1) := by rw [← ht, List.length_drop, ← Lib.size_eq]
    have hxs : (s.extract (i + 1) s.size).size ≤ 1099511627776 := by rw [ByteArray.size_extract]; omega
    have hx : (s.extract (i + 1) s.size).data.toList = t.takeWhile (· != s[i]) ++ t.dropWhile (· != s[i]) := by
      rw [extract_data, List.take_of_length_le (by rw [List.length_drop, ← Lib.size_eq]; omega), ht, List.takeWhile_append_dropWhile]
    have hno : s[i] ∉ t.takeWhile (· != s[i]) := fun h => by
      have := List.all_eq_true.1 (List.all_takeWhile (l := t) (p := (· != s[i]))) _ h
      simp at this
    have hrest : t.dropWhile (· != s[i]) = [] ∨ ∃ z, t.dropWhile (· != s[i]) = s[i] :: z := by
      cases hd : t.dropWhile (· != s[i]) with
      | nil => exact .inl rfl
      | cons d z =>
        have := dw_head _ t d z hd
        have : d = s[i] := by simpa using this
        exact .inr ⟨z, by rw [this]⟩
    have HC := fun w => Lib.hid (cut_any (s.extract (i + 1) s.size) s[i] _ _ w hxs hx hno hrest)
    rw [show (⟨#[s[i]]⟩ : ByteArray) = s.extract i (i + 1) from str_ext (by rw [extract_one s i hlt])] at HC
    unfold cutV at HC
    obtain ⟨V, hV⟩ : ∃ V : ByteArray, ⟨(t.takeWhile (· != s[i])).toArray⟩ = V := ⟨_, rfl⟩
    obtain ⟨L, hL⟩ : ∃ L : ByteArray, ⟨(t.dropWhile (· != s[i])).tail.toArray⟩ = L := ⟨_, rfl⟩
    obtain ⟨B, hB⟩ : ∃ B : Bool, (!(t.dropWhile (· != s[i])).isEmpty) = B := ⟨_, rfl⟩
    have hLs : L.size = ((t.dropWhile (· != s[i])).tail).length := by rw [← hL, Lib.size_eq, List.toList_toArray]
    have hLle : L.size ≤ s.size - (i + 1) := by
      have h1 := List.length_tail (l := t.dropWhile (· != s[i]))
      have h2 := (List.dropWhile_sublist (l := t) (· != s[i])).length_le
      omega
    rw [hv, ht]
    simp only
    rw [hV, ← hLs]
    rw [hV, hL, hB] at HC
    have HR := Lib.hid (show ((s.size : Int) - (L.size : Int)) = ((i + (s.size - i - L.size) : Nat) : Int) by omega)
    rw [← HR.out]
    have i1 : (i : Int) + 1 ≤ (s.size : Int) := by omega
    have i2 : (i : Int) < (s.size : Int) := by omega
    have i3 : (0 : Int) ≤ (i : Int) + 1 := by omega
    have i4 : IntKind.i64.wrap ((i : Int) + 1) = (i : Int) + 1 := by rw [IntKind.wrap_i64]; omega
    have i5 : ((i : Int) + 1).toNat = i + 1 := by omega
    have i6 : (i : Int) ≤ (i : Int) + 1 := by omega
    have hc : ((s[i].toNat : Int) != 34) = false ∨ ((s[i].toNat : Int) != 34) = true ∧ ((s[i].toNat : Int) != 39) = false := by
      rcases hq with h | h <;> rw [h] <;> decide
    clear hv ht htl hxs hx hno hrest hV hL hB hq HR hlen hLs
    have d1 : ((i : Int) == (s.size : Int)) = false := by simp; omega
    rcases hc with h34 | ⟨h34, h39⟩
    all_goals
      go_enter Tryz.func138, Tryz.ntmps138
      go_wp2
      go_quiet ((go_at_call 107; refine (HC _).out.mono ?_; rintro e w'' ⟨rfl, n, rfl⟩; first | exact ⟨rfl, _, World.drewN_drewN ..⟩ | exact ⟨rfl, _, rfl⟩))
      go_wp2
      go_ret2
      exact ⟨rfl, _, rfl⟩
  · have hv := val_bare (s.data.toList.drop i) (fun c h => fun hc => hq (by
      have hlt : i < s.size := Nat.lt_of_not_le fun h2 => by
        rw [List.drop_eq_nil_of_le (by rw [← Lib.size_eq]; exact h2)] at h; simp at h
      refine ⟨hlt, ?_⟩
      rw [drop_at s i hlt, List.head?_cons, Option.some.injEq] at h
      rw [h]; exact hc))
    have HB := fun w => Lib.hid (behind_value s (i : Int) i w hs rfl hi)
    have hle := bhN_le valB s i hi
    have HV := Lib.hid (show s.extract i (bhN valB s.data.toList i) = ⟨((s.data.toList.drop i).takeWhile valB).toArray⟩ from str_ext (by
      rw [extract_data]; unfold bhN; rw [Nat.add_sub_cancel_left, take_tw]))
    rw [hv]
    simp only
    rw [← HV.out, show i + ((s.data.toList.drop i).takeWhile valB).length = bhN valB s.data.toList i from rfl]
    obtain ⟨E, hE⟩ : ∃ E, bhN valB s.data.toList i = E := ⟨_, rfl⟩
    rw [hE] at HB hle ⊢
    clear hv HV hE hlen
    by_cases hlt : i < s.size
    · have h34 : ((s[i].toNat : Int) != 34) = true := by
        have : ¬ s[i] = 34 := fun h => hq ⟨hlt, .inl h⟩
        rw [bne_iff_ne]; intro h; exact this (u8_eq _ 34 (by decide) h)
      have h39 : ((s[i].toNat : Int) != 39) = true := by
        have : ¬ s[i] = 39 := fun h => hq ⟨hlt, .inr h⟩
        rw [bne_iff_ne]; intro h; exact this (u8_eq _ 39 (by decide) h)
      have d1 : ((i : Int) == (s.size : Int)) = false := by simp; omega
      clear hq
      go_enter Tryz.func138, Tryz.ntmps138
      go_wp2_with (go_at_call 136; refine (HB _).out.mono ?_; rintro e w' ⟨rfl, rfl⟩)
      go_ret2
      exact ⟨rfl, 0, rfl⟩
    · obtain rfl : i = s.size := by omega
      clear hq
      go_enter Tryz.func138, Tryz.ntmps138
      go_wp2_with (go_at_call 136; refine (HB _).out.mono ?_; rintro e w' ⟨rfl, rfl⟩)
      go_ret2
      exact ⟨rfl, 0, rfl⟩

set_option maxRecDepth 100000 in
set_option maxHeartbeats 2000000 in
theorem attribute_any (s : ByteArray) (a : Int) (i : Nat) (w : World) (hs : s.size ≤ 1099511627776) (ha : (i : Int) = a) (hi : i < s.size) :
    Calls Tryz.prog 124 #[.string s, .int .i64 a] w fun e w' => e = .returned (.tuple #[.string ⟨(tellN (anT (s.data.toList.drop i))).toArray⟩, .string ⟨(attT (s.data.toList.drop i)).1.toArray⟩, .int .i64 ((i + (attT (s.data.toList.drop i)).2 : Nat) : Int)]) ∧ Below w.heap.size w w' := by
  subst ha
  obtain ⟨h1, h2⟩ := att_at s.data.toList i (by rw [← Lib.size_eq]; exact hi)
  have HB1 := fun w => Lib.hid (behind_name s ((i : Int) + 1) (i + 1) w hs (by omega) (by omega))
  have l1 := bhN_le nameB s (i + 1) (by omega)
  obtain ⟨e1, he1⟩ : ∃ e1, bhN nameB s.data.toList (i + 1) = e1 := ⟨_, rfl⟩
  rw [he1] at h1 h2 HB1 l1
  have HB2 := fun w => Lib.hid (behind_space s (e1 : Int) e1 w hs rfl l1.2)
  have l2 := bhN_le spB s e1 l1.2
  obtain ⟨e2, he2⟩ : ∃ e2, bhN spB s.data.toList e1 = e2 := ⟨_, rfl⟩
  rw [he2] at h2 HB2 l2
  have HG := fun w => Lib.hid (begins s (e2 : Int) ⟨#[61]⟩ w hs (by decide) (by omega) (by omega))
  rw [beg_eq s e2 l2.2] at HG
  obtain ⟨X, hX⟩ : ∃ X, s.extract i e1 = X := ⟨_, rfl⟩
  have hXl : X.data.toList = anT (s.data.toList.drop i) := by rw [← hX, extract_data, h1]
  have hXs : X.size ≤ 1099511627776 := by rw [← hX, ByteArray.size_extract]; omega
  have HL := fun w => Lib.hid (lower X w hXs)
  have HC := fun w => Lib.hid (clean_any (lowS X) w (by rw [lowS_size]; exact hXs))
  rw [lowS_list, hXl] at HC
  rw [show cleanL (lowL (anT (s.data.toList.drop i))) = tellN (anT (s.data.toList.drop i)) from rfl] at HC
  obtain ⟨N, hN⟩ : ∃ N : ByteArray, ⟨(tellN (anT (s.data.toList.drop i))).toArray⟩ = N := ⟨_, rfl⟩
  rw [hN] at HC ⊢
  have HX := Lib.hid hX
  have HX2 := Lib.hid hX.symm
  clear hXl hN h1 he1 he2 hXs
  by_cases h61 : (s.data.toList.drop e2).head? = some 61
  · rw [if_pos h61] at h2
    rw [decide_eq_true h61] at HG
    have hlt : e2 < s.size := Nat.lt_of_not_le fun h => by
      rw [List.drop_eq_nil_of_le (by rw [← Lib.size_eq]; exact h)] at h61; simp at h61
    have HB3 := fun w => Lib.hid (behind_space s ((e2 : Int) + 1) (e2 + 1) w hs (by omega) (by omega))
    have l3 := bhN_le spB s (e2 + 1) (by omega)
    obtain ⟨e3, he3⟩ : ∃ e3, bhN spB s.data.toList (e2 + 1) = e3 := ⟨_, rfl⟩
    rw [he3] at h2 HB3 l3
    have HV := fun w => Lib.hid (valueAt_any s (e3 : Int) e3 w hs rfl l3.2)
    rw [h2]
    simp only
    obtain ⟨V, hV⟩ : ∃ V : ByteArray, ⟨(valT (s.data.toList.drop e3)).1.toArray⟩ = V := ⟨_, rfl⟩
    obtain ⟨M, hM⟩ : ∃ M, e3 + (valT (s.data.toList.drop e3)).2 = M := ⟨_, rfl⟩
    rw [hV, hM] at HV
    have hMi : i + (M - i) = M := by omega
    rw [hV, hM, hMi]
    clear h2 hV hM hMi he3 h61 hX
    go_enter Tryz.func124, Tryz.ntmps124
    go_wp2_with (fail)
    refine (HB1 _).out.mono ?_
    rintro e w1 ⟨rfl, rfl⟩
    go_wp2_with (fail)
    rw [HX.out]
    refine (HL _).out.mono ?_
    rintro e w2 ⟨rfl, b2⟩
    go_wp2_with (fail)
    refine (HC _).out.mono ?_
    rintro e w3 ⟨rfl, b3⟩
    have c3 := b2.trans (b3.mono b2.size)
    go_wp2_with (fail)
    refine (HB2 _).out.mono ?_
    rintro e w4 ⟨rfl, rfl⟩
    go_wp2_with (fail)
    refine (HG _).out.mono ?_
    rintro e w5 ⟨rfl, n5, rfl⟩
    go_wp2_with (fail)
    refine (HB3 _).out.mono ?_
    rintro e w6 ⟨rfl, rfl⟩
    go_wp2_with (fail)
    refine (HV _).out.mono ?_
    rintro e w7 ⟨rfl, n7, rfl⟩
    go_wp2
    go_ret3
    exact ⟨rfl, c3.trans (dr_below _ _ _)⟩
  · rw [if_neg h61] at h2
    rw [decide_eq_false h61] at HG
    rw [h2]
    simp only
    have hMi : i + (e2 - i) = e2 := by omega
    rw [hMi]
    clear h2 hMi h61 hX
    go_enter Tryz.func124, Tryz.ntmps124
    go_wp2_with (fail)
    refine (HB1 _).out.mono ?_
    rintro e w1 ⟨rfl, rfl⟩
    go_wp2_with (fail)
    rw [HX.out]
    refine (HL _).out.mono ?_
    rintro e w2 ⟨rfl, b2⟩
    go_wp2_with (fail)
    refine (HC _).out.mono ?_
    rintro e w3 ⟨rfl, b3⟩
    have c3 := b2.trans (b3.mono b2.size)
    go_wp2_with (fail)
    refine (HB2 _).out.mono ?_
    rintro e w4 ⟨rfl, rfl⟩
    go_wp2_with (fail)
    refine (HG _).out.mono ?_
    rintro e w5 ⟨rfl, n5, rfl⟩
    go_wp2
    go_ret3
    exact ⟨rfl, c3.trans (dr_below _ _ _)⟩
end Go.Proofs.YtbcmfcddkegcoaaGreatDoor

/-! A map from texts to bools that the call itself made, told by what a look-up answers. -/
namespace Go.Proofs.YtbcmfcddkegcoaaGreatDoor
open Go.RowKit Go.Lib Go.WideMaps Go.Maps

theorem plainBool_inv {H : Type} {P : Program} {e : TypeId} (he : P.underlying e = some .bool) {v : Value} {z : DataW H × List MemPlace} (h : plainElem P e v = some z) : ∃ b, v = .bool b ∧ z = (.lit (.bool b), []) := by
  unfold plainElem at h
  rw [he] at h
  cases v <;> simp at h
  exact ⟨_, rfl, h.symm⟩
/-- the map's block, at most n entries, and what it answers at each text -/
def MapIs (w : World) (P : Program) (k e : TypeId) (b n : Nat) (f : List UInt8 → Bool) : Prop :=
  ∃ D : DataW Unit, w.ownsMap P k (plainElem P e) b n D ∧ IsMap D ∧ ∀ t : List UInt8, D.atKey (.string t) (.lit (.bool false)) = .lit (.bool (f t))
theorem MapIs.kept {w w' : World} {P : Program} {k e : TypeId} {b n : Nat} {f : List UInt8 → Bool} {row : Option Nat} (h : MapIs w P k e b n f) (hg : w.grownBy w' row) (hne : some b ≠ row) : MapIs w' P k e b n f := by
  obtain ⟨D, h1, h2, h3⟩ := h
  exact ⟨D, h1.kept hg hne, h2, h3⟩
theorem MapIs.below {w w' : World} {P : Program} {k e : TypeId} {b n : Nat} {f : List UInt8 → Bool} (h : MapIs w P k e b n f) (hb : Below w.heap.size w w') : MapIs w' P k e b n f :=
  h.kept (row := none) ⟨hb.os, hb.tape, hb.output, hb.size, fun k hk _ => hb.block k hk⟩ (by simp)
theorem MapIs.alloc {w : World} {P : Program} {k e : TypeId} {b n : Nat} {f : List UInt8 → Bool} (h : MapIs w P k e b n f) (o : Obj) : MapIs (w.alloc o) P k e b n f :=
  h.kept (World.grownBy_alloc w o none) (by simp)
theorem MapIs.lt {w : World} {P : Program} {k e : TypeId} {b n : Nat} {f : List UInt8 → Bool} (h : MapIs w P k e b n f) : b < w.heap.size := by
  obtain ⟨D, h1, -⟩ := h
  exact h1.lt
theorem mapIs_made (w : World) (P : Program) (k e : TypeId) : MapIs (w.alloc (.map #[] 0)) P k e w.heap.size 0 (fun _ => false) :=
  ⟨.map [], World.ownsMap_made _ _ _ _, isMap_empty, fun _ => rfl⟩

/-- a look-up at a text -/
theorem wpList_look_bool {P : Program} (w : World) {ops : Array Oper} {rest : List Oper} {o : Oper} {a : Act} {Q : Exit → Act → World → Prop}
    (hg : o.guard = none) (m x : Operand) (t : TypeId) (hop : o.op = Op.lookup t m x false)
    (k e : TypeId) (hk : P.underlying k = some .string) (ht : P.underlying t = some (.map k e)) (he : P.underlying e = some .bool) (hz : (zeroValue e).run P w = .ok (.bool false) w) (b n : Nat) (f : List UInt8 → Bool)
    (hm : a.eval m = .map (some b)) (hown : MapIs w P k e b n f) (s : ByteArray) (hs : s.size ≤ maxLen) (hx : a.eval x = .string s)
    (hK : wpList P ops Q rest (a.put o.dst (.bool (f s.data.toList))) w) :
    wpList P ops Q (o :: rest) a w := by
  refine wpList_plain hg fun K' hK' => ?_
  obtain ⟨D, h1, h2, h3⟩ := hown
  obtain ⟨v, ps, hrun, hv⟩ := h1.lookup (string_keyed hk) ht hz (plainElem_bool he false) (keyOf_string_mk hk hs)
  obtain ⟨c, rfl, hc⟩ := plainBool_inv he hv
  rw [h3] at hc
  simp only [Prod.mk.injEq, DataW.lit.injEq, Lit.bool.injEq] at hc
  rw [← hc.1] at hrun
  unfold Oper.wp
  simp [execOp, hop, hm, hx, hrun, Result.andThen]
  exact hK' _ _ hK
/-- a store at a text -/
theorem wpList_store_bool {P : Program} (w : World) {ops : Array Oper} {rest : List Oper} {o : Oper} {a : Act} {Q : Exit → Act → World → Prop}
    (hg : o.guard = none) (m x v : Operand) (t : TypeId) (hop : o.op = Op.mapUpdate t m x v)
    (k e : TypeId) (hk : P.underlying k = some .string) (ht : P.underlying t = some (.map k e)) (he : P.underlying e = some .bool) (b n : Nat) (f : List UInt8 → Bool)
    (hm : a.eval m = .map (some b)) (hown : MapIs w P k e b n f) (hn : n < maxLen) (s : ByteArray) (hs : s.size ≤ maxLen) (c : Bool) (key val : Value) (hx : a.eval x = key) (hv : a.eval v = val) (hkey : key = .string s) (hval : val = .bool c)
    (hK : ∀ w', MapIs w' P k e b (n + 1) (fun u => if u = s.data.toList then c else f u) → w.grownBy w' (some b) → wpList P ops Q rest (a.put o.dst undef) w') :
    wpList P ops Q (o :: rest) a w := by
  subst hkey; subst hval
  obtain ⟨D, h1, h2, h3⟩ := hown
  refine wpList_mapUpdate_own w hg m x v t hop k e (string_keyed hk) ht (plainElem P e) b n D hm h1 hn (.string s) (.bool c) _ hx hv (keyOf_string_mk hk hs) (.lit (.bool c)) [] (plainElem_bool he c) ?_
  intro w' h1' hgr
  refine hK w' ⟨_, h1', h2.put _ _, fun u => ?_⟩ hgr
  show _ = DataW.lit (Lit.bool (if u = s.data.toList then c else f u))
  by_cases hu : u = s.data.toList
  · rw [if_pos hu, hu]
    exact atKey_put_same h2 (show WideAt.IsKeyLit (.string s.data.toList) from trivial) _ _
  · rw [if_neg hu, atKey_put_other (fun e => hu (by injection e)) _ _, h3]
end Go.Proofs.YtbcmfcddkegcoaaGreatDoor

/-! What package attrs' Read answers. -/
namespace Go.Proofs.YtbcmfcddkegcoaaGreatDoor
open Go.RowKit Go.Lib Go.Maps

theorem zeroBool (w : World) : (zeroValue 4).run Tryz.prog w = .ok (.bool false) w := by kernel_rfl
/-- the frame at the label -/
def frR (s : ByteArray) (a : Int) (lv : Value) (B : Nat) (u : Nat → Value) : Act :=
  { tmps := #[.string s, .int .i64 a, u 2, u 3, lv, u 5, u 6, u 7, .map (some B), u 9, u 10, u 11, u 12, u 13, u 14, u 15, u 16, u 17, u 18, u 19, u 20, u 21, u 22, u 23, u 24, u 25, u 26, u 27, u 28, u 29, u 30, u 31, u 32, u 33, u 34, u 35, u 36, u 37, u 38, u 39, u 40, u 41, u 42, u 43, u 44, u 45, u 46, u 47, u 48, u 49, u 50, u 51, u 52, u 53, u 54, u 55, u 56, u 57, u 58, u 59, u 60, u 61, u 62, u 63, u 64, u 65, u 66, u 67, u 68, u 69, u 70, u 71, u 72, u 73, u 74, u 75, u 76, u 77], defers := [] }
/-- which names are there -/
def namesF (l : List Ln) : Txt → Bool := fun k => l.any (fun r => r.1 == k)
theorem names_add (l : List Ln) (n v : Txt) : (fun u => decide (u = n) || namesF l u) = namesF (l ++ [(n, v)]) := by
  funext u
  unfold namesF
  rw [List.any_append, List.any_cons, List.any_nil, Bool.or_false]
  by_cases h : u = n
  · rw [decide_eq_true h, h, beq_self_eq_true n, Bool.or_true, Bool.true_or]
  · rw [decide_eq_false h, Bool.false_or, show (n == u) = false by rw [beq_eq_false_iff_ne]; exact fun e => h e.symm, Bool.or_false]
theorem attr_step (l : Txt) (i : Nat) (h : i < l.length) (hb : begB l[i] = true) (ls : List Ln) (T : Option Told) (hT : runI i (.s0 ls) (l.drop i) = T) :
    runI (i + (attT (l.drop i)).2) (.s0 (addL ls (anT (l.drop i)) (attT (l.drop i)).1)) (l.drop (i + (attT (l.drop i)).2)) = T := by
  rw [← hT]
  unfold runI
  have ht : l.drop i = l[i] :: l.drop (i + 1) := List.drop_eq_getElem_cons h
  rw [← List.drop_drop]
  rw [ht]
  rw [run_att ls l[i] (l.drop (i + 1)) hb, upN_add, Nat.add_comm]

set_option maxRecDepth 100000 in
set_option maxHeartbeats 8000000 in
/-- P8.1 -/
theorem attrs_fresh (s : ByteArray) (a : Int) (w : World) (hs : s.size ≤ 1048576) (ha : -9223372036854775808 ≤ a ∧ a ≤ 9223372036854775807) (h : LaidAt w) :
    Calls Tryz.prog 101 #[.string s, .int .i64 a] w (TellF s a w) := by
  have HT := Lib.hid h
  clear h
  by_cases h0 : a < 0
  · have HV := Lib.hid (attrs_out s.data.toList a (by omega))
    go_enter Tryz.func101, Tryz.ntmps101
    go_wp2
    refine wp_scope_label 0 (fun _ _ => False) (fun _ _ => 0) rfl (fun _ _ h => h.elim) ?_
    intro _
    go_wp2
    simp only [Exit.jump]
    try simp only [Exit.inBlock, Exit.then]
    refine bodyPost_ret (results_tmp4 rfl _ _ _) rfl ?_
    exact ⟨_, _, _, _, _, _, _, rfl, isRows_none _, HV.out, Below.refl _ _, fun k h => by cases h⟩
  by_cases h1 : (s.size : Int) < a
  · have HV := Lib.hid (attrs_out s.data.toList a (by rw [← Lib.size_eq]; omega))
    go_enter Tryz.func101, Tryz.ntmps101
    go_wp2
    refine wp_scope_label 0 (fun _ _ => False) (fun _ _ => 0) rfl (fun _ _ h => h.elim) ?_
    intro _
    go_wp2
    simp only [Exit.jump]
    try simp only [Exit.inBlock, Exit.then]
    refine bodyPost_ret (results_tmp4 rfl _ _ _) rfl ?_
    exact ⟨_, _, _, _, _, _, _, rfl, isRows_none _, HV.out, Below.refl _ _, fun k h => by cases h⟩
  obtain ⟨k, rfl⟩ : ∃ k : Nat, a = k := ⟨a.toNat, by omega⟩
  have hk : k ≤ s.size := by omega
  have HV0 := Lib.hid (fun h => attrs_none s.data.toList k (by rw [← Lib.size_eq]; exact hk) h)
  have HV1 := Lib.hid (fun l self n h => attrs_some s.data.toList k (by rw [← Lib.size_eq]; exact hk) l self n h)
  obtain ⟨T, hT⟩ : ∃ T, runI k (.s0 []) (s.data.toList.drop k) = T := ⟨_, rfl⟩
  rw [hT] at HV0 HV1
  have HK := Lib.hid hT
  clear hT h0 h1 ha
  obtain ⟨i0, hi0, hz0, hz1, hz2⟩ := info_parts info_attr
  have d0 : decide ((k : Int) < 0) = false := decide_eq_false (by omega)
  have d1 : decide (s.size < k) = false := decide_eq_false (by omega)
  have hmm := @run_makeMap Tryz.prog
  have hs2 : s.size ≤ 1099511627776 := by omega
  go_enter Tryz.func101, Tryz.ntmps101
  go_wp2
  refine wp_scope_label 0 (fun a' wr => ∃ (i n : Nat) (l : List Ln) (lv : Value), a' = frR s (i : Int) lv w.heap.size (fun n => a'.tmps.getD n undef) ∧ wr.ownsRow (w.heap.size + 1) 141 2 lv l.length (cellsR l) ∧ MapIs wr Tryz.prog 9 4 w.heap.size n (namesF l) ∧ Below w.heap.size w wr ∧ i ≤ s.size ∧ n ≤ i ∧ l.length ≤ i ∧ runI i (.s0 l) (s.data.toList.drop i) = T)
    (fun a' _ => s.size - (intOf (a'.tmps.getD 1 undef)).toNat) rfl ?_ ?_
  · rintro a' wr ⟨i, n, l, lv, hfr, hown, hmap, hbw, hle, hn, hl, hT⟩
    obtain ⟨u, rfl⟩ : ∃ u, a' = frR s (i : Int) lv w.heap.size u := ⟨_, hfr⟩
    clear hfr
    unfold frR
    have HO := Lib.hid hown
    have HM := Lib.hid hmap
    have HB := Lib.hid hbw
    have HX := Lib.hid hT
    clear hown hmap hbw hT HK
    by_cases hlt : i < s.size
    · have HG := fun w => Lib.hid (begins s (i : Int) ⟨#[47, 62]⟩ w hs2 (by decide) (by omega) (by omega))
      rw [beg_close s i hle] at HG
      have db : ((i : Int) == (s.size : Int)) = false := by simp; omega
      have hx := HX.out
      rw [drop_at s i hlt] at hx
      have hb1 := s[i].toNat_lt
      have HSp := fun w => Lib.hid (space_any s[i] _ w rfl)
      by_cases c62 : s[i] = 62
      · have HN := Lib.hid (HV1.out l false (i + 1) (runI_done (go0_end c62) hx))
        rw [show ((i + 1 : Nat) : Int) = (i : Int) + 1 by omega] at HN
        have h62 : ((s[i].toNat : Int) == 62) = true := by rw [c62]; rfl
        obtain ⟨ad, cap, rfl, hr⟩ := isRows_own l HO.out
        have HR := Lib.hid hr
        clear hr hx c62 HG HSp HM HX hb1
        go_wp2
        simp only [Exit.jump]
        try simp only [Exit.inBlock, Exit.then]
        refine bodyPost_ret (results_tmp4 rfl _ _ _) rfl ?_
        exact ⟨_, _, _, _, _, _, _, rfl, HR.out, HN.out, HB.out, fun k h => Nat.le_of_succ_le (HO.out.lt k h).1⟩
      have h62 : ((s[i].toNat : Int) == 62) = false := by
        rw [beq_eq_false_iff_ne]; exact fun h => c62 (u8_eq _ 62 (by decide) h)
      by_cases hcl : (s.data.toList.drop i).head? = some 47 ∧ (s.data.toList.drop (i + 1)).head? = some 62
      · rw [decide_eq_true hcl] at HG
        have c47 : s[i] = 47 := by have := hcl.1; rw [drop_at s i hlt, List.head?_cons, Option.some.injEq] at this; exact this
        have hlt2 : i + 1 < s.size := Nat.lt_of_not_le fun h => by
          have := hcl.2; rw [List.drop_eq_nil_of_le (by rw [← Lib.size_eq]; exact h)] at this; simp at this
        have HN := Lib.hid (HV1.out l true (i + 2) (runI_done (go0_self c47 hcl.2) hx))
        rw [show ((i + 2 : Nat) : Int) = (i : Int) + 2 by omega] at HN
        obtain ⟨ad, cap, rfl, hr⟩ := isRows_own l HO.out
        have HR := Lib.hid hr
        clear hr hx c62 c47 hcl HSp HM HX hb1
        go_wp2_with (fail)
        refine (HG _).out.mono ?_
        rintro e w1 ⟨rfl, n1, rfl⟩
        go_wp2
        simp only [Exit.jump]
        try simp only [Exit.inBlock, Exit.then]
        refine bodyPost_ret (results_tmp4 rfl _ _ _) rfl ?_
        exact ⟨_, _, _, _, _, _, _, rfl, HR.out.below (dr_below _ _ _) (Nat.le_refl _), HN.out, HB.out.trans (dr_below _ _ _), fun k h => Nat.le_of_succ_le (HO.out.lt k h).1⟩
      rw [decide_eq_false hcl] at HG
      by_cases c47 : s[i] = 47
      · have hn62 : (s.data.toList.drop (i + 1)).head? ≠ some 62 := fun h => hcl ⟨by rw [drop_at s i hlt, List.head?_cons, c47], h⟩
        have HN := Lib.hid (runI_more (go0_stroke c47 hn62) hx)
        have h47 : ((s[i].toNat : Int) == 47) = true := by rw [c47]; rfl
        clear hx c62 c47 hcl hn62 HSp HX hb1
        go_wp2_with (fail)
        refine (HG _).out.mono ?_
        rintro e w1 ⟨rfl, n1, rfl⟩
        go_wp2
        go_step3
        refine ⟨rfl, ⟨i + 1, n, l, lv, rfl, own_below HO.out (dr_below _ _ _), HM.out.below (dr_below _ _ _), HB.out.trans (dr_below _ _ _), hlt, by omega, by omega, HN.out⟩, ?_⟩
        simp [intOf]; omega
      have h47 : ((s[i].toNat : Int) == 47) = false := by
        rw [beq_eq_false_iff_ne]; exact fun h => c47 (u8_eq _ 47 (by decide) h)
      by_cases hsp : spB s[i] = true
      · have HN := Lib.hid (runI_more (go0_space hsp) hx)
        rw [hsp] at HSp
        clear hx c62 c47 hcl hsp HX hb1
        go_wp2_with (fail)
        refine (HG _).out.mono ?_
        rintro e w1 ⟨rfl, n1, rfl⟩
        go_wp2_with (fail)
        refine (HSp _).out.mono ?_
        rintro e w2 ⟨rfl, rfl⟩
        go_wp2
        go_step3
        refine ⟨rfl, ⟨i + 1, n, l, lv, rfl, own_below HO.out (dr_below _ _ _), HM.out.below (dr_below _ _ _), HB.out.trans (dr_below _ _ _), hlt, by omega, by omega, HN.out⟩, ?_⟩
        simp [intOf]; omega
      have hsf : spB s[i] = false := by simpa using hsp
      have hbeg : begB s[i] = true := by unfold begB; rw [hsf]; simp [c62, c47]
      have HA := fun w => Lib.hid (attribute_any s (i : Int) i w hs2 rfl hlt)
      have hstep := attr_step s.data.toList i (by rw [← Lib.size_eq]; exact hlt) hbeg l T HX.out
      have hbd := attT_bounds s[i] (s.data.toList.drop (i + 1))
      rw [← drop_at s i hlt, List.length_drop, ← Lib.size_eq] at hbd
      have hnm := anT_le (s.data.toList.drop i)
      rw [List.length_drop, ← Lib.size_eq] at hnm
      rw [hsf] at HSp
      have hNc := (cleanL_len (lowL (anT (s.data.toList.drop i)))).2
      rw [lowL_len] at hNc
      obtain ⟨N, hN⟩ : ∃ N : ByteArray, ⟨(tellN (anT (s.data.toList.drop i))).toArray⟩ = N := ⟨_, rfl⟩
      obtain ⟨V, hV⟩ : ∃ V : ByteArray, ⟨(attT (s.data.toList.drop i)).1.toArray⟩ = V := ⟨_, rfl⟩
      obtain ⟨m, hm⟩ : ∃ m, i + (attT (s.data.toList.drop i)).2 = m := ⟨_, rfl⟩
      have hNl : N.data.toList = tellN (anT (s.data.toList.drop i)) := by rw [← hN, List.toList_toArray]
      have hVl : V.data.toList = (attT (s.data.toList.drop i)).1 := by rw [← hV, List.toList_toArray]
      have hNs : N.size ≤ 3145728 := by rw [Lib.size_eq, hNl]; unfold tellN; omega
      have hVs : V.size ≤ 1048576 := by rw [Lib.size_eq, hVl]; omega
      rw [hN, hV, hm] at HA
      rw [hm] at hstep
      have hm1 : i < m := by omega
      have hm2 : m ≤ s.size := by omega
      have hNm : N.size ≤ maxLen := by unfold maxLen; omega
      have HNV := Lib.hid (show (Value.string N) = strV (tellN (anT (s.data.toList.drop i))) by rw [← hN]; rfl)
      have HNL := Lib.hid hNl
      cases hF : namesF l N.data.toList
      · have hadd : addL l (anT (s.data.toList.drop i)) (attT (s.data.toList.drop i)).1 = l ++ [(tellN (anT (s.data.toList.drop i)), tellV (attT (s.data.toList.drop i)).1)] := by
          unfold addL
          rw [if_neg (by rw [← hNl]; unfold namesF at hF; rw [hF]; exact Bool.false_ne_true)]
        rw [hadd] at hstep
        have HST := Lib.hid hstep
        have HD := fun w h1 h2 => Lib.hid (decode_any V true w (by omega) h1 h2)
        have hds : (⟨(ddL true V.data.toList).toArray⟩ : ByteArray).size ≤ 1099511627776 := by
          rw [Lib.size_eq, List.toList_toArray]
          have := dd_len true V.data.toList.length V.data.toList (Nat.le_refl _)
          rw [← Lib.size_eq] at this
          omega
        have HC := fun w => Lib.hid (clean_any ⟨(ddL true V.data.toList).toArray⟩ w hds)
        rw [List.toList_toArray, show cleanL (ddL true V.data.toList) = tellV (attT (s.data.toList.drop i)).1 by rw [hVl]; rfl] at HC
        obtain ⟨D, hD⟩ : ∃ D : ByteArray, ⟨(ddL true V.data.toList).toArray⟩ = D := ⟨_, rfl⟩
        obtain ⟨W, hW⟩ : ∃ W : ByteArray, ⟨(tellV (attT (s.data.toList.drop i)).1).toArray⟩ = W := ⟨_, rfl⟩
        rw [hD] at HD HC
        rw [hW] at HC
        have HWV := Lib.hid (show (Value.string W) = strV (tellV (attT (s.data.toList.drop i)).1) by rw [← hW]; rfl)
        have hne : lv.ownBlock = none ∨ lv.ownBlock ≠ some w.heap.size := .inr fun e => by
          have := (HO.out.lt _ e).1; omega
        have hne2 : some w.heap.size ≠ lv.ownBlock := fun e => by
          have := (HO.out.lt _ e.symm).1; omega
        have HNE := Lib.hid hne
        have HNE2 := Lib.hid hne2
        have hB1 := HM.out.lt
        clear hx c62 c47 hcl hsp HX hb1 hsf hbeg hstep hbd hnm hNc hN hV hm hNl hVl hadd hds hD hW hne hne2
        go_wp2_with (fail)
        refine (HG _).out.mono ?_
        rintro e w1 ⟨rfl, n1, rfl⟩
        go_wp2_with (fail)
        refine (HSp _).out.mono ?_
        rintro e w2 ⟨rfl, rfl⟩
        go_wp2_with (fail)
        refine (HA _).out.mono ?_
        rintro e w3 ⟨rfl, b3⟩
        have C3 := Lib.hid ((dr_below wr.heap.size wr n1).trans b3)
        clear b3
        have hs3 := C3.out.size
        go_wp2_with (first | (at_lookup; refine wpList_look_bool _ rfl _ _ _ rfl 9 4 Tryz.underlying9 Tryz.underlying137 Tryz.underlying4 (zeroBool _) w.heap.size n _ rfl (HM.out.below C3.out) N hNm rfl ?_) | (at_mapUpdate; refine wpList_store_bool _ rfl _ _ _ _ rfl 9 4 Tryz.underlying9 Tryz.underlying137 Tryz.underlying4 w.heap.size n _ rfl (HM.out.below C3.out) (by unfold maxLen; omega) N hNm true _ _ rfl rfl rfl rfl ?_))
        intro w4 hm4 hg4
        rw [HNL.out, names_add l _ (tellV (attT (s.data.toList.drop i)).1)] at hm4
        have HM4 := Lib.hid hm4
        have HO4 := Lib.hid ((own_below HO.out C3.out).kept hg4 HNE.out)
        have B4 := Lib.hid ((HB.out.trans (C3.out.mono HB.out.size)).grown hg4 (by have := HB.out.size; omega) (fun k hk => by cases hk; exact Nat.le_refl _))
        have hs4 := hg4.size
        clear hm4 hg4
        go_wp2_with (fail)
        refine (HD _ (HT.out.below B4.out).tab (HT.out.below B4.out).err).out.mono ?_
        rintro e w5 ⟨rfl, b5⟩
        have hs5 := b5.size
        go_wp2_with (fail)
        refine (HC _).out.mono ?_
        rintro e w6 ⟨rfl, b6⟩
        have hs6 := b6.size
        have B6 := Lib.hid (b5.trans (b6.mono b5.size))
        have HM6 := Lib.hid (HM4.out.below B6.out)
        have HO6 := Lib.hid (own_below HO4.out B6.out)
        have HB6 := Lib.hid (B4.out.trans (B6.out.mono B4.out.size))
        clear b5 b6
        go_wp2_with (at_builtin; refine wpList_append_own _ rfl _ _ 29 rfl (w.heap.size + 1) 141 i0 _ 2 32 Tryz.underlying29 hi0 hz0 hz1 hz2 rfl (by decide) _ l.length (cellsR l) rfl (HO6.out.alloc _) ⟨w6.heap.size, 0, none⟩ 1 1 [.string N, .string W] rfl rfl ?c1 ?c2 ?c3 ?c4 ?c5 ?_)
        case c1 => exact new_two _ _ _ _
        case c2 => intro u hu; simp at hu; rcases hu with rfl | rfl <;> rfl
        case c3 => simp [maxLen]; omega
        case c4 => omega
        case c5 => simp; omega
        intro v1 w7 hown7 hgr7 _
        have B7 := Lib.hid ((HB6.out.alloc HB6.out.size _).grown hgr7 (by simp; omega) (fun k hk => by have := (HO.out.lt k hk).1; omega))
        have HM7 := Lib.hid ((HM6.out.alloc _).kept hgr7 HNE2.out)
        rw [HNV.out, HWV.out, cellsR_add] at hown7
        have HO7 := Lib.hid hown7
        clear hown7 hgr7
        go_wp2
        go_step3
        refine ⟨rfl, ⟨m, n + 1, _, v1, rfl, by rw [List.length_append, List.length_singleton]; exact HO7.out, HM7.out, B7.out, hm2, by omega, by rw [List.length_append, List.length_singleton]; omega, HST.out⟩, ?_⟩
        simp [intOf]; omega
      · have hadd : addL l (anT (s.data.toList.drop i)) (attT (s.data.toList.drop i)).1 = l := by
          unfold addL
          rw [if_pos (by rw [← hNl]; exact hF)]
        rw [hadd] at hstep
        have HST := Lib.hid hstep
        clear hx c62 c47 hcl hsp HX hb1 hsf hbeg hstep hbd hnm hNc hN hV hm hNl hVl hadd
        go_wp2_with (fail)
        refine (HG _).out.mono ?_
        rintro e w1 ⟨rfl, n1, rfl⟩
        go_wp2_with (fail)
        refine (HSp _).out.mono ?_
        rintro e w2 ⟨rfl, rfl⟩
        go_wp2_with (fail)
        refine (HA _).out.mono ?_
        rintro e w3 ⟨rfl, b3⟩
        have C3 := Lib.hid ((dr_below wr.heap.size wr n1).trans b3)
        clear b3
        go_wp2_with (at_lookup; refine wpList_look_bool _ rfl _ _ _ rfl 9 4 Tryz.underlying9 Tryz.underlying137 Tryz.underlying4 (zeroBool _) w.heap.size n _ rfl (HM.out.below C3.out) N hNm rfl ?_)
        go_wp2
        go_step3
        refine ⟨rfl, ⟨m, n, l, lv, rfl, own_below HO.out C3.out, HM.out.below C3.out, HB.out.trans (C3.out.mono HB.out.size), hm2, by omega, by omega, HST.out⟩, ?_⟩
        simp [intOf]; omega
    · obtain rfl : i = s.size := by omega
      have HN : Hid (T = none) := Lib.hid (by
        have := HX.out
        rw [List.drop_eq_nil_of_le (by rw [← Lib.size_eq]; exact Nat.le_refl _)] at this
        exact runI_nil this)
      go_wp2
      simp only [Exit.jump]
      try simp only [Exit.inBlock, Exit.then]
      refine bodyPost_ret (results_tmp4 rfl _ _ _) rfl ?_
      exact ⟨_, _, _, _, _, _, _, rfl, isRows_none _, by rw [HV0.out HN.out, Lib.size_eq], HB.out, fun k h => by cases h⟩
  · intro hpass
    go_wp2
    go_step3
    rename_i K hK
    refine hK _ _ (hpass _ _ ?_)
    exact ⟨k, 0, [], .slice none 0 0, rfl, World.ownsRow_nil _ _ _ _, mapIs_made _ _ _ _, (Below.refl _ w).alloc (Nat.le_refl _) _, hk, Nat.zero_le _, Nat.zero_le _, HK.out⟩
end Go.Proofs.YtbcmfcddkegcoaaGreatDoor

/-! What follows of what stands in a tag: where it ends, what its names are like, what plays no part: plain mathematics. -/
namespace Go.Proofs.YtbcmfcddkegcoaaGreatDoor
open Go.RowKit Go.Lib

/-- where a tag ends -/
theorem go0_done {l0 : List Ln} {c : UInt8} {t : Txt} {l : List Ln} {self : Bool} {n : Nat} (h : go0 l0 c t = .done l self n) : (self = false ∧ n = 1 ∧ c = 62) ∨ (self = true ∧ n = 2 ∧ c = 47 ∧ t.head? = some 62) := by
  unfold go0 at h
  by_cases hs : spB c = true
  · rw [if_pos hs] at h; cases h
  · rw [if_neg hs] at h
    by_cases h62 : c = 62
    · rw [if_pos h62] at h; cases h; exact .inl ⟨rfl, rfl, h62⟩
    · rw [if_neg h62] at h
      by_cases h47 : c = 47
      · rw [if_pos h47] at h
        by_cases ht : t.head? = some 62
        · rw [if_pos ht] at h; cases h; exact .inr ⟨rfl, rfl, h47, ht⟩
        · rw [if_neg ht] at h; cases h
      · rw [if_neg h47] at h; cases h
theorem goA_done {a : At} {c : UInt8} {t : Txt} {l : List Ln} {self : Bool} {n : Nat} (h : goA a c t = .done l self n) : (self = false ∧ n = 1 ∧ c = 62) ∨ (self = true ∧ n = 2 ∧ c = 47 ∧ t.head? = some 62) := by
  have h2 : ∀ l0 nm, go2 l0 nm c t = .done l self n → (self = false ∧ n = 1 ∧ c = 62) ∨ (self = true ∧ n = 2 ∧ c = 47 ∧ t.head? = some 62) := by
    intro l0 nm h
    unfold go2 at h
    split at h
    · cases h
    · split at h
      · cases h
      · exact go0_done h
  have h5 : ∀ l0 nm v, go5 l0 nm v c t = .done l self n → (self = false ∧ n = 1 ∧ c = 62) ∨ (self = true ∧ n = 2 ∧ c = 47 ∧ t.head? = some 62) := by
    intro l0 nm v h
    unfold go5 at h
    split at h
    · exact go0_done h
    · cases h
  cases a with
  | s0 l0 => exact go0_done h
  | s1 l0 nm =>
    have h : go1 l0 nm c t = .done l self n := h
    unfold go1 at h
    split at h
    · exact h2 _ _ h
    · cases h
  | s2 l0 nm => exact h2 _ _ h
  | s3 l0 nm =>
    have h : go3 l0 nm c t = .done l self n := h
    unfold go3 at h
    split at h
    · cases h
    · split at h
      · cases h
      · split at h
        · exact go0_done h
        · exact h5 _ _ _ h
  | s4 l0 nm v q =>
    have h : go4 l0 nm v q c = .done l self n := h
    unfold go4 at h
    split at h <;> cases h
  | s5 l0 nm v => exact h5 _ _ _ h
theorem run_ends : ∀ (t : Txt) (a : At) (l : List Ln) (self : Bool) (n : Nat), runA a t = some (l, self, n) → 1 ≤ n ∧ n ≤ t.length ∧ t.getD (n - 1) 0 = 62 ∧ (self = true → 2 ≤ n ∧ t.getD (n - 2) 0 = 47)
  | [], a, l, self, n, h => by rw [run_nil] at h; exact absurd h (by simp)
  | c :: t, a, l, self, n, h => by
    cases hg : goA a c t with
    | done l' self' n' =>
      rw [run_done hg] at h
      simp only [Option.some.injEq, Prod.mk.injEq] at h
      obtain ⟨-, rfl, rfl⟩ := h
      rcases goA_done hg with ⟨rfl, rfl, rfl⟩ | ⟨rfl, rfl, rfl, ht⟩
      · exact ⟨Nat.le_refl _, by simp, rfl, fun h => by cases h⟩
      · cases t with
        | nil => exact absurd ht (by simp)
        | cons d r =>
          simp only [List.head?_cons, Option.some.injEq] at ht
          subst ht
          exact ⟨by decide, by simp, rfl, fun _ => ⟨Nat.le_refl _, rfl⟩⟩
    | more a' =>
      rw [run_more hg] at h
      cases hr : runA a' t with
      | none => rw [hr] at h; exact absurd h (by simp)
      | some r =>
        obtain ⟨l', self', n'⟩ := r
        rw [hr] at h
        simp only [Option.map_some, upN, Option.some.injEq, Prod.mk.injEq] at h
        obtain ⟨-, rfl, rfl⟩ := h
        obtain ⟨h1, h2, h3, h4⟩ := run_ends t a' l' self' n' hr
        refine ⟨by omega, by rw [List.length_cons]; omega, ?_, fun hs => ?_⟩
        · rw [show n' + 1 - 1 = (n' - 1) + 1 by omega, List.getD_cons_succ]; exact h3
        · obtain ⟨h5, h6⟩ := h4 hs
          refine ⟨by omega, ?_⟩
          rw [show n' + 1 - 2 = (n' - 2) + 1 by omega, List.getD_cons_succ]; exact h6

end Go.Proofs.YtbcmfcddkegcoaaGreatDoor

/-! What stands in a tag, read on: what stands behind its end, and blanks ahead, play no part; values in quotes and without: plain mathematics. -/
namespace Go.Proofs.YtbcmfcddkegcoaaGreatDoor
open Go.RowKit Go.Lib

end Go.Proofs.YtbcmfcddkegcoaaGreatDoor
