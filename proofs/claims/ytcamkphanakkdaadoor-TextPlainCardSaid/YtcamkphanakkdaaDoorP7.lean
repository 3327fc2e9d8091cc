/-
  Texts laid together: AttMath, AttScan, AttAdd, AttRef, AttEnds, AttOne, AttKnow, AttCode, AttGood, AttRead.
-/
import Derived.Test.YtcamkphanakkdaaDoorP4
import Derived.Test.YtcamkphanakkdaaDoorP6
import Derived.Test.YtcamkphanakkdaaDoorP3
import Derived.Test.YtcamkphanakkdaaDoorP1
import Derived.Test.YtcamkphanakkdaaDoorPT
import Derived.Maps.OwnOps
import Derived.Maps.Views
import Derived.ProofKit
import Derived.WalkKit
/-! What stands in a tag, byte by byte: plain mathematics. -/
namespace Go.Proofs.YtcamkphanakkdaaDoor
open Go.RowKit Go.Lib

/-- a Space -/
def spB (c : UInt8) : Bool := spaceI (c.toNat : Int)
theorem spB_eq (c : UInt8) : spB c = (c == 9 || c == 10 || c == 12 || c == 32) := by
  unfold spB spaceI
  rw [Bool.eq_iff_iff]
  simp only [decide_eq_true_eq, Bool.or_eq_true, beq_iff_eq, ← UInt8.toNat_inj]
  rw [show (9 : UInt8).toNat = 9 from rfl, show (10 : UInt8).toNat = 10 from rfl, show (12 : UInt8).toNat = 12 from rfl, show (32 : UInt8).toNat = 32 from rfl]
  omega

/-- a name and a value as they are told -/
def tellN (name : Txt) : Txt := cleanL (lowL name)
def tellV (val : Txt) : Txt := cleanL (ddL true val)
/-- an attribute more, unless its name was there -/
def addL (l : List Ln) (name val : Txt) : List Ln := if l.any (fun r => r.1 == tellN name) then l else l ++ [(tellN name, tellV val)]

/-- what is read: what stands ahead of a name, a name, what is behind one, what is ahead of a value, a value in quotes, or without -/
inductive At where
  | s0 (l : List Ln)
  | s1 (l : List Ln) (name : Txt)
  | s2 (l : List Ln) (name : Txt)
  | s3 (l : List Ln) (name : Txt)
  | s4 (l : List Ln) (name val : Txt) (q : UInt8)
  | s5 (l : List Ln) (name val : Txt)
inductive Step where
  | more (a : At)
  | done (l : List Ln) (self : Bool) (n : Nat)
/-- what ends a name -/
def endB (c : UInt8) : Bool := spB c || c == 47 || c == 62 || c == 61
def go0 (l : List Ln) (c : UInt8) (t : Txt) : Step :=
  if spB c then .more (.s0 l) else if c = 62 then .done l false 1
  else if c = 47 then (if t.head? = some 62 then .done l true 2 else .more (.s0 l))
  else .more (.s1 l [c])
def go2 (l : List Ln) (name : Txt) (c : UInt8) (t : Txt) : Step :=
  if spB c then .more (.s2 l name) else if c = 61 then .more (.s3 l name) else go0 (addL l name []) c t
def go1 (l : List Ln) (name : Txt) (c : UInt8) (t : Txt) : Step := if endB c then go2 l name c t else .more (.s1 l (name ++ [c]))
def go5 (l : List Ln) (name val : Txt) (c : UInt8) (t : Txt) : Step := if spB c || c == 62 then go0 (addL l name val) c t else .more (.s5 l name (val ++ [c]))
def go3 (l : List Ln) (name : Txt) (c : UInt8) (t : Txt) : Step :=
  if spB c then .more (.s3 l name) else if c = 34 ∨ c = 39 then .more (.s4 l name [] c) else if c = 62 then go0 (addL l name []) c t else go5 l name [] c t
def go4 (l : List Ln) (name val : Txt) (q c : UInt8) : Step := if c = q then .more (.s0 (addL l name val)) else .more (.s4 l name (val ++ [c]) q)
def goA : At → UInt8 → Txt → Step
  | .s0 l, c, t => go0 l c t
  | .s1 l name, c, t => go1 l name c t
  | .s2 l name, c, t => go2 l name c t
  | .s3 l name, c, t => go3 l name c t
  | .s4 l name val q, c, _ => go4 l name val q c
  | .s5 l name val, c, t => go5 l name val c t
abbrev Told := List Ln × Bool × Nat
def upN (k : Nat) (r : Told) : Told := (r.1, r.2.1, r.2.2 + k)
/-- from a place on: the attributes, whether the tag closes itself, how many bytes are read -/
def runA : At → Txt → Option Told
  | _, [] => none
  | a, c :: t => match goA a c t with
    | .done l self n => some (l, self, n)
    | .more a' => (runA a' t).map (upN 1)
theorem run_nil (a : At) : runA a [] = none := by cases a <;> rfl
theorem run_more {a a' : At} {c : UInt8} {t : Txt} (h : goA a c t = .more a') : runA a (c :: t) = (runA a' t).map (upN 1) := by
  rw [runA, h]
theorem run_done {a : At} {c : UInt8} {t : Txt} {l : List Ln} {self : Bool} {n : Nat} (h : goA a c t = .done l self n) : runA a (c :: t) = some (l, self, n) := by
  rw [runA, h]
theorem run_same {a b : At} {c : UInt8} {t : Txt} (h : goA a c t = goA b c t) : runA a (c :: t) = runA b (c :: t) := by
  rw [runA, runA, h]

/-- the same, told with a place: 'i' bytes stand ahead -/
def runI (i : Nat) (a : At) (t : Txt) : Option Told := (runA a t).map (upN i)
theorem upN_one (i : Nat) (r : Option Told) : (r.map (upN 1)).map (upN i) = r.map (upN (i + 1)) := by
  cases r with
  | none => rfl
  | some r => simp [upN]; omega
theorem runI_more {i : Nat} {a a' : At} {c : UInt8} {t : Txt} {T : Option Told} (h : goA a c t = .more a') (hT : runI i a (c :: t) = T) : runI (i + 1) a' t = T := by
  unfold runI at hT ⊢
  rw [run_more h, upN_one] at hT
  exact hT
theorem runI_done {i : Nat} {a : At} {c : UInt8} {t : Txt} {l : List Ln} {self : Bool} {n : Nat} {T : Option Told} (h : goA a c t = .done l self n) (hT : runI i a (c :: t) = T) : T = some (l, self, i + n) := by
  unfold runI at hT
  rw [run_done h] at hT
  rw [← hT]; simp [upN]; omega
theorem runI_same {i : Nat} {a b : At} {c : UInt8} {t : Txt} {T : Option Told} (h : goA a c t = goA b c t) (hT : runI i a (c :: t) = T) : runI i b (c :: t) = T := by
  unfold runI at hT ⊢
  rw [← run_same h]; exact hT
theorem runI_nil {i : Nat} {a : At} {T : Option Told} (hT : runI i a [] = T) : T = none := by
  unfold runI at hT; rw [run_nil] at hT; exact hT.symm

/-- P8.1 for any place -/
def attrsV (s : Txt) (a : Int) : List Ln × Bool × Int × Bool :=
  if 0 ≤ a ∧ a ≤ (s.length : Int) then match runI a.toNat (.s0 []) (s.drop a.toNat) with
    | none => ([], false, (s.length : Int), false)
    | some (l, self, n) => (l, self, (n : Int), true)
  else ([], false, a, false)
theorem attrs_out (s : Txt) (a : Int) (h : ¬ (0 ≤ a ∧ a ≤ (s.length : Int))) : attrsV s a = ([], false, a, false) := if_neg h
theorem attrs_none (s : Txt) (k : Nat) (h : k ≤ s.length) (hT : runI k (.s0 []) (s.drop k) = none) : attrsV s (k : Int) = ([], false, (s.length : Int), false) := by
  unfold attrsV
  rw [if_pos ⟨by omega, by omega⟩, show ((k : Nat) : Int).toNat = k by omega, hT]
theorem attrs_some (s : Txt) (k : Nat) (h : k ≤ s.length) (l : List Ln) (self : Bool) (n : Nat) (hT : runI k (.s0 []) (s.drop k) = some (l, self, n)) : attrsV s (k : Int) = (l, self, (n : Int), true) := by
  unfold attrsV
  rw [if_pos ⟨by omega, by omega⟩, show ((k : Nat) : Int).toNat = k by omega, hT]

/-- how many attributes there may be -/
theorem addL_len (l : List Ln) (name val : Txt) : (addL l name val).length ≤ l.length + 1 := by
  unfold addL; split
  · omega
  · simp
/-- each step, by the byte -/
theorem go0_space {l : List Ln} {c : UInt8} {t : Txt} (h : spB c = true) : goA (.s0 l) c t = .more (.s0 l) := if_pos h
theorem go0_end {l : List Ln} {c : UInt8} {t : Txt} (h : c = 62) : goA (.s0 l) c t = .done l false 1 := by subst h; rfl
theorem go0_self {l : List Ln} {c : UInt8} {t : Txt} (h : c = 47) (ht : t.head? = some 62) : goA (.s0 l) c t = .done l true 2 := by
  subst h
  show go0 l 47 t = _
  unfold go0
  rw [if_neg (by decide), if_neg (by decide), if_pos rfl, if_pos ht]
theorem go0_stroke {l : List Ln} {c : UInt8} {t : Txt} (h : c = 47) (ht : t.head? ≠ some 62) : goA (.s0 l) c t = .more (.s0 l) := by
  subst h
  show go0 l 47 t = _
  unfold go0
  rw [if_neg (by decide), if_neg (by decide), if_pos rfl, if_neg ht]
theorem go0_name {l : List Ln} {c : UInt8} {t : Txt} (h : spB c = false) (h1 : c ≠ 62) (h2 : c ≠ 47) : goA (.s0 l) c t = .more (.s1 l [c]) := by
  show go0 l c t = _
  unfold go0
  rw [h, if_neg Bool.false_ne_true, if_neg h1, if_neg h2]
theorem go1_end {l : List Ln} {name : Txt} {c : UInt8} {t : Txt} (h : endB c = true) : goA (.s1 l name) c t = goA (.s2 l name) c t := if_pos h
theorem go1_more {l : List Ln} {name : Txt} {c : UInt8} {t : Txt} (h : endB c = false) : goA (.s1 l name) c t = .more (.s1 l (name ++ [c])) := by
  show go1 l name c t = _
  unfold go1; rw [h]; rfl
theorem go2_space {l : List Ln} {name : Txt} {c : UInt8} {t : Txt} (h : spB c = true) : goA (.s2 l name) c t = .more (.s2 l name) := if_pos h
theorem go2_eq {l : List Ln} {name : Txt} {c : UInt8} {t : Txt} (h : c = 61) : goA (.s2 l name) c t = .more (.s3 l name) := by subst h; rfl
theorem go2_else {l : List Ln} {name : Txt} {c : UInt8} {t : Txt} (h : spB c = false) (h1 : c ≠ 61) : goA (.s2 l name) c t = goA (.s0 (addL l name [])) c t := by
  show go2 l name c t = go0 _ c t
  unfold go2; rw [h, if_neg Bool.false_ne_true, if_neg h1]
theorem go3_space {l : List Ln} {name : Txt} {c : UInt8} {t : Txt} (h : spB c = true) : goA (.s3 l name) c t = .more (.s3 l name) := if_pos h
theorem go3_quote {l : List Ln} {name : Txt} {c : UInt8} {t : Txt} (h : c = 34 ∨ c = 39) : goA (.s3 l name) c t = .more (.s4 l name [] c) := by
  rcases h with rfl | rfl <;> rfl
theorem go3_end {l : List Ln} {name : Txt} {c : UInt8} {t : Txt} (h : c = 62) : goA (.s3 l name) c t = goA (.s0 (addL l name [])) c t := by subst h; rfl
theorem go3_else {l : List Ln} {name : Txt} {c : UInt8} {t : Txt} (h : spB c = false) (h1 : ¬ (c = 34 ∨ c = 39)) (h2 : c ≠ 62) : goA (.s3 l name) c t = goA (.s5 l name []) c t := by
  show go3 l name c t = go5 l name [] c t
  unfold go3; rw [h, if_neg Bool.false_ne_true, if_neg h1, if_neg h2]
theorem go4_end {l : List Ln} {name val : Txt} {q c : UInt8} {t : Txt} (h : c = q) : goA (.s4 l name val q) c t = .more (.s0 (addL l name val)) := if_pos h
theorem go4_more {l : List Ln} {name val : Txt} {q c : UInt8} {t : Txt} (h : c ≠ q) : goA (.s4 l name val q) c t = .more (.s4 l name (val ++ [c]) q) := if_neg h
theorem go5_end {l : List Ln} {name val : Txt} {c : UInt8} {t : Txt} (h : (spB c || c == 62) = true) : goA (.s5 l name val) c t = goA (.s0 (addL l name val)) c t := if_pos h
theorem go5_more {l : List Ln} {name val : Txt} {c : UInt8} {t : Txt} (h : (spB c || c == 62) = false) : goA (.s5 l name val) c t = .more (.s5 l name (val ++ [c])) := by
  show go5 l name val c t = _
  unfold go5; rw [h]; rfl
end Go.Proofs.YtcamkphanakkdaaDoor

/-! An attribute that stands at a place, read at once: its name, its value, how many bytes it has: plain mathematics. -/
namespace Go.Proofs.YtcamkphanakkdaaDoor
open Go.RowKit Go.Lib

/-- a value without quotes goes on; a name goes on -/
def valB (c : UInt8) : Bool := !(spB c || c == 62)
def nameB (c : UInt8) : Bool := !endB c

theorem take_tw (p : UInt8 → Bool) (l : Txt) : l.take (l.takeWhile p).length = l.takeWhile p := by
  conv => lhs; arg 2; rw [← List.takeWhile_append_dropWhile (p := p) (l := l)]
  exact List.take_left
theorem drop_tw (p : UInt8 → Bool) (l : Txt) : l.drop (l.takeWhile p).length = l.dropWhile p := by
  conv => lhs; arg 2; rw [← List.takeWhile_append_dropWhile (p := p) (l := l)]
  exact List.drop_left
theorem tw_le (p : UInt8 → Bool) (l : Txt) : (l.takeWhile p).length ≤ l.length := (List.takeWhile_sublist p).length_le
theorem tw_yes {p : UInt8 → Bool} {c : UInt8} {t : Txt} (h : p c = true) : (c :: t).takeWhile p = c :: t.takeWhile p := by rw [List.takeWhile_cons, if_pos h]
theorem tw_no {p : UInt8 → Bool} {c : UInt8} {t : Txt} (h : p c = false) : (c :: t).takeWhile p = [] := by rw [List.takeWhile_cons, h]; rfl
theorem dw_yes {p : UInt8 → Bool} {c : UInt8} {t : Txt} (h : p c = true) : (c :: t).dropWhile p = t.dropWhile p := by rw [List.dropWhile_cons, if_pos h]
theorem dw_no {p : UInt8 → Bool} {c : UInt8} {t : Txt} (h : p c = false) : (c :: t).dropWhile p = c :: t := by rw [List.dropWhile_cons, h]; rfl
theorem dw_head (p : UInt8 → Bool) : ∀ (l : Txt) (c : UInt8) (t : Txt), l.dropWhile p = c :: t → p c = false
  | [], c, t, h => by simp at h
  | d :: l, c, t, h => by
    cases hp : p d
    · rw [dw_no hp] at h
      injection h with h1 h2
      rw [← h1]; exact hp
    · rw [dw_yes hp] at h; exact dw_head p l c t h

theorem upN_add (a b : Nat) (r : Option Told) : (r.map (upN a)).map (upN b) = r.map (upN (a + b)) := by
  cases r with
  | none => rfl
  | some r => simp [upN, Nat.add_assoc]
theorem upN_nil (r : Option Told) : r.map (upN 0) = r := by
  cases r <;> rfl

theorem scan1 (l : List Ln) : ∀ (t nm : Txt), runA (.s1 l nm) t = (runA (.s2 l (nm ++ t.takeWhile nameB)) (t.dropWhile nameB)).map (upN (t.takeWhile nameB).length)
  | [], nm => by rw [List.dropWhile_nil, run_nil, run_nil]; rfl
  | c :: t, nm => by
    cases h : endB c
    · have hn : nameB c = true := by unfold nameB; rw [h]; rfl
      rw [run_more (go1_more h), scan1 l t (nm ++ [c]), tw_yes hn, dw_yes hn, upN_add, List.append_assoc, List.length_cons]; rfl
    · have hn : nameB c = false := by unfold nameB; rw [h]; rfl
      rw [tw_no hn, dw_no hn, List.append_nil, run_same (go1_end h)]; exact (upN_nil _).symm
theorem scan2 (l : List Ln) (nm : Txt) : ∀ t : Txt, runA (.s2 l nm) t = (runA (.s2 l nm) (t.dropWhile spB)).map (upN (t.takeWhile spB).length)
  | [] => by rw [List.dropWhile_nil, run_nil]; rfl
  | c :: t => by
    cases h : spB c
    · rw [tw_no h, dw_no h]; exact (upN_nil _).symm
    · rw [run_more (go2_space h), scan2 l nm t, tw_yes h, dw_yes h, upN_add]; rfl
theorem scan3 (l : List Ln) (nm : Txt) : ∀ t : Txt, runA (.s3 l nm) t = (runA (.s3 l nm) (t.dropWhile spB)).map (upN (t.takeWhile spB).length)
  | [] => by rw [List.dropWhile_nil, run_nil]; rfl
  | c :: t => by
    cases h : spB c
    · rw [tw_no h, dw_no h]; exact (upN_nil _).symm
    · rw [run_more (go3_space h), scan3 l nm t, tw_yes h, dw_yes h, upN_add]; rfl
theorem scan5 (l : List Ln) (nm : Txt) : ∀ (t v : Txt), runA (.s5 l nm v) t = (runA (.s0 (addL l nm (v ++ t.takeWhile valB))) (t.dropWhile valB)).map (upN (t.takeWhile valB).length)
  | [], v => by rw [List.dropWhile_nil, run_nil, run_nil]; rfl
  | c :: t, v => by
    cases h : (spB c || c == 62)
    · have hn : valB c = true := by unfold valB; rw [h]; rfl
      rw [run_more (go5_more h), scan5 l nm t (v ++ [c]), tw_yes hn, dw_yes hn, upN_add, List.append_assoc, List.length_cons]; rfl
    · have hn : valB c = false := by unfold valB; rw [h]; rfl
      rw [tw_no hn, dw_no hn, List.append_nil, run_same (go5_end h)]; exact (upN_nil _).symm
theorem scan4 (l : List Ln) (nm : Txt) (q : UInt8) : ∀ (t v : Txt), runA (.s4 l nm v q) t = (runA (.s0 (addL l nm (v ++ t.takeWhile (· != q)))) ((t.dropWhile (· != q)).tail)).map (upN ((t.takeWhile (· != q)).length + 1))
  | [], v => by rw [List.dropWhile_nil, run_nil, List.tail_nil, run_nil]; rfl
  | c :: t, v => by
    by_cases h : c = q
    · have hn : (c != q) = false := by simpa using h
      rw [tw_no (p := (· != q)) hn, dw_no (p := (· != q)) hn, List.append_nil, run_more (go4_end h), List.tail_cons]; rfl
    · have hn : (c != q) = true := by simpa using h
      rw [run_more (go4_more h), scan4 l nm q t (v ++ [c]), tw_yes (p := (· != q)) hn, dw_yes (p := (· != q)) hn, upN_add, List.append_assoc, List.length_cons]; rfl

/-- a value that stands at a place: its bytes, and how many bytes are read -/
def valT : Txt → Txt × Nat
  | [] => ([], 0)
  | c :: t => if c = 34 ∨ c = 39 then (t.takeWhile (· != c), (c :: t).length - ((t.dropWhile (· != c)).tail).length)
    else ((c :: t).takeWhile valB, ((c :: t).takeWhile valB).length)
/-- an attribute: the name's bytes, the value's, and how many are read -/
def anT (l : Txt) : Txt := l.take 1 ++ (l.drop 1).takeWhile nameB
def attV (r : Txt) (k : Nat) : Txt × Nat :=
  if r.head? = some 61 then ((valT ((r.drop 1).dropWhile spB)).1, k + 1 + ((r.drop 1).takeWhile spB).length + (valT ((r.drop 1).dropWhile spB)).2) else ([], k)
def attT (l : Txt) : Txt × Nat :=
  attV ((l.drop (anT l).length).dropWhile spB) ((anT l).length + ((l.drop (anT l).length).takeWhile spB).length)
theorem valT_cons (c : UInt8) (t : Txt) : valT (c :: t) = if c = 34 ∨ c = 39 then (t.takeWhile (· != c), (c :: t).length - ((t.dropWhile (· != c)).tail).length)
    else ((c :: t).takeWhile valB, ((c :: t).takeWhile valB).length) := rfl
theorem valT_le (l : Txt) : (valT l).2 ≤ l.length := by
  cases l with
  | nil => exact Nat.le_refl _
  | cons c t =>
    rw [valT_cons]
    split
    · exact Nat.sub_le _ _
    · exact tw_le _ _
theorem valT_len (l : Txt) : (valT l).1.length ≤ l.length := by
  cases l with
  | nil => exact Nat.le_refl _
  | cons c t =>
    rw [valT_cons]
    split
    · have := tw_le (· != c) t
      simp only [List.length_cons]; omega
    · exact tw_le _ _
theorem anT_le (l : Txt) : (anT l).length ≤ l.length := by
  cases l with
  | nil => exact Nat.le_refl _
  | cons c t =>
    have := tw_le nameB t
    simp [anT]; omega
theorem run_val (l : List Ln) (nm t : Txt) : runA (.s3 l nm) (t.dropWhile spB) = (runA (.s0 (addL l nm (valT (t.dropWhile spB)).1)) ((t.dropWhile spB).drop (valT (t.dropWhile spB)).2)).map (upN (valT (t.dropWhile spB)).2) := by
  cases h : t.dropWhile spB with
  | nil => rw [run_nil, List.drop_nil, run_nil]; rfl
  | cons c r =>
    have hs := dw_head spB t c r h
    by_cases hq : c = 34 ∨ c = 39
    · have e : valT (c :: r) = (r.takeWhile (· != c), (c :: r).length - ((r.dropWhile (· != c)).tail).length) := if_pos hq
      have hl : (r.takeWhile (· != c)).length + (r.dropWhile (· != c)).length = r.length := by rw [← List.length_append, List.takeWhile_append_dropWhile]
      have ht := List.length_tail (l := r.dropWhile (· != c))
      rw [e, run_more (go3_quote hq), scan4, List.nil_append, upN_add]
      simp only
      cases hd : r.dropWhile (· != c) with
      | nil =>
        rw [hd] at hl
        rw [List.tail_nil, run_nil, List.length_nil, List.drop_eq_nil_of_le (Nat.le_of_eq (Nat.sub_zero _).symm), run_nil]; rfl
      | cons d z =>
        rw [hd] at hl
        rw [List.tail_cons, List.length_cons]
        rw [List.length_cons] at hl
        rw [show r.length + 1 - z.length = (r.takeWhile (· != c)).length + 1 + 1 by omega, List.drop_succ_cons, ← List.drop_drop, drop_tw, hd]; rfl
    · by_cases h62 : c = 62
      · have hv : valB c = false := by rw [h62]; decide
        have e : valT (c :: r) = ([], 0) := by rw [valT_cons, if_neg hq, tw_no hv]; rfl
        rw [e, run_same (go3_end h62), List.drop_zero]; exact (upN_nil _).symm
      · have e : valT (c :: r) = ((c :: r).takeWhile valB, ((c :: r).takeWhile valB).length) := if_neg hq
        rw [e, run_same (go3_else hs hq h62), scan5, List.nil_append]
        simp only
        rw [drop_tw]
/-- what begins an attribute -/
def begB (c : UInt8) : Bool := !(spB c || c == 62 || c == 47)
theorem run_att (l : List Ln) (c : UInt8) (t : Txt) (h : begB c = true) :
    runA (.s0 l) (c :: t) = (runA (.s0 (addL l (anT (c :: t)) (attT (c :: t)).1)) ((c :: t).drop (attT (c :: t)).2)).map (upN (attT (c :: t)).2) := by
  have hb : spB c = false ∧ c ≠ 62 ∧ c ≠ 47 := by
    unfold begB at h
    cases hs : spB c <;> rw [hs] at h <;> simp at h
    exact ⟨rfl, h.1, h.2⟩
  have en : anT (c :: t) = c :: t.takeWhile nameB := rfl
  have el : (anT (c :: t)).length = (t.takeWhile nameB).length + 1 := by rw [en]; rfl
  have ed : (c :: t).drop (anT (c :: t)).length = t.dropWhile nameB := by rw [el, List.drop_succ_cons, drop_tw]
  rw [run_more (go0_name hb.1 hb.2.1 hb.2.2), scan1, scan2, upN_add, upN_add, List.cons_append, List.nil_append]
  obtain ⟨N, hN⟩ : ∃ N, anT (c :: t) = N := ⟨_, rfl⟩
  obtain ⟨r, hr⟩ : ∃ r, (t.dropWhile nameB).dropWhile spB = r := ⟨_, rfl⟩
  obtain ⟨K, hK⟩ : ∃ K, ((t.dropWhile nameB).takeWhile spB).length + ((t.takeWhile nameB).length + 1) = K := ⟨_, rfl⟩
  have hdr : (c :: t).drop K = r := by
    rw [← hK, show ((t.dropWhile nameB).takeWhile spB).length + ((t.takeWhile nameB).length + 1) = (anT (c :: t)).length + ((t.dropWhile nameB).takeWhile spB).length by rw [el]; omega, ← List.drop_drop, ed, drop_tw, hr]
  have ea : attT (c :: t) = if r.head? = some 61 then ((valT ((r.drop 1).dropWhile spB)).1, K + 1 + ((r.drop 1).takeWhile spB).length + (valT ((r.drop 1).dropWhile spB)).2) else ([], K) := by
    unfold attT
    rw [ed, hr, show (anT (c :: t)).length + ((t.dropWhile nameB).takeWhile spB).length = K by rw [el]; omega]
    rfl
  rw [show (c :: t.takeWhile nameB) = N by rw [← hN, en], hN, hr, hK, ea]
  cases r with
  | nil => rw [if_neg (by simp), run_nil]; simp only; rw [hdr, run_nil]
  | cons d z =>
    have hs := dw_head spB _ d z hr
    by_cases h61 : d = 61
    · rw [if_pos (by rw [h61]; rfl), List.drop_one, List.tail_cons, run_more (go2_eq h61), scan3, upN_add, upN_add, run_val, upN_add]
      simp only
      rw [show (c :: t).drop (K + 1 + (z.takeWhile spB).length + (valT (z.dropWhile spB)).2) = (z.dropWhile spB).drop (valT (z.dropWhile spB)).2 by
        rw [← List.drop_drop, ← List.drop_drop, ← List.drop_drop, hdr, List.drop_one, List.tail_cons, drop_tw]]
      rw [show (valT (z.dropWhile spB)).2 + ((z.takeWhile spB).length + (1 + K)) = K + 1 + (z.takeWhile spB).length + (valT (z.dropWhile spB)).2 by omega]
    · rw [if_neg (by intro h; injection h with h; exact h61 h), run_same (go2_else hs h61)]
      simp only
      rw [hdr]
theorem attT_bounds (c : UInt8) (t : Txt) : 1 ≤ (attT (c :: t)).2 ∧ (attT (c :: t)).2 ≤ (c :: t).length ∧ (attT (c :: t)).1.length ≤ (c :: t).length := by
  have en : anT (c :: t) = c :: t.takeWhile nameB := rfl
  have el : (anT (c :: t)).length = (t.takeWhile nameB).length + 1 := by rw [en]; rfl
  have ed : (c :: t).drop (anT (c :: t)).length = t.dropWhile nameB := by rw [el, List.drop_succ_cons, drop_tw]
  have h1 : (t.takeWhile nameB).length + (t.dropWhile nameB).length = t.length := by rw [← List.length_append, List.takeWhile_append_dropWhile]
  have h2 : ((t.dropWhile nameB).takeWhile spB).length + ((t.dropWhile nameB).dropWhile spB).length = (t.dropWhile nameB).length := by rw [← List.length_append, List.takeWhile_append_dropWhile]
  unfold attT
  rw [ed, el]
  unfold attV
  split
  · rename_i hh
    obtain ⟨r, hr⟩ : ∃ r, (t.dropWhile nameB).dropWhile spB = r := ⟨_, rfl⟩
    rw [hr] at hh h2 ⊢
    cases r with
    | nil => simp at hh
    | cons d z =>
      have h3 : (z.takeWhile spB).length + (z.dropWhile spB).length = z.length := by rw [← List.length_append, List.takeWhile_append_dropWhile]
      have h4 := valT_le (z.dropWhile spB)
      have h5 := valT_len (z.dropWhile spB)
      simp only [List.drop_succ_cons, List.drop_zero, List.length_cons] at *
      omega
  · simp only [List.length_cons, List.length_nil]
    omega
end Go.Proofs.YtcamkphanakkdaaDoor

/-! What the document's add of layer 8 does with its own list, and what Same tells of two. -/
namespace Go.Proofs.YtcamkphanakkdaaDoor
open Go.RowKit Go.Lib

/-- an own row stands where the memory only grows -/
theorem own_below {w w' : World} {base e size : Nat} {v : Value} {n : Nat} {xs : List Value} (h : w.ownsRow base e size v n xs) (hb : Below w.heap.size w w') : w'.ownsRow base e size v n xs :=
  h.kept (row := none) ⟨hb.os, hb.tape, hb.output, hb.size, fun k hk _ => hb.block k hk⟩ (Classical.em _)
theorem any_not (l : List Ln) (N : Txt) (h : ∀ j (hj : j < l.length), l[j].1 ≠ N) : l.any (fun r => r.1 == N) = false := by
  rw [List.any_eq_false]
  intro r hr
  obtain ⟨j, hj, rfl⟩ := List.getElem_of_mem hr
  simpa using h j hj
theorem any_is (l : List Ln) (N : Txt) (j : Nat) (hj : j < l.length) (h : l[j].1 = N) : l.any (fun r => r.1 == N) = true := by
  rw [List.any_eq_true]
  exact ⟨l[j], List.getElem_mem hj, by simpa using h⟩

end Go.Proofs.YtcamkphanakkdaaDoor

/-! What the document's Read of layer 8 answers, for every text and place. -/
namespace Go.Proofs.YtcamkphanakkdaaDoor
open Go.RowKit Go.Lib

theorem at_more {s : ByteArray} {i : Nat} (h : i < s.size) {a a' : At} {T : Option Told} (hg : goA a s[i] (s.data.toList.drop (i + 1)) = .more a') (hT : runI i a (s.data.toList.drop i) = T) : runI (i + 1) a' (s.data.toList.drop (i + 1)) = T := by
  rw [drop_at s i h] at hT; exact runI_more hg hT
theorem at_done {s : ByteArray} {i : Nat} (h : i < s.size) {a : At} {l : List Ln} {self : Bool} {n : Nat} {T : Option Told} (hg : goA a s[i] (s.data.toList.drop (i + 1)) = .done l self n) (hT : runI i a (s.data.toList.drop i) = T) : T = some (l, self, i + n) := by
  rw [drop_at s i h] at hT; exact runI_done hg hT
theorem at_same {s : ByteArray} {i : Nat} (h : i < s.size) {a b : At} {T : Option Told} (hg : goA a s[i] (s.data.toList.drop (i + 1)) = goA b s[i] (s.data.toList.drop (i + 1))) (hT : runI i a (s.data.toList.drop i) = T) : runI i b (s.data.toList.drop i) = T := by
  rw [drop_at s i h] at hT ⊢; exact runI_same hg hT
theorem at_end {s : ByteArray} {i : Nat} (h : ¬ i < s.size) {a : At} {T : Option Told} (hT : runI i a (s.data.toList.drop i) = T) : T = none := by
  rw [List.drop_eq_nil_of_le (by rw [← Lib.size_eq]; omega)] at hT; exact runI_nil hT
theorem head_next (s : ByteArray) (i : Nat) : (s.data.toList.drop (i + 1)).head? = if h : i + 1 < s.size then some s[i + 1] else none := by
  by_cases h : i + 1 < s.size
  · rw [dif_pos h, drop_at s (i + 1) h]; rfl
  · rw [dif_neg h, List.drop_eq_nil_of_le (by rw [← Lib.size_eq]; omega)]; rfl
theorem add_one (s : ByteArray) (i : Nat) (h : i < s.size) (N : ByteArray) : (N ++ s.extract i (i + 1)).data.toList = N.data.toList ++ [s[i]] := by
  rw [ByteArray.data_append, Array.toList_append, extract_one s i h]
theorem results_tmp4 {fn : Func} {t u v x : Tmp} (h : fn.results = #[.tmp t, .tmp u, .tmp v, .tmp x]) (tmps : Array Value) (P : Program) (w : World) :
    (results fn tmps).run P w = .ok (.tuple #[tmps.getD t undef, tmps.getD u undef, tmps.getD v undef, tmps.getD x undef]) w := by
  simp [results, h]
/-- what Read answers: attributes, whether the tag closes itself, where it ends, whether it does -/
def TellP (s : ByteArray) (a : Int) (w : World) (e : Ending) (w' : World) : Prop :=
  ∃ ad len cap l self n ok, e = .returned (.tuple #[.slice ad len cap, .bool self, .int .i64 n, .bool ok]) ∧ IsRows w' ad len cap l ∧ attrsV s.data.toList a = (l, self, n, ok) ∧ Below w.heap.size w w'
/-- the same, and the attributes lie in new memory -/
def TellF (s : ByteArray) (a : Int) (w : World) (e : Ending) (w' : World) : Prop :=
  ∃ ad len cap l self n ok, e = .returned (.tuple #[.slice ad len cap, .bool self, .int .i64 n, .bool ok]) ∧ IsRows w' ad len cap l ∧ attrsV s.data.toList a = (l, self, n, ok) ∧ Below w.heap.size w w' ∧ ∀ k, (Value.slice ad len cap).ownBlock = some k → w.heap.size ≤ k
theorem TellF.tell {s : ByteArray} {a : Int} {w : World} {e : Ending} {w' : World} (h : TellF s a w e w') : TellP s a w e w' := by
  obtain ⟨ad, len, cap, l, self, n, ok, h1, h2, h3, h4, -⟩ := h
  exact ⟨ad, len, cap, l, self, n, ok, h1, h2, h3, h4⟩
/-- how far a state is from one that takes a byte -/
def rankI (k : Int) : Nat := if k = 1 ∨ k = 3 then 2 else if k = 2 ∨ k = 5 then 1 else 0

end Go.Proofs.YtcamkphanakkdaaDoor

/-! What package attrs' functions answer, but for Read: where bytes of a kind end, a value, an attribute. -/
namespace Go.Proofs.YtcamkphanakkdaaDoor
open Go.RowKit Go.Lib

theorem spB_int (c : UInt8) (q : Int) (h : (c.toNat : Int) = q) : spaceI q = spB c := by rw [← h]; rfl
theorem beq_int (c : UInt8) (q : Int) (n : Nat) (hn : n < 256) (h : (c.toNat : Int) = q) : (q == (n : Int)) = (c == UInt8.ofNat n) := by rw [← h]; exact u8_beq c n hn

/-- where bytes of a kind end -/
def bhN (p : UInt8 → Bool) (l : Txt) (i : Nat) : Nat := i + ((l.drop i).takeWhile p).length
theorem bhN_yes (p : UInt8 → Bool) (s : ByteArray) (i : Nat) (h : i < s.size) (hp : p s[i] = true) : bhN p s.data.toList i = bhN p s.data.toList (i + 1) := by
  unfold bhN
  rw [drop_at s i h, tw_yes hp, List.length_cons]; omega
theorem bhN_no (p : UInt8 → Bool) (s : ByteArray) (i : Nat) (h : i < s.size) (hp : p s[i] = false) : bhN p s.data.toList i = i := by
  unfold bhN
  rw [drop_at s i h, tw_no hp]; rfl
theorem bhN_end (p : UInt8 → Bool) (s : ByteArray) : bhN p s.data.toList s.size = s.size := by
  unfold bhN
  rw [List.drop_eq_nil_of_le (by rw [← Lib.size_eq]; exact Nat.le_refl _)]; rfl
theorem bhN_le (p : UInt8 → Bool) (s : ByteArray) (i : Nat) (h : i ≤ s.size) : i ≤ bhN p s.data.toList i ∧ bhN p s.data.toList i ≤ s.size := by
  have h1 := tw_le p (s.data.toList.drop i)
  rw [List.length_drop, ← Lib.size_eq] at h1
  unfold bhN
  omega

end Go.Proofs.YtcamkphanakkdaaDoor

/-! What package attrs' valueAt and attribute answer. -/
namespace Go.Proofs.YtcamkphanakkdaaDoor
open Go.RowKit Go.Lib

theorem bh_drop (p : UInt8 → Bool) (l : Txt) (i : Nat) : l.drop (bhN p l i) = (l.drop i).dropWhile p := by
  unfold bhN; rw [← List.drop_drop, drop_tw]
theorem val_bare (l : Txt) (h : ∀ c, l.head? = some c → ¬ (c = 34 ∨ c = 39)) : valT l = (l.takeWhile valB, (l.takeWhile valB).length) := by
  cases l with
  | nil => rfl
  | cons c t => rw [valT_cons, if_neg (h c rfl)]
theorem att_at (l : Txt) (i : Nat) (h : i < l.length) :
    (l.drop i).take (bhN nameB l (i + 1) - i) = anT (l.drop i) ∧
    attT (l.drop i) = if (l.drop (bhN spB l (bhN nameB l (i + 1)))).head? = some 61
      then ((valT (l.drop (bhN spB l (bhN spB l (bhN nameB l (i + 1)) + 1)))).1, bhN spB l (bhN spB l (bhN nameB l (i + 1)) + 1) + (valT (l.drop (bhN spB l (bhN spB l (bhN nameB l (i + 1)) + 1)))).2 - i)
      else ([], bhN spB l (bhN nameB l (i + 1)) - i) := by
  have ht : l.drop i = l[i] :: l.drop (i + 1) := List.drop_eq_getElem_cons h
  have ea : anT (l.drop i) = l[i] :: (l.drop (i + 1)).takeWhile nameB := by rw [ht]; rfl
  have el : (anT (l.drop i)).length = ((l.drop (i + 1)).takeWhile nameB).length + 1 := by rw [ea]; rfl
  have e1 : bhN nameB l (i + 1) = i + (anT (l.drop i)).length := by rw [el]; unfold bhN; omega
  refine ⟨?_, ?_⟩
  · rw [e1, Nat.add_sub_cancel_left, el, ht, List.take_succ_cons, take_tw, ← ht, ea]
  · unfold attT
    rw [List.drop_drop, ← e1]
    obtain ⟨a, ha⟩ : ∃ a, bhN nameB l (i + 1) = a := ⟨_, rfl⟩
    rw [ha] at e1 ⊢
    have e2 : (anT (l.drop i)).length + ((l.drop a).takeWhile spB).length = bhN spB l a - i := by unfold bhN; omega
    have hb1 : i + 1 ≤ bhN spB l a := by unfold bhN; omega
    rw [e2, ← bh_drop]
    obtain ⟨b, hb⟩ : ∃ b, bhN spB l a = b := ⟨_, rfl⟩
    rw [hb] at hb1 ⊢
    unfold attV
    split
    · rw [List.drop_drop, ← bh_drop]
      congr 1
      have e3 : b - i + 1 + ((l.drop (b + 1)).takeWhile spB).length = bhN spB l (b + 1) - i := by unfold bhN; omega
      have hb3 : i ≤ bhN spB l (b + 1) := by unfold bhN; omega
      rw [e3]; omega
    · rfl
theorem low_is (n : Nat) (hn : n < 256) (hl : ¬ (97 ≤ n ∧ n ≤ 122)) (hu : ¬ (65 ≤ n ∧ n ≤ 90)) (c : UInt8) : (UInt8.ofNat n == lowB c) = (c == UInt8.ofNat n) := by
  have h1 := lowB_int c
  have h2 : (UInt8.ofNat n).toNat = n := by rw [UInt8.toNat_ofNat']; exact Nat.mod_eq_of_lt hn
  have h3 := c.toNat_lt
  rw [Bool.eq_iff_iff, beq_iff_eq, beq_iff_eq, ← UInt8.toNat_inj, ← UInt8.toNat_inj, h2]
  by_cases hc : 65 ≤ (c.toNat : Int) ∧ (c.toNat : Int) ≤ 90
  · rw [show lowI (c.toNat : Int) = (c.toNat : Int) + 32 from if_pos hc] at h1
    constructor <;> intro h <;> omega
  · rw [show lowI (c.toNat : Int) = (c.toNat : Int) from if_neg hc] at h1
    constructor <;> intro h <;> omega
theorem beg_eq (s : ByteArray) (i : Nat) (h : i ≤ s.size) : begS s (i : Int) ⟨#[61]⟩ = decide ((s.data.toList.drop i).head? = some 61) := by
  unfold begS
  rw [decide_eq_true (show 0 ≤ (i : Int) ∧ (i : Int) ≤ (s.size : Int) by omega), Bool.true_and, show ((i : Nat) : Int).toNat = i by omega]
  show [61].isPrefixOf _ = _
  cases s.data.toList.drop i with
  | nil => rfl
  | cons c t =>
    rw [lowL_cons, List.isPrefixOf_cons_cons, List.isPrefixOf_nil_left, Bool.and_true, show ((61 : UInt8) == lowB c) = (c == 61) from low_is 61 (by decide) (by decide) (by decide) c]
    rw [Bool.eq_iff_iff]; simp
theorem beg_close (s : ByteArray) (i : Nat) (h : i ≤ s.size) : begS s (i : Int) ⟨#[47, 62]⟩ = decide ((s.data.toList.drop i).head? = some 47 ∧ (s.data.toList.drop (i + 1)).head? = some 62) := by
  unfold begS
  rw [decide_eq_true (show 0 ≤ (i : Int) ∧ (i : Int) ≤ (s.size : Int) by omega), Bool.true_and, show ((i : Nat) : Int).toNat = i by omega, ← List.drop_drop]
  show [47, 62].isPrefixOf _ = _
  cases s.data.toList.drop i with
  | nil => rfl
  | cons c t =>
    cases t with
    | nil => 
      rw [lowL_cons, List.isPrefixOf_cons_cons]
      simp [lowL]
    | cons d r =>
      rw [lowL_cons, List.isPrefixOf_cons_cons, lowL_cons, List.isPrefixOf_cons_cons, List.isPrefixOf_nil_left, Bool.and_true, show ((47 : UInt8) == lowB c) = (c == 47) from low_is 47 (by decide) (by decide) (by decide) c,
        show ((62 : UInt8) == lowB d) = (d == 62) from low_is 62 (by decide) (by decide) (by decide) d]
      rw [Bool.eq_iff_iff]; simp

end Go.Proofs.YtcamkphanakkdaaDoor

/-! A map from texts to bools that the call itself made, told by what a look-up answers. -/
namespace Go.Proofs.YtcamkphanakkdaaDoor
open Go.RowKit Go.Lib Go.WideMaps Go.Maps

theorem plainBool_inv {H : Type} {P : Program} {e : TypeId} (he : P.underlying e = some .bool) {v : Value} {z : DataW H × List MemPlace} (h : plainElem P e v = some z) : ∃ b, v = .bool b ∧ z = (.lit (.bool b), []) := by
  unfold plainElem at h
  rw [he] at h
  cases v <;> simp at h
  exact ⟨_, rfl, h.symm⟩
/-- the map's block, at most n entries, and what it answers at each text -/
def MapIs (w : World) (P : Program) (k e : TypeId) (b n : Nat) (f : List UInt8 → Bool) : Prop :=
  ∃ D : DataW Unit, w.ownsMap P k (plainElem P e) b n D ∧ IsMap D ∧ ∀ t : List UInt8, D.atKey (.string t) (.lit (.bool false)) = .lit (.bool (f t))
theorem MapIs.kept {w w' : World} {P : Program} {k e : TypeId} {b n : Nat} {f : List UInt8 → Bool} {row : Option Nat} (h : MapIs w P k e b n f) (hg : w.grownBy w' row) (hne : some b ≠ row) : MapIs w' P k e b n f := by
  obtain ⟨D, h1, h2, h3⟩ := h
  exact ⟨D, h1.kept hg hne, h2, h3⟩
theorem MapIs.below {w w' : World} {P : Program} {k e : TypeId} {b n : Nat} {f : List UInt8 → Bool} (h : MapIs w P k e b n f) (hb : Below w.heap.size w w') : MapIs w' P k e b n f :=
  h.kept (row := none) ⟨hb.os, hb.tape, hb.output, hb.size, fun k hk _ => hb.block k hk⟩ (by simp)
theorem MapIs.alloc {w : World} {P : Program} {k e : TypeId} {b n : Nat} {f : List UInt8 → Bool} (h : MapIs w P k e b n f) (o : Obj) : MapIs (w.alloc o) P k e b n f :=
  h.kept (World.grownBy_alloc w o none) (by simp)
theorem MapIs.lt {w : World} {P : Program} {k e : TypeId} {b n : Nat} {f : List UInt8 → Bool} (h : MapIs w P k e b n f) : b < w.heap.size := by
  obtain ⟨D, h1, -⟩ := h
  exact h1.lt
theorem mapIs_made (w : World) (P : Program) (k e : TypeId) : MapIs (w.alloc (.map #[] 0)) P k e w.heap.size 0 (fun _ => false) :=
  ⟨.map [], World.ownsMap_made _ _ _ _, isMap_empty, fun _ => rfl⟩

/-- a look-up at a text -/
theorem wpList_look_bool {P : Program} (w : World) {ops : Array Oper} {rest : List Oper} {o : Oper} {a : Act} {Q : Exit → Act → World → Prop}
    (hg : o.guard = none) (m x : Operand) (t : TypeId) (hop : o.op = Op.lookup t m x false)
    (k e : TypeId) (hk : P.underlying k = some .string) (ht : P.underlying t = some (.map k e)) (he : P.underlying e = some .bool) (hz : (zeroValue e).run P w = .ok (.bool false) w) (b n : Nat) (f : List UInt8 → Bool)
    (hm : a.eval m = .map (some b)) (hown : MapIs w P k e b n f) (s : ByteArray) (hs : s.size ≤ maxLen) (hx : a.eval x = .string s)
    (hK : wpList P ops Q rest (a.put o.dst (.bool (f s.data.toList))) w) :
    wpList P ops Q (o :: rest) a w := by
  refine wpList_plain hg fun K' hK' => ?_
  obtain ⟨D, h1, h2, h3⟩ := hown
  obtain ⟨v, ps, hrun, hv⟩ := h1.lookup (string_keyed hk) ht hz (plainElem_bool he false) (keyOf_string_mk hk hs)
  obtain ⟨c, rfl, hc⟩ := plainBool_inv he hv
  rw [h3] at hc
  simp only [Prod.mk.injEq, DataW.lit.injEq, Lit.bool.injEq] at hc
  rw [← hc.1] at hrun
  unfold Oper.wp
  simp [execOp, hop, hm, hx, hrun, Result.andThen]
  exact hK' _ _ hK
/-- a store at a text -/
theorem wpList_store_bool {P : Program} (w : World) {ops : Array Oper} {rest : List Oper} {o : Oper} {a : Act} {Q : Exit → Act → World → Prop}
    (hg : o.guard = none) (m x v : Operand) (t : TypeId) (hop : o.op = Op.mapUpdate t m x v)
    (k e : TypeId) (hk : P.underlying k = some .string) (ht : P.underlying t = some (.map k e)) (he : P.underlying e = some .bool) (b n : Nat) (f : List UInt8 → Bool)
    (hm : a.eval m = .map (some b)) (hown : MapIs w P k e b n f) (hn : n < maxLen) (s : ByteArray) (hs : s.size ≤ maxLen) (c : Bool) (key val : Value) (hx : a.eval x = key) (hv : a.eval v = val) (hkey : key = .string s) (hval : val = .bool c)
    (hK : ∀ w', MapIs w' P k e b (n + 1) (fun u => if u = s.data.toList then c else f u) → w.grownBy w' (some b) → wpList P ops Q rest (a.put o.dst undef) w') :
    wpList P ops Q (o :: rest) a w := by
  subst hkey; subst hval
  obtain ⟨D, h1, h2, h3⟩ := hown
  refine wpList_mapUpdate_own w hg m x v t hop k e (string_keyed hk) ht (plainElem P e) b n D hm h1 hn (.string s) (.bool c) _ hx hv (keyOf_string_mk hk hs) (.lit (.bool c)) [] (plainElem_bool he c) ?_
  intro w' h1' hgr
  refine hK w' ⟨_, h1', h2.put _ _, fun u => ?_⟩ hgr
  show _ = DataW.lit (Lit.bool (if u = s.data.toList then c else f u))
  by_cases hu : u = s.data.toList
  · rw [if_pos hu, hu]
    exact atKey_put_same h2 (show WideAt.IsKeyLit (.string s.data.toList) from trivial) _ _
  · rw [if_neg hu, atKey_put_other (fun e => hu (by injection e)) _ _, h3]
end Go.Proofs.YtcamkphanakkdaaDoor

/-! What package attrs' Read answers. -/
namespace Go.Proofs.YtcamkphanakkdaaDoor
open Go.RowKit Go.Lib Go.Maps

theorem zeroBool (w : World) : (zeroValue 4).run Tryd.prog w = .ok (.bool false) w := by kernel_rfl
/-- the frame at the label -/
def frR (s : ByteArray) (a : Int) (lv : Value) (B : Nat) (u : Nat → Value) : Act :=
  { tmps := #[.string s, .int .i64 a, u 2, u 3, lv, u 5, u 6, u 7, .map (some B), u 9, u 10, u 11, u 12, u 13, u 14, u 15, u 16, u 17, u 18, u 19, u 20, u 21, u 22, u 23, u 24, u 25, u 26, u 27, u 28, u 29, u 30, u 31, u 32, u 33, u 34, u 35, u 36, u 37, u 38, u 39, u 40, u 41, u 42, u 43, u 44, u 45, u 46, u 47, u 48, u 49, u 50, u 51, u 52, u 53, u 54, u 55, u 56, u 57, u 58, u 59, u 60, u 61, u 62, u 63, u 64, u 65, u 66, u 67, u 68, u 69, u 70, u 71, u 72, u 73, u 74, u 75, u 76, u 77], defers := [] }
/-- which names are there -/
def namesF (l : List Ln) : Txt → Bool := fun k => l.any (fun r => r.1 == k)
theorem names_add (l : List Ln) (n v : Txt) : (fun u => decide (u = n) || namesF l u) = namesF (l ++ [(n, v)]) := by
  funext u
  unfold namesF
  rw [List.any_append, List.any_cons, List.any_nil, Bool.or_false]
  by_cases h : u = n
  · rw [decide_eq_true h, h, beq_self_eq_true n, Bool.or_true, Bool.true_or]
  · rw [decide_eq_false h, Bool.false_or, show (n == u) = false by rw [beq_eq_false_iff_ne]; exact fun e => h e.symm, Bool.or_false]
theorem attr_step (l : Txt) (i : Nat) (h : i < l.length) (hb : begB l[i] = true) (ls : List Ln) (T : Option Told) (hT : runI i (.s0 ls) (l.drop i) = T) :
    runI (i + (attT (l.drop i)).2) (.s0 (addL ls (anT (l.drop i)) (attT (l.drop i)).1)) (l.drop (i + (attT (l.drop i)).2)) = T := by
  rw [← hT]
  unfold runI
  have ht : l.drop i = l[i] :: l.drop (i + 1) := List.drop_eq_getElem_cons h
  rw [← List.drop_drop]
  rw [ht]
  rw [run_att ls l[i] (l.drop (i + 1)) hb, upN_add, Nat.add_comm]

end Go.Proofs.YtcamkphanakkdaaDoor

/-! What follows of what stands in a tag: where it ends, what its names are like, what plays no part: plain mathematics. -/
namespace Go.Proofs.YtcamkphanakkdaaDoor
open Go.RowKit Go.Lib

/-- a name's bytes, as they stand there -/
def RawP (nm : Txt) : Prop := ∃ c t, nm = c :: t ∧ spB c = false ∧ c ≠ 62 ∧ c ≠ 47 ∧ ∀ x ∈ t, endB x = false
def InvA (P : List Ln → Prop) : At → Prop
  | .s0 l => P l
  | .s1 l nm => P l ∧ RawP nm
  | .s2 l nm => P l ∧ RawP nm
  | .s3 l nm => P l ∧ RawP nm
  | .s4 l nm _ _ => P l ∧ RawP nm
  | .s5 l nm _ => P l ∧ RawP nm
def StepP (P : List Ln → Prop) : Step → Prop
  | .more a => InvA P a
  | .done l _ _ => P l
theorem go0_inv {P : List Ln → Prop} {l : List Ln} {c : UInt8} {t : Txt} (h : P l) : StepP P (go0 l c t) := by
  unfold go0
  by_cases hs : spB c = true
  · rw [if_pos hs]; exact h
  · rw [if_neg hs]
    by_cases h62 : c = 62
    · rw [if_pos h62]; exact h
    · rw [if_neg h62]
      by_cases h47 : c = 47
      · rw [if_pos h47]; split <;> exact h
      · rw [if_neg h47]
        exact ⟨h, c, [], rfl, by simpa using hs, h62, h47, by simp⟩
theorem go2_inv {P : List Ln → Prop} (hadd : ∀ l nm v, P l → RawP nm → P (addL l nm v)) {l : List Ln} {nm : Txt} {c : UInt8} {t : Txt} (h : P l ∧ RawP nm) : StepP P (go2 l nm c t) := by
  unfold go2
  split
  · exact h
  · split
    · exact h
    · exact go0_inv (hadd _ _ _ h.1 h.2)
theorem go5_inv {P : List Ln → Prop} (hadd : ∀ l nm v, P l → RawP nm → P (addL l nm v)) {l : List Ln} {nm v : Txt} {c : UInt8} {t : Txt} (h : P l ∧ RawP nm) : StepP P (go5 l nm v c t) := by
  unfold go5
  split
  · exact go0_inv (hadd _ _ _ h.1 h.2)
  · exact h
theorem goA_inv {P : List Ln → Prop} (hadd : ∀ l nm v, P l → RawP nm → P (addL l nm v)) {a : At} {c : UInt8} {t : Txt} (h : InvA P a) : StepP P (goA a c t) := by
  cases a with
  | s0 l => exact go0_inv h
  | s1 l nm =>
    show StepP P (go1 l nm c t)
    unfold go1
    split
    · exact go2_inv hadd h
    · rename_i he
      obtain ⟨hl, d, r, rfl, h1, h2, h3, h4⟩ := h
      refine ⟨hl, d, r ++ [c], rfl, h1, h2, h3, fun x hx => ?_⟩
      rcases List.mem_append.1 hx with hx | hx
      · exact h4 x hx
      · rw [List.mem_singleton.1 hx]; simpa using he
  | s2 l nm => exact go2_inv hadd h
  | s3 l nm =>
    show StepP P (go3 l nm c t)
    unfold go3
    split
    · exact h
    · split
      · exact h
      · split
        · exact go0_inv (hadd _ _ _ h.1 h.2)
        · exact go5_inv hadd h
  | s4 l nm v q =>
    show StepP P (go4 l nm v q c)
    unfold go4
    split
    · exact hadd _ _ _ h.1 h.2
    · exact h
  | s5 l nm v => exact go5_inv hadd h
theorem run_inv {P : List Ln → Prop} (hadd : ∀ l nm v, P l → RawP nm → P (addL l nm v)) : ∀ (t : Txt) (a : At) (l : List Ln) (self : Bool) (n : Nat), InvA P a → runA a t = some (l, self, n) → P l
  | [], a, l, self, n, _, h => by rw [run_nil] at h; exact absurd h (by simp)
  | c :: t, a, l, self, n, hi, h => by
    have hs := goA_inv hadd (c := c) (t := t) hi
    cases hg : goA a c t with
    | done l' self' n' =>
      rw [hg] at hs
      rw [run_done hg] at h
      simp only [Option.some.injEq, Prod.mk.injEq] at h
      rw [← h.1]; exact hs
    | more a' =>
      rw [hg] at hs
      rw [run_more hg] at h
      cases hr : runA a' t with
      | none => rw [hr] at h; exact absurd h (by simp)
      | some r =>
        obtain ⟨l', self', n'⟩ := r
        rw [hr] at h
        simp only [Option.map_some, upN, Option.some.injEq, Prod.mk.injEq] at h
        rw [← h.1]
        exact run_inv hadd t a' l' self' n' hs hr

/-- where a tag ends -/
theorem go0_done {l0 : List Ln} {c : UInt8} {t : Txt} {l : List Ln} {self : Bool} {n : Nat} (h : go0 l0 c t = .done l self n) : (self = false ∧ n = 1 ∧ c = 62) ∨ (self = true ∧ n = 2 ∧ c = 47 ∧ t.head? = some 62) := by
  unfold go0 at h
  by_cases hs : spB c = true
  · rw [if_pos hs] at h; cases h
  · rw [if_neg hs] at h
    by_cases h62 : c = 62
    · rw [if_pos h62] at h; cases h; exact .inl ⟨rfl, rfl, h62⟩
    · rw [if_neg h62] at h
      by_cases h47 : c = 47
      · rw [if_pos h47] at h
        by_cases ht : t.head? = some 62
        · rw [if_pos ht] at h; cases h; exact .inr ⟨rfl, rfl, h47, ht⟩
        · rw [if_neg ht] at h; cases h
      · rw [if_neg h47] at h; cases h
theorem goA_done {a : At} {c : UInt8} {t : Txt} {l : List Ln} {self : Bool} {n : Nat} (h : goA a c t = .done l self n) : (self = false ∧ n = 1 ∧ c = 62) ∨ (self = true ∧ n = 2 ∧ c = 47 ∧ t.head? = some 62) := by
  have h2 : ∀ l0 nm, go2 l0 nm c t = .done l self n → (self = false ∧ n = 1 ∧ c = 62) ∨ (self = true ∧ n = 2 ∧ c = 47 ∧ t.head? = some 62) := by
    intro l0 nm h
    unfold go2 at h
    split at h
    · cases h
    · split at h
      · cases h
      · exact go0_done h
  have h5 : ∀ l0 nm v, go5 l0 nm v c t = .done l self n → (self = false ∧ n = 1 ∧ c = 62) ∨ (self = true ∧ n = 2 ∧ c = 47 ∧ t.head? = some 62) := by
    intro l0 nm v h
    unfold go5 at h
    split at h
    · exact go0_done h
    · cases h
  cases a with
  | s0 l0 => exact go0_done h
  | s1 l0 nm =>
    have h : go1 l0 nm c t = .done l self n := h
    unfold go1 at h
    split at h
    · exact h2 _ _ h
    · cases h
  | s2 l0 nm => exact h2 _ _ h
  | s3 l0 nm =>
    have h : go3 l0 nm c t = .done l self n := h
    unfold go3 at h
    split at h
    · cases h
    · split at h
      · cases h
      · split at h
        · exact go0_done h
        · exact h5 _ _ _ h
  | s4 l0 nm v q =>
    have h : go4 l0 nm v q c = .done l self n := h
    unfold go4 at h
    split at h <;> cases h
  | s5 l0 nm v => exact h5 _ _ _ h
theorem run_ends : ∀ (t : Txt) (a : At) (l : List Ln) (self : Bool) (n : Nat), runA a t = some (l, self, n) → 1 ≤ n ∧ n ≤ t.length ∧ t.getD (n - 1) 0 = 62 ∧ (self = true → 2 ≤ n ∧ t.getD (n - 2) 0 = 47)
  | [], a, l, self, n, h => by rw [run_nil] at h; exact absurd h (by simp)
  | c :: t, a, l, self, n, h => by
    cases hg : goA a c t with
    | done l' self' n' =>
      rw [run_done hg] at h
      simp only [Option.some.injEq, Prod.mk.injEq] at h
      obtain ⟨-, rfl, rfl⟩ := h
      rcases goA_done hg with ⟨rfl, rfl, rfl⟩ | ⟨rfl, rfl, rfl, ht⟩
      · exact ⟨Nat.le_refl _, by simp, rfl, fun h => by cases h⟩
      · cases t with
        | nil => exact absurd ht (by simp)
        | cons d r =>
          simp only [List.head?_cons, Option.some.injEq] at ht
          subst ht
          exact ⟨by decide, by simp, rfl, fun _ => ⟨Nat.le_refl _, rfl⟩⟩
    | more a' =>
      rw [run_more hg] at h
      cases hr : runA a' t with
      | none => rw [hr] at h; exact absurd h (by simp)
      | some r =>
        obtain ⟨l', self', n'⟩ := r
        rw [hr] at h
        simp only [Option.map_some, upN, Option.some.injEq, Prod.mk.injEq] at h
        obtain ⟨-, rfl, rfl⟩ := h
        obtain ⟨h1, h2, h3, h4⟩ := run_ends t a' l' self' n' hr
        refine ⟨by omega, by rw [List.length_cons]; omega, ?_, fun hs => ?_⟩
        · rw [show n' + 1 - 1 = (n' - 1) + 1 by omega, List.getD_cons_succ]; exact h3
        · obtain ⟨h5, h6⟩ := h4 hs
          refine ⟨by omega, ?_⟩
          rw [show n' + 1 - 2 = (n' - 2) + 1 by omega, List.getD_cons_succ]; exact h6

/-- P8.2: what names are like, as they are told -/
def byteOk (y : UInt8) : Prop := y.toNat ≠ 32 ∧ y.toNat ≠ 10 ∧ y.toNat ≠ 9 ∧ y.toNat ≠ 12 ∧ y.toNat ≠ 47 ∧ y.toNat ≠ 62 ∧ y.toNat ≠ 0 ∧ ¬ (65 ≤ y.toNat ∧ y.toNat ≤ 90)
def NameOk (n : Txt) : Prop := ∃ c t, n = c :: t ∧ byteOk c ∧ ∀ x ∈ t, byteOk x ∧ x.toNat ≠ 61
theorem mem_clean (y : UInt8) : ∀ l : Txt, y ∈ cleanL l → (y ∈ l ∧ y ≠ 0) ∨ y = 239 ∨ y = 191 ∨ y = 189
  | [], h => by simp [cleanL] at h
  | c :: l, h => by
    have ih := mem_clean y l
    rw [cleanL] at h
    by_cases hc : c = 0
    · rw [if_pos hc] at h
      simp only [List.mem_cons] at h
      rcases h with h | h | h | h
      · exact .inr (.inl h)
      · exact .inr (.inr (.inl h))
      · exact .inr (.inr (.inr h))
      · rcases ih h with h | h
        · exact .inl ⟨List.mem_cons_of_mem _ h.1, h.2⟩
        · exact .inr h
    · rw [if_neg hc] at h
      rcases List.mem_cons.1 h with h | h
      · exact .inl ⟨by rw [h]; exact List.mem_cons_self, by rw [h]; exact hc⟩
      · rcases ih h with h | h
        · exact .inl ⟨List.mem_cons_of_mem _ h.1, h.2⟩
        · exact .inr h
theorem clean_no0 (l : Txt) : 0 ∉ cleanL l := by
  intro h
  rcases mem_clean 0 l h with h | h | h | h
  · exact h.2 rfl
  · exact absurd h (by decide)
  · exact absurd h (by decide)
  · exact absurd h (by decide)
theorem bad_ok : byteOk 239 ∧ byteOk 191 ∧ byteOk 189 := by refine ⟨?_, ?_, ?_⟩ <;> (unfold byteOk; decide)
theorem low_ok (c : UInt8) (hs : spB c = false) (h62 : c ≠ 62) (h47 : c ≠ 47) (h0 : lowB c ≠ 0) : byteOk (lowB c) ∧ (c ≠ 61 → (lowB c).toNat ≠ 61) := by
  have h := lowB_int c
  unfold spB spaceI at hs
  rw [decide_eq_false_iff_not] at hs
  have h1 : c.toNat ≠ 62 := fun e => h62 (by rw [← UInt8.toNat_inj, e]; rfl)
  have h2 : c.toNat ≠ 47 := fun e => h47 (by rw [← UInt8.toNat_inj, e]; rfl)
  have h3 : (lowB c).toNat ≠ 0 := fun e => h0 (by rw [← UInt8.toNat_inj, e]; rfl)
  unfold byteOk
  unfold lowI at h
  refine ⟨?_, fun h61 => ?_⟩
  · split at h <;> omega
  · have h4 : c.toNat ≠ 61 := fun e => h61 (by rw [← UInt8.toNat_inj, e]; rfl)
    split at h <;> omega
theorem end_parts (x : UInt8) (h : endB x = false) : spB x = false ∧ x ≠ 47 ∧ x ≠ 62 ∧ x ≠ 61 := by
  unfold endB at h
  rw [Bool.or_eq_false_iff, Bool.or_eq_false_iff, Bool.or_eq_false_iff] at h
  exact ⟨h.1.1.1, by simpa using h.1.1.2, by simpa using h.1.2, by simpa using h.2⟩
theorem tellN_ok (nm : Txt) (h : RawP nm) : NameOk (tellN nm) := by
  obtain ⟨c, t, rfl, h1, h2, h3, h4⟩ := h
  have ht : ∀ y ∈ cleanL (lowL t), byteOk y ∧ y.toNat ≠ 61 := by
    intro y hy
    rcases mem_clean y _ hy with ⟨hm, h0⟩ | rfl | rfl | rfl
    · unfold lowL at hm
      obtain ⟨x, hx, rfl⟩ := List.mem_map.1 hm
      obtain ⟨e1, e2, e3, e4⟩ := end_parts x (h4 x hx)
      obtain ⟨k1, k2⟩ := low_ok x e1 e3 e2 h0
      exact ⟨k1, k2 e4⟩
    · exact ⟨bad_ok.1, by decide⟩
    · exact ⟨bad_ok.2.1, by decide⟩
    · exact ⟨bad_ok.2.2, by decide⟩
  unfold tellN
  rw [lowL_cons, cleanL]
  by_cases h0 : lowB c = 0
  · rw [if_pos h0]
    refine ⟨239, _, rfl, bad_ok.1, fun x hx => ?_⟩
    simp only [List.mem_cons] at hx
    rcases hx with rfl | rfl | hx
    · exact ⟨bad_ok.2.1, by decide⟩
    · exact ⟨bad_ok.2.2, by decide⟩
    · exact ht x hx
  · rw [if_neg h0]
    exact ⟨_, _, rfl, (low_ok c h1 h2 h3 h0).1, ht⟩
/-- attributes as they are told -/
def GoodA (l : List Ln) : Prop := l.Pairwise (fun a b => a.1 ≠ b.1) ∧ ∀ r ∈ l, NameOk r.1 ∧ 0 ∉ r.2
theorem good_add (l : List Ln) (nm v : Txt) (h : GoodA l) (hr : RawP nm) : GoodA (addL l nm v) := by
  unfold addL
  by_cases ha : l.any (fun r => r.1 == tellN nm) = true
  · rw [if_pos ha]; exact h
  · rw [if_neg ha]
    rw [Bool.not_eq_true, List.any_eq_false] at ha
    refine ⟨List.pairwise_append.2 ⟨h.1, List.pairwise_singleton .., fun a hm b hb => ?_⟩, fun r hm => ?_⟩
    · rw [List.mem_singleton.1 hb]
      simpa using ha a hm
    · rcases List.mem_append.1 hm with hm | hm
      · exact h.2 r hm
      · rw [List.mem_singleton.1 hm]
        exact ⟨tellN_ok nm hr, clean_no0 _⟩
theorem run_good (t : Txt) (l : List Ln) (self : Bool) (n : Nat) (h : runA (.s0 []) t = some (l, self, n)) : GoodA l :=
  run_inv (P := GoodA) good_add t (.s0 []) l self n ⟨.nil, by simp⟩ h
end Go.Proofs.YtcamkphanakkdaaDoor

/-! What stands in a tag, read on: what stands behind its end, and blanks ahead, play no part; values in quotes and without: plain mathematics. -/
namespace Go.Proofs.YtcamkphanakkdaaDoor
open Go.RowKit Go.Lib

theorem up_up (a b : Nat) (r : Option Told) : (r.map (upN a)).map (upN b) = r.map (upN (a + b)) := by
  cases r with
  | none => rfl
  | some r => simp [upN, Nat.add_assoc]
theorem up_zero (r : Option Told) : r.map (upN 0) = r := by
  cases r <;> rfl

/-- of what stands behind a byte a step asks one thing alone -/
theorem go0_next {l : List Ln} {c : UInt8} {t t' : Txt} (h : c = 47 → (t.head? = some 62 ↔ t'.head? = some 62)) : go0 l c t = go0 l c t' := by
  unfold go0
  by_cases h47 : c = 47
  · by_cases h1 : t.head? = some 62
    · rw [if_pos h1, if_pos ((h h47).1 h1)]
    · rw [if_neg h1, if_neg (fun h2 => h1 ((h h47).2 h2))]
  · rw [if_neg h47, if_neg h47]
theorem go2_next {l : List Ln} {nm : Txt} {c : UInt8} {t t' : Txt} (h : c = 47 → (t.head? = some 62 ↔ t'.head? = some 62)) : go2 l nm c t = go2 l nm c t' := by
  unfold go2; rw [go0_next h]
theorem go5_next {l : List Ln} {nm v : Txt} {c : UInt8} {t t' : Txt} (h : c = 47 → (t.head? = some 62 ↔ t'.head? = some 62)) : go5 l nm v c t = go5 l nm v c t' := by
  unfold go5; rw [go0_next h]
theorem goA_next {a : At} {c : UInt8} {t t' : Txt} (h : c = 47 → (t.head? = some 62 ↔ t'.head? = some 62)) : goA a c t = goA a c t' := by
  cases a with
  | s0 l => exact go0_next h
  | s1 l nm => show go1 l nm c t = go1 l nm c t'; unfold go1; rw [go2_next h]
  | s2 l nm => exact go2_next h
  | s3 l nm => show go3 l nm c t = go3 l nm c t'; unfold go3; rw [go0_next h, go5_next h]
  | s4 l nm v q => rfl
  | s5 l nm v => exact go5_next h
/-- P8.1: what stands behind a tag's end plays no part -/
theorem run_cut (m : Txt) : ∀ (t : Txt) (a : At) (l : List Ln) (self : Bool) (n : Nat), runA a t = some (l, self, n) → runA a (t.take n ++ m) = some (l, self, n)
  | [], a, l, self, n, h => by rw [run_nil] at h; exact absurd h (by simp)
  | c :: t, a, l, self, n, h => by
    cases hg : goA a c t with
    | done l' self' n' =>
      rw [run_done hg] at h
      simp only [Option.some.injEq, Prod.mk.injEq] at h
      obtain ⟨rfl, rfl, rfl⟩ := h
      rcases goA_done hg with ⟨-, rfl, rfl⟩ | ⟨-, rfl, rfl, ht⟩
      · have e := goA_next (a := a) (c := 62) (t := t) (t' := m) (fun h => absurd h (by decide))
        rw [hg] at e
        exact run_done e.symm
      · cases t with
        | nil => exact absurd ht (by simp)
        | cons d r =>
          simp only [List.head?_cons, Option.some.injEq] at ht
          subst ht
          have e := goA_next (a := a) (c := 47) (t := 62 :: r) (t' := 62 :: m) (fun _ => by simp)
          rw [hg] at e
          exact run_done e.symm
    | more a' =>
      rw [run_more hg] at h
      cases hr : runA a' t with
      | none => rw [hr] at h; exact absurd h (by simp)
      | some r =>
        obtain ⟨l', self', n'⟩ := r
        rw [hr] at h
        simp only [Option.map_some, upN, Option.some.injEq, Prod.mk.injEq] at h
        obtain ⟨rfl, rfl, rfl⟩ := h
        have h1 := run_ends t a' _ _ n' hr
        have ih := run_cut m t a' _ _ n' hr
        have e := goA_next (a := a) (c := c) (t := t) (t' := t.take n' ++ m) (fun _ => by
          cases t with
          | nil => exact absurd h1.2.1 (by simp; omega)
          | cons d r =>
            obtain ⟨k, rfl⟩ : ∃ k, n' = k + 1 := ⟨n' - 1, by omega⟩
            simp)
        rw [hg] at e
        rw [List.take_succ_cons, List.cons_append, run_more e.symm, ih]; rfl

/-- blanks and strokes ahead -/
def aheadL : Nat → Txt
  | 0 => [32]
  | j + 1 => 32 :: 47 :: 10 :: aheadL j
theorem ahead_len (j : Nat) : (aheadL j).length = 3 * j + 1 := by
  induction j with
  | zero => rfl
  | succ j ih => rw [aheadL, List.length_cons, List.length_cons, List.length_cons, ih]; omega
theorem run_ahead (l : List Ln) (t : Txt) : ∀ j : Nat, runA (.s0 l) (aheadL j ++ t) = (runA (.s0 l) t).map (upN (3 * j + 1))
  | 0 => by
    rw [aheadL, List.cons_append, List.nil_append, run_more (go0_space (by decide))]
  | j + 1 => by
    rw [aheadL, List.cons_append, List.cons_append, List.cons_append, run_more (go0_space (by decide)), run_more (go0_stroke rfl (by simp)), run_more (go0_space (by decide)), run_ahead l t j, up_up, up_up, up_up]
    congr 2

/-- a value in quotes -/
theorem run_quote (l : List Ln) (nm : Txt) (q : UInt8) (rest : Txt) : ∀ (v acc : Txt), q ∉ v → runA (.s4 l nm acc q) (v ++ q :: rest) = (runA (.s0 (addL l nm (acc ++ v))) rest).map (upN (v.length + 1))
  | [], acc, _ => by
    rw [List.nil_append, run_more (go4_end rfl), List.append_nil]; rfl
  | c :: v, acc, h => by
    rw [List.mem_cons, not_or] at h
    rw [List.cons_append, run_more (go4_more (fun e => h.1 e.symm)), run_quote l nm q rest v (acc ++ [c]) h.2, up_up, List.append_assoc, List.length_cons]
    rfl
/-- a value without -/
theorem run_bare (l : List Ln) (nm : Txt) (e : UInt8) (rest : Txt) (he : (spB e || e == 62) = true) : ∀ (v acc : Txt), (∀ x ∈ v, (spB x || x == 62) = false) → runA (.s5 l nm acc) (v ++ e :: rest) = (runA (.s0 (addL l nm (acc ++ v))) (e :: rest)).map (upN v.length)
  | [], acc, _ => by
    rw [List.nil_append, run_same (go5_end he), List.append_nil]; exact (up_zero _).symm
  | c :: v, acc, h => by
    rw [List.cons_append, run_more (go5_more (h c List.mem_cons_self)), run_bare l nm e rest he v (acc ++ [c]) (fun x hx => h x (List.mem_cons_of_mem _ hx)), up_up, List.append_assoc, List.length_cons]
    rfl
/-- what is told of a plain value -/
theorem tellV_plain (v : Txt) (h38 : 38 ∉ v) (h0 : 0 ∉ v) : tellV v = v := by
  unfold tellV
  rw [dd_stays true v h38]
  exact (cleanL_iff v).2 h0
/-- from a text's beginning on -/
theorem zero_some (s : Txt) (l : List Ln) (self : Bool) (n : Nat) (h : runA (.s0 []) s = some (l, self, n)) : attrsV s 0 = (l, self, (n : Int), true) := by
  refine attrs_some s 0 (Nat.zero_le _) l self n ?_
  unfold runI
  rw [List.drop_zero, h]; rfl
theorem zero_none (s : Txt) (h : runA (.s0 []) s = none) : attrsV s 0 = ([], false, (s.length : Int), false) := by
  refine attrs_none s 0 (Nat.zero_le _) ?_
  unfold runI
  rw [List.drop_zero, h]; rfl
/-- how long what is told may be -/
def SmL (M : Nat) (l : List Ln) : Prop := ∀ r ∈ l, r.1.length ≤ 3 * M ∧ r.2.length ≤ 9 * M
def SmallA (M k : Nat) : At → Prop
  | .s0 l => SmL M l ∧ k ≤ M
  | .s1 l nm => SmL M l ∧ nm.length + k ≤ M
  | .s2 l nm => SmL M l ∧ nm.length + k ≤ M
  | .s3 l nm => SmL M l ∧ nm.length + k ≤ M
  | .s4 l nm v _ => SmL M l ∧ nm.length + k ≤ M ∧ v.length + k ≤ M
  | .s5 l nm v => SmL M l ∧ nm.length + k ≤ M ∧ v.length + k ≤ M
def SmallS (M k : Nat) : Step → Prop
  | .more a => SmallA M k a
  | .done l _ _ => SmL M l
theorem small_add {M : Nat} {l : List Ln} {nm v : Txt} (h : SmL M l) (hn : nm.length ≤ M) (hv : v.length ≤ M) : SmL M (addL l nm v) := by
  unfold addL
  split
  · exact h
  · intro r hr
    rcases List.mem_append.1 hr with hr | hr
    · exact h r hr
    · rw [List.mem_singleton.1 hr]
      have h1 := (cleanL_len (lowL nm)).2
      have h2 := (cleanL_len (ddL true v)).2
      have h3 := dd_len true v.length v (Nat.le_refl _)
      rw [lowL_len] at h1
      unfold tellN tellV
      simp only
      omega
theorem small0 {M k : Nat} {l : List Ln} {c : UInt8} {t : Txt} (h : SmL M l) (hk : k + 1 ≤ M) : SmallS M k (go0 l c t) := by
  unfold go0
  split
  · exact ⟨h, by omega⟩
  · split
    · exact h
    · split
      · split
        · exact h
        · exact ⟨h, by omega⟩
      · exact ⟨h, by simp; omega⟩
theorem small2 {M k : Nat} {l : List Ln} {nm : Txt} {c : UInt8} {t : Txt} (h : SmL M l) (hk : nm.length + (k + 1) ≤ M) : SmallS M k (go2 l nm c t) := by
  unfold go2
  split
  · exact ⟨h, by omega⟩
  · split
    · exact ⟨h, by omega⟩
    · exact small0 (small_add h (by omega) (by simp)) (by omega)
theorem small5 {M k : Nat} {l : List Ln} {nm v : Txt} {c : UInt8} {t : Txt} (h : SmL M l) (hk : nm.length + (k + 1) ≤ M) (hv : v.length + (k + 1) ≤ M) : SmallS M k (go5 l nm v c t) := by
  unfold go5
  split
  · exact small0 (small_add h (by omega) (by omega)) (by omega)
  · exact ⟨h, by omega, by simp; omega⟩
theorem smallA {M k : Nat} {a : At} {c : UInt8} {t : Txt} (h : SmallA M (k + 1) a) : SmallS M k (goA a c t) := by
  cases a with
  | s0 l => exact small0 h.1 h.2
  | s1 l nm =>
    show SmallS M k (go1 l nm c t)
    unfold go1
    split
    · exact small2 h.1 h.2
    · exact ⟨h.1, by have := h.2; simp; omega⟩
  | s2 l nm => exact small2 h.1 h.2
  | s3 l nm =>
    have h2 := h.2
    show SmallS M k (go3 l nm c t)
    unfold go3
    split
    · exact ⟨h.1, by omega⟩
    · split
      · exact ⟨h.1, by omega, by simp; omega⟩
      · split
        · exact small0 (small_add h.1 (by omega) (by simp)) (by omega)
        · exact small5 h.1 h.2 (by simp; omega)
  | s4 l nm v q =>
    obtain ⟨h1, h2, h3⟩ := h
    show SmallS M k (go4 l nm v q c)
    unfold go4
    split
    · exact ⟨small_add h1 (by omega) (by omega), by omega⟩
    · exact ⟨h1, by omega, by simp; omega⟩
  | s5 l nm v => exact small5 h.1 h.2.1 h.2.2
theorem run_small (M : Nat) : ∀ (t : Txt) (a : At) (l : List Ln) (self : Bool) (n : Nat), SmallA M t.length a → runA a t = some (l, self, n) → SmL M l
  | [], a, l, self, n, _, h => by rw [run_nil] at h; exact absurd h (by simp)
  | c :: t, a, l, self, n, hi, h => by
    have hs := smallA (c := c) (t := t) hi
    cases hg : goA a c t with
    | done l' self' n' =>
      rw [hg] at hs
      rw [run_done hg] at h
      simp only [Option.some.injEq, Prod.mk.injEq] at h
      rw [← h.1]; exact hs
    | more a' =>
      rw [hg] at hs
      rw [run_more hg] at h
      cases hr : runA a' t with
      | none => rw [hr] at h; exact absurd h (by simp)
      | some r =>
        obtain ⟨l', self', n'⟩ := r
        rw [hr] at h
        simp only [Option.map_some, upN, Option.some.injEq, Prod.mk.injEq] at h
        rw [← h.1]
        exact run_small M t a' l' self' n' hs hr
/-- what Read tells from a text's beginning on is good, and small -/
theorem zero_good (s : Txt) (l : List Ln) (self : Bool) (n : Int) (ok : Bool) (h : attrsV s 0 = (l, self, n, ok)) : GoodA l ∧ SmL s.length l := by
  cases hr : runA (.s0 []) s with
  | none =>
    rw [zero_none s hr] at h
    simp only [Prod.mk.injEq] at h
    rw [← h.1]
    exact ⟨⟨.nil, by simp⟩, by intro r hr; simp at hr⟩
  | some r =>
    obtain ⟨l', self', n'⟩ := r
    rw [zero_some s _ _ _ hr] at h
    simp only [Prod.mk.injEq] at h
    rw [← h.1]
    exact ⟨run_good s _ _ _ hr, run_small s.length s (.s0 []) l' self' n' ⟨by intro r hr; simp at hr, Nat.le_refl _⟩ hr⟩
end Go.Proofs.YtcamkphanakkdaaDoor
