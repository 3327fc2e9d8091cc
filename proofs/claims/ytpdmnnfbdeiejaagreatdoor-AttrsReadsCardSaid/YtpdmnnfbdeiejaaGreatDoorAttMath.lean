/-
  What stands in a tag, byte by byte: plain mathematics.
-/
import Derived.Test.YtpdmnnfbdeiejaaGreatDoorP4
import Derived.Test.YtpdmnnfbdeiejaaGreatDoorP6
namespace Go.Proofs.YtpdmnnfbdeiejaaGreatDoor
open Go.RowKit Go.Lib

/-- a Space -/
def spB (c : UInt8) : Bool := spaceI (c.toNat : Int)
theorem spB_eq (c : UInt8) : spB c = (c == 9 || c == 10 || c == 12 || c == 32) := by
  unfold spB spaceI
  rw [Bool.eq_iff_iff]
  simp only [decide_eq_true_eq, Bool.or_eq_true, beq_iff_eq, ← UInt8.toNat_inj]
  rw [show (9 : UInt8).toNat = 9 from rfl, show (10 : UInt8).toNat = 10 from rfl, show (12 : UInt8).toNat = 12 from rfl, show (32 : UInt8).toNat = 32 from rfl]
  omega

/-- a name and a value as they are told -/
def tellN (name : Txt) : Txt := cleanL (lowL name)
def tellV (val : Txt) : Txt := cleanL (ddL true val)
/-- an attribute more, unless its name was there -/
def addL (l : List Ln) (name val : Txt) : List Ln := if l.any (fun r => r.1 == tellN name) then l else l ++ [(tellN name, tellV val)]

/-- what is read: what stands ahead of a name, a name, what is behind one, what is ahead of a value, a value in quotes, or without -/
inductive At where
  | s0 (l : List Ln)
  | s1 (l : List Ln) (name : Txt)
  | s2 (l : List Ln) (name : Txt)
  | s3 (l : List Ln) (name : Txt)
  | s4 (l : List Ln) (name val : Txt) (q : UInt8)
  | s5 (l : List Ln) (name val : Txt)
inductive Step where
  | more (a : At)
  | done (l : List Ln) (self : Bool) (n : Nat)
/-- what ends a name -/
def endB (c : UInt8) : Bool := spB c || c == 47 || c == 62 || c == 61
def go0 (l : List Ln) (c : UInt8) (t : Txt) : Step :=
  if spB c then .more (.s0 l) else if c = 62 then .done l false 1
  else if c = 47 then (if t.head? = some 62 then .done l true 2 else .more (.s0 l))
  else .more (.s1 l [c])
def go2 (l : List Ln) (name : Txt) (c : UInt8) (t : Txt) : Step :=
  if spB c then .more (.s2 l name) else if c = 61 then .more (.s3 l name) else go0 (addL l name []) c t
def go1 (l : List Ln) (name : Txt) (c : UInt8) (t : Txt) : Step := if endB c then go2 l name c t else .more (.s1 l (name ++ [c]))
def go5 (l : List Ln) (name val : Txt) (c : UInt8) (t : Txt) : Step := if spB c || c == 62 then go0 (addL l name val) c t else .more (.s5 l name (val ++ [c]))
def go3 (l : List Ln) (name : Txt) (c : UInt8) (t : Txt) : Step :=
  if spB c then .more (.s3 l name) else if c = 34 ∨ c = 39 then .more (.s4 l name [] c) else if c = 62 then go0 (addL l name []) c t else go5 l name [] c t
def go4 (l : List Ln) (name val : Txt) (q c : UInt8) : Step := if c = q then .more (.s0 (addL l name val)) else .more (.s4 l name (val ++ [c]) q)
def goA : At → UInt8 → Txt → Step
  | .s0 l, c, t => go0 l c t
  | .s1 l name, c, t => go1 l name c t
  | .s2 l name, c, t => go2 l name c t
  | .s3 l name, c, t => go3 l name c t
  | .s4 l name val q, c, _ => go4 l name val q c
  | .s5 l name val, c, t => go5 l name val c t
abbrev Told := List Ln × Bool × Nat
def upN (k : Nat) (r : Told) : Told := (r.1, r.2.1, r.2.2 + k)
/-- from a place on: the attributes, whether the tag closes itself, how many bytes are read -/
def runA : At → Txt → Option Told
  | _, [] => none
  | a, c :: t => match goA a c t with
    | .done l self n => some (l, self, n)
    | .more a' => (runA a' t).map (upN 1)
theorem run_nil (a : At) : runA a [] = none := by cases a <;> rfl
theorem run_more {a a' : At} {c : UInt8} {t : Txt} (h : goA a c t = .more a') : runA a (c :: t) = (runA a' t).map (upN 1) := by
  rw [runA, h]
theorem run_done {a : At} {c : UInt8} {t : Txt} {l : List Ln} {self : Bool} {n : Nat} (h : goA a c t = .done l self n) : runA a (c :: t) = some (l, self, n) := by
  rw [runA, h]
theorem run_same {a b : At} {c : UInt8} {t : Txt} (h : goA a c t = goA b c t) : runA a (c :: t) = runA b (c :: t) := by
  rw [runA, runA, h]

/-- the same, told with a place: 'i' bytes stand ahead -/
def runI (i : Nat) (a : At) (t : Txt) : Option Told := (runA a t).map (upN i)
theorem upN_one (i : Nat) (r : Option Told) : (r.map (upN 1)).map (upN i) = r.map (upN (i + 1)) := by
  cases r with
  | none => rfl
  | some r => simp [upN]; omega
theorem runI_more {i : Nat} {a a' : At} {c : UInt8} {t : Txt} {T : Option Told} (h : goA a c t = .more a') (hT : runI i a (c :: t) = T) : runI (i + 1) a' t = T := by
  unfold runI at hT ⊢
  rw [run_more h, upN_one] at hT
  exact hT
theorem runI_done {i : Nat} {a : At} {c : UInt8} {t : Txt} {l : List Ln} {self : Bool} {n : Nat} {T : Option Told} (h : goA a c t = .done l self n) (hT : runI i a (c :: t) = T) : T = some (l, self, i + n) := by
  unfold runI at hT
  rw [run_done h] at hT
  rw [← hT]; simp [upN]; omega
theorem runI_same {i : Nat} {a b : At} {c : UInt8} {t : Txt} {T : Option Told} (h : goA a c t = goA b c t) (hT : runI i a (c :: t) = T) : runI i b (c :: t) = T := by
  unfold runI at hT ⊢
  rw [← run_same h]; exact hT
theorem runI_nil {i : Nat} {a : At} {T : Option Told} (hT : runI i a [] = T) : T = none := by
  unfold runI at hT; rw [run_nil] at hT; exact hT.symm

/-- P8.1 for any place -/
def attrsV (s : Txt) (a : Int) : List Ln × Bool × Int × Bool :=
  if 0 ≤ a ∧ a ≤ (s.length : Int) then match runI a.toNat (.s0 []) (s.drop a.toNat) with
    | none => ([], false, (s.length : Int), false)
    | some (l, self, n) => (l, self, (n : Int), true)
  else ([], false, a, false)
theorem attrs_out (s : Txt) (a : Int) (h : ¬ (0 ≤ a ∧ a ≤ (s.length : Int))) : attrsV s a = ([], false, a, false) := if_neg h
theorem attrs_none (s : Txt) (k : Nat) (h : k ≤ s.length) (hT : runI k (.s0 []) (s.drop k) = none) : attrsV s (k : Int) = ([], false, (s.length : Int), false) := by
  unfold attrsV
  rw [if_pos ⟨by omega, by omega⟩, show ((k : Nat) : Int).toNat = k by omega, hT]
theorem attrs_some (s : Txt) (k : Nat) (h : k ≤ s.length) (l : List Ln) (self : Bool) (n : Nat) (hT : runI k (.s0 []) (s.drop k) = some (l, self, n)) : attrsV s (k : Int) = (l, self, (n : Int), true) := by
  unfold attrsV
  rw [if_pos ⟨by omega, by omega⟩, show ((k : Nat) : Int).toNat = k by omega, hT]

/-- how many attributes there may be -/
theorem addL_len (l : List Ln) (name val : Txt) : (addL l name val).length ≤ l.length + 1 := by
  unfold addL; split
  · omega
  · simp
/-- each step, by the byte -/
theorem go0_space {l : List Ln} {c : UInt8} {t : Txt} (h : spB c = true) : goA (.s0 l) c t = .more (.s0 l) := if_pos h
theorem go0_end {l : List Ln} {c : UInt8} {t : Txt} (h : c = 62) : goA (.s0 l) c t = .done l false 1 := by subst h; rfl
theorem go0_self {l : List Ln} {c : UInt8} {t : Txt} (h : c = 47) (ht : t.head? = some 62) : goA (.s0 l) c t = .done l true 2 := by
  subst h
  show go0 l 47 t = _
  unfold go0
  rw [if_neg (by decide), if_neg (by decide), if_pos rfl, if_pos ht]
theorem go0_stroke {l : List Ln} {c : UInt8} {t : Txt} (h : c = 47) (ht : t.head? ≠ some 62) : goA (.s0 l) c t = .more (.s0 l) := by
  subst h
  show go0 l 47 t = _
  unfold go0
  rw [if_neg (by decide), if_neg (by decide), if_pos rfl, if_neg ht]
theorem go0_name {l : List Ln} {c : UInt8} {t : Txt} (h : spB c = false) (h1 : c ≠ 62) (h2 : c ≠ 47) : goA (.s0 l) c t = .more (.s1 l [c]) := by
  show go0 l c t = _
  unfold go0
  rw [h, if_neg Bool.false_ne_true, if_neg h1, if_neg h2]
theorem go1_end {l : List Ln} {name : Txt} {c : UInt8} {t : Txt} (h : endB c = true) : goA (.s1 l name) c t = goA (.s2 l name) c t := if_pos h
theorem go1_more {l : List Ln} {name : Txt} {c : UInt8} {t : Txt} (h : endB c = false) : goA (.s1 l name) c t = .more (.s1 l (name ++ [c])) := by
  show go1 l name c t = _
  unfold go1; rw [h]; rfl
theorem go2_space {l : List Ln} {name : Txt} {c : UInt8} {t : Txt} (h : spB c = true) : goA (.s2 l name) c t = .more (.s2 l name) := if_pos h
theorem go2_eq {l : List Ln} {name : Txt} {c : UInt8} {t : Txt} (h : c = 61) : goA (.s2 l name) c t = .more (.s3 l name) := by subst h; rfl
theorem go2_else {l : List Ln} {name : Txt} {c : UInt8} {t : Txt} (h : spB c = false) (h1 : c ≠ 61) : goA (.s2 l name) c t = goA (.s0 (addL l name [])) c t := by
  show go2 l name c t = go0 _ c t
  unfold go2; rw [h, if_neg Bool.false_ne_true, if_neg h1]
theorem go3_space {l : List Ln} {name : Txt} {c : UInt8} {t : Txt} (h : spB c = true) : goA (.s3 l name) c t = .more (.s3 l name) := if_pos h
theorem go3_quote {l : List Ln} {name : Txt} {c : UInt8} {t : Txt} (h : c = 34 ∨ c = 39) : goA (.s3 l name) c t = .more (.s4 l name [] c) := by
  rcases h with rfl | rfl <;> rfl
theorem go3_end {l : List Ln} {name : Txt} {c : UInt8} {t : Txt} (h : c = 62) : goA (.s3 l name) c t = goA (.s0 (addL l name [])) c t := by subst h; rfl
theorem go3_else {l : List Ln} {name : Txt} {c : UInt8} {t : Txt} (h : spB c = false) (h1 : ¬ (c = 34 ∨ c = 39)) (h2 : c ≠ 62) : goA (.s3 l name) c t = goA (.s5 l name []) c t := by
  show go3 l name c t = go5 l name [] c t
  unfold go3; rw [h, if_neg Bool.false_ne_true, if_neg h1, if_neg h2]
theorem go4_end {l : List Ln} {name val : Txt} {q c : UInt8} {t : Txt} (h : c = q) : goA (.s4 l name val q) c t = .more (.s0 (addL l name val)) := if_pos h
theorem go4_more {l : List Ln} {name val : Txt} {q c : UInt8} {t : Txt} (h : c ≠ q) : goA (.s4 l name val q) c t = .more (.s4 l name (val ++ [c]) q) := if_neg h
theorem go5_end {l : List Ln} {name val : Txt} {c : UInt8} {t : Txt} (h : (spB c || c == 62) = true) : goA (.s5 l name val) c t = goA (.s0 (addL l name val)) c t := if_pos h
theorem go5_more {l : List Ln} {name val : Txt} {c : UInt8} {t : Txt} (h : (spB c || c == 62) = false) : goA (.s5 l name val) c t = .more (.s5 l name (val ++ [c])) := by
  show go5 l name val c t = _
  unfold go5; rw [h]; rfl
end Go.Proofs.YtpdmnnfbdeiejaaGreatDoor
