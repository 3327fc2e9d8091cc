/-
  What a doctype is, and what it says: plain mathematics.
-/
import Derived.Test.YtcamkphanakkdaaDoorScan
import Derived.Test.YtcamkphanakkdaaDoorPT
import Derived.Test.YtcamkphanakkdaaDoorP1
import Derived.Test.YtcamkphanakkdaaDoorP4
namespace Go.Proofs.YtcamkphanakkdaaDoor
open Go.RowKit Go.Lib

/-- what a doctype says -/
structure DocP where
  name : Txt
  pub : Txt
  sys : Txt
  hn : Bool
  hp : Bool
  hs : Bool
  q : Bool
def docV (d : DocP) : Value := .agg #[.string ⟨d.name.toArray⟩, .string ⟨d.pub.toArray⟩, .string ⟨d.sys.toArray⟩, .bool d.hn, .bool d.hp, .bool d.hs, .bool d.q]
def spaB (c : UInt8) : Bool := spaceI (c.toNat : Int)
def quoB (c : UInt8) : Bool := c == 34 || c == 39
/-- public, system, <!doctype -/
def pubL : Txt := [112, 117, 98, 108, 105, 99]
def sysL : Txt := [115, 121, 115, 116, 101, 109]
def dctL : Txt := [60, 33, 100, 111, 99, 116, 121, 112, 101]
/-- step 5, behind the quote c -/
def st5 (d : DocP) (ended : Bool) (c : UInt8) (t : Txt) : DocP :=
  match t.dropWhile (· != c) with
  | [] => { d with sys := cleanL (t.takeWhile (· != c)), hs := true, q := true }
  | _ :: z => { d with sys := cleanL (t.takeWhile (· != c)), hs := true, q := (z.dropWhile spaB).isEmpty && !ended }
/-- step 4 -/
def st4 (d : DocP) (ended : Bool) (l : Txt) : DocP :=
  match l.dropWhile spaB with
  | [] => { d with q := true }
  | c :: t => if quoB c = true then st5 d ended c t else { d with q := true }
/-- step 3 -/
def st3 (d : DocP) (ended : Bool) (l : Txt) : DocP :=
  match l.dropWhile spaB with
  | [] => { d with q := true }
  | c :: t =>
    if quoB c = true then
      match t.dropWhile (· != c) with
      | [] => { d with pub := cleanL (t.takeWhile (· != c)), hp := true, q := true }
      | _ :: z =>
        match z.dropWhile spaB with
        | [] => { d with pub := cleanL (t.takeWhile (· != c)), hp := true, q := !ended }
        | e :: u => if quoB e = true then st5 { d with pub := cleanL (t.takeWhile (· != c)), hp := true } ended e u else { d with pub := cleanL (t.takeWhile (· != c)), hp := true, q := true }
    else { d with q := true }
/-- step 2 -/
def st2 (d : DocP) (ended : Bool) (l : Txt) : DocP :=
  match l.dropWhile spaB with
  | [] => { d with q := !ended }
  | r => if pubL.isPrefixOf (lowL r) = true then st3 d ended (r.drop 6) else if sysL.isPrefixOf (lowL r) = true then st4 d ended (r.drop 6) else { d with q := true }
/-- the name's bytes, as they are told -/
def dtN (l : Txt) : Txt := cleanL (lowL (l.takeWhile (fun c => !spaB c)))
/-- P11.2 -/
def parseD (raw : Txt) (ended : Bool) : DocP :=
  match raw.dropWhile spaB with
  | [] => ⟨[], [], [], false, false, false, true⟩
  | l => st2 ⟨dtN l, [], [], true, false, false, false⟩ ended (l.dropWhile (fun c => !spaB c))
/-- P11.1 -/
def begD (l : Txt) : Bool := dctL.isPrefixOf (lowL l)
def dbegV (s : Txt) (a : Int) : Bool := decide (0 ≤ a) && begD (s.drop a.toNat)
def dctT (x : Txt) : TokP := ⟨4, [], cleanL x, [], false⟩
def dctV (s : Txt) (a : Int) : TokP × Int × Bool :=
  if dbegV s a = true then (dctT ((s.drop (a.toNat + 9)).takeWhile (· != 62)), ((if seekP (· != 62) s (a.toNat + 9) < s.length then seekP (· != 62) s (a.toNat + 9) + 1 else s.length : Nat) : Int), true) else (zeroT, a, false)
theorem dct_no (s : Txt) (a : Int) (h : dbegV s a = false) : dctV s a = (zeroT, a, false) := by
  unfold dctV; rw [h]; rfl
theorem dbeg_in (s : Txt) (k : Nat) : dbegV s (k : Int) = begD (s.drop k) := by
  unfold dbegV
  rw [show ((k : Nat) : Int).toNat = k by omega, decide_eq_true (by omega), Bool.true_and]
theorem dct_in (s : Txt) (k : Nat) (h : begD (s.drop k) = true) : dctV s (k : Int) = (dctT ((s.drop (k + 9)).takeWhile (· != 62)), ((if seekP (· != 62) s (k + 9) < s.length then seekP (· != 62) s (k + 9) + 1 else s.length : Nat) : Int), true) := by
  unfold dctV
  rw [dbeg_in, h, if_pos rfl, show ((k : Nat) : Int).toNat = k by omega]
theorem begD_len (l : Txt) (h : begD l = true) : 9 ≤ l.length := by
  have := (List.isPrefixOf_iff_prefix.1 h).length_le
  rw [lowL_len] at this; exact this
theorem dbeg_out (s : Txt) (a : Int) (h : ¬ (0 ≤ a ∧ a + 9 ≤ (s.length : Int))) : dbegV s a = false := by
  unfold dbegV
  by_cases h0 : 0 ≤ a
  · rw [decide_eq_true h0, Bool.true_and, Bool.eq_false_iff]
    intro e
    have := begD_len _ e
    rw [List.length_drop] at this; omega
  · rw [decide_eq_false h0, Bool.false_and]
end Go.Proofs.YtcamkphanakkdaaDoor
