/-
  What the document's answers of layer 9 are.
-/
import Derived.Test.YtcamkphanakkdaaDoorTagTok
import Derived.Test.YtcamkphanakkdaaDoorP7
import Derived.Test.YtcamkphanakkdaaDoorP1
import Derived.Test.YtcamkphanakkdaaDoorP4
namespace Go.Proofs.YtcamkphanakkdaaDoor
open Go.RowKit Go.Lib

def fromV (s : Txt) (a : Int) : Int := if begV s a = true then a + (begT (s.drop a.toNat) : Int) else -1
theorem from_no (s : Txt) (a : Int) (h : begV s a = false) : fromV s a = -1 := by unfold fromV; rw [h]; rfl
theorem from_in (s : Txt) (k b : Nat) (h : begT (s.drop k) = b) : fromV s (k : Int) = if b = 0 then -1 else ((k + b : Nat) : Int) := by
  unfold fromV
  rw [beg_in, show ((k : Nat) : Int).toNat = k by omega, h]
  by_cases hb : b = 0
  · rw [if_pos hb, decide_eq_false (by simpa using hb)]; rfl
  · rw [if_neg hb, decide_eq_true hb, if_pos rfl, Int.natCast_add]
theorem beg_a (t : Txt) (h : t.head? ≠ some 60) : begT t = 0 := by unfold begT; rw [if_neg h]
theorem beg_b (t : Txt) (h : t.length = 1) : begT t = 0 := by
  match t, h with
  | [c], _ => unfold begT; simp
theorem beg_c (c d : UInt8) (t : Txt) (h : c = 60) (h1 : d ≠ 47) : begT (c :: d :: t) = if letB d = true then 1 else 0 := by
  subst h; unfold begT; simp [h1]
theorem beg_d (c d e : UInt8) (t : Txt) (h : c = 60) (h1 : d = 47) : begT (c :: d :: e :: t) = if letB e = true then 2 else 0 := by
  subst h; subst h1; unfold begT; simp
theorem beg_e (c d : UInt8) : begT [c, d] = if c = 60 ∧ d ≠ 47 ∧ letB d = true then 1 else 0 := by
  unfold begT
  by_cases h : c = 60
  · subst h
    by_cases h1 : d = 47
    · subst h1; simp
    · simp [h1]
  · simp [h]

end Go.Proofs.YtcamkphanakkdaaDoor
