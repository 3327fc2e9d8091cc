/-
  Bytes told by their kinds, small letters, and what a text begins with: plain mathematics.
-/
import Derived.Test.YtdpgdcbclgdjaaaDoorSmall
namespace Go.Proofs.YtdpgdcbclgdjaaaDoor
open Go.RowKit Go.Lib

def isLarge (q : Int) : Prop := 65 ≤ q ∧ q ≤ 90
instance (q : Int) : Decidable (isLarge q) := by unfold isLarge; exact inferInstance
/-- all kinds of a byte, a bit for each -/
def kindI (q : Int) : Int := if 65 ≤ q ∧ q ≤ 90 then 14 else if 97 ≤ q ∧ q ≤ 122 then 12 else if 48 ≤ q ∧ q ≤ 57 then 8 else if q = 9 ∨ q = 10 ∨ q = 12 ∨ q = 32 then 1 else 0
def spaceI (q : Int) : Bool := decide (q = 9 ∨ q = 10 ∨ q = 12 ∨ q = 32)
def letterI (q : Int) : Bool := decide (65 ≤ q ∧ q ≤ 90 ∨ 97 ≤ q ∧ q ≤ 122)
def digitI (q : Int) : Bool := decide (48 ≤ q ∧ q ≤ 57)
def wordI (q : Int) : Bool := letterI q || digitI q
def hexI (q : Int) : Int := if 48 ≤ q ∧ q ≤ 57 then q - 48 else if 65 ≤ q ∧ q ≤ 70 then q - 55 else if 97 ≤ q ∧ q ≤ 102 then q - 87 else -1
def lowI (q : Int) : Int := if 65 ≤ q ∧ q ≤ 90 then q + 32 else q

def lowB (c : UInt8) : UInt8 := UInt8.ofNat (lowI (c.toNat : Int)).toNat
theorem lowI_range (q : Int) (h0 : 0 ≤ q) (h1 : q < 256) : 0 ≤ lowI q ∧ lowI q < 256 := by unfold lowI; split <;> omega
theorem lowB_int (c : UInt8) : ((lowB c).toNat : Int) = lowI (c.toNat : Int) := by
  have h := lowI_range (c.toNat : Int) (by omega) (by have := c.toNat_lt; omega)
  unfold lowB
  rw [UInt8.toNat_ofNat']
  omega
theorem lowI_twice (q : Int) : lowI (lowI q) = lowI q := by
  by_cases h : 65 ≤ q ∧ q ≤ 90
  · rw [show lowI q = q + 32 from if_pos h]; exact if_neg (by omega)
  · rw [show lowI q = q from if_neg h]; exact if_neg h
theorem lowB_twice (c : UInt8) : lowB (lowB c) = lowB c := by
  rw [← UInt8.toNat_inj]
  have h1 := lowB_int (lowB c)
  have h2 := lowB_int c
  rw [h2, lowI_twice, ← h2] at h1
  omega
def lowL (l : List UInt8) : List UInt8 := l.map lowB
theorem lowL_twice (l : List UInt8) : lowL (lowL l) = lowL l := by
  unfold lowL; rw [List.map_map]; congr 1; funext c; exact lowB_twice c
theorem lowL_len (l : List UInt8) : (lowL l).length = l.length := List.length_map _
theorem lowL_app (a b : List UInt8) : lowL (a ++ b) = lowL a ++ lowL b := List.map_append
theorem lowL_drop (l : List UInt8) (k : Nat) : lowL (l.drop k) = (lowL l).drop k := List.map_drop
theorem lowL_cons (c : UInt8) (l : List UInt8) : lowL (c :: l) = lowB c :: lowL l := rfl

/-- a text in small letters -/
def lowS (s : ByteArray) : ByteArray := ⟨(lowL s.data.toList).toArray⟩
theorem lowS_list (s : ByteArray) : (lowS s).data.toList = lowL s.data.toList := by simp [lowS]
theorem lowS_size (s : ByteArray) : (lowS s).size = s.size := by rw [Lib.size_eq, Lib.size_eq, lowS_list, lowL_len]
theorem lowS_twice (s : ByteArray) : lowS (lowS s) = lowS s := str_ext (by rw [lowS_list, lowS_list, lowL_twice])
theorem lowS_app (a b : ByteArray) : lowS (a ++ b) = lowS a ++ lowS b := str_ext (by
  rw [lowS_list, ByteArray.data_append, Array.toList_append, lowL_app, ByteArray.data_append, Array.toList_append, lowS_list, lowS_list])
theorem lowS_at (s : ByteArray) (i : Nat) (h : i < s.size) (h' : i < (lowS s).size) : (lowS s)[i] = lowB s[i] := by
  have e1 : (lowS s).data.toList[i]? = some (lowS s)[i] := by
    rw [List.getElem?_eq_getElem (by rw [← Lib.size_eq]; exact h')]; rfl
  have e2 : s.data.toList[i]? = some s[i] := by
    rw [List.getElem?_eq_getElem (by rw [← Lib.size_eq]; exact h)]; rfl
  rw [lowS_list, lowL, List.getElem?_map, e2] at e1
  injection e1 with e1
  exact e1.symm

/-- whether there stand bytes, in whatever letters, at a place -/
def begS (s : ByteArray) (at_ : Int) (low : ByteArray) : Bool :=
  decide (0 ≤ at_ ∧ at_ ≤ (s.size : Int)) && low.data.toList.isPrefixOf (lowL (s.data.toList.drop at_.toNat))

theorem pre_step (s low : ByteArray) (a k : Nat) (h1 : k < low.size) (h2 : a + k < s.size) :
    (low.data.toList.drop k).isPrefixOf (lowL (s.data.toList.drop (a + k))) = (low[k] == lowB s[a + k] && (low.data.toList.drop (k + 1)).isPrefixOf (lowL (s.data.toList.drop (a + (k + 1))))) := by
  rw [drop_at low k h1, drop_at s (a + k) h2, lowL_cons, List.isPrefixOf_cons_cons]; rfl
theorem pre_yes (s low : ByteArray) (a k : Nat) (T : Bool) (h1 : k < low.size) (h2 : a + k < s.size) (he : lowI (s[a + k].toNat : Int) = (low[k].toNat : Int))
    (h : (low.data.toList.drop k).isPrefixOf (lowL (s.data.toList.drop (a + k))) = T) : (low.data.toList.drop (k + 1)).isPrefixOf (lowL (s.data.toList.drop (a + (k + 1)))) = T := by
  have e : low[k] = lowB s[a + k] := by
    have := lowB_int s[a + k]
    rw [← UInt8.toNat_inj]; omega
  rw [← h, pre_step s low a k h1 h2, beq_iff_eq.2 e, Bool.true_and]
theorem pre_no (s low : ByteArray) (a k : Nat) (T : Bool) (h1 : k < low.size) (h2 : a + k < s.size) (he : ¬ lowI (s[a + k].toNat : Int) = (low[k].toNat : Int))
    (h : (low.data.toList.drop k).isPrefixOf (lowL (s.data.toList.drop (a + k))) = T) : false = T := by
  have e : low[k] ≠ lowB s[a + k] := by
    intro e
    have := lowB_int s[a + k]
    rw [← e] at this
    omega
  rw [← h, pre_step s low a k h1 h2, beq_eq_false_iff_ne.2 e, Bool.false_and]
theorem pre_end (s low : ByteArray) (a k : Nat) (h1 : k = low.size) :
    (low.data.toList.drop k).isPrefixOf (lowL (s.data.toList.drop (a + k))) = true := by
  rw [List.drop_eq_nil_of_le (by rw [← Lib.size_eq]; omega)]; exact List.isPrefixOf_nil_left
theorem pre_short (s low : ByteArray) (a k : Nat) (h1 : k < low.size) (h2 : s.size ≤ a + k) :
    (low.data.toList.drop k).isPrefixOf (lowL (s.data.toList.drop (a + k))) = false := by
  rw [drop_at low k h1, List.drop_eq_nil_of_le (as := s.data.toList) (by rw [← Lib.size_eq]; omega)]; rfl
theorem pre_long (s low : ByteArray) (a : Nat) (h : s.size < a + low.size) (ha : a ≤ s.size) :
    low.data.toList.isPrefixOf (lowL (s.data.toList.drop a)) = false := by
  rw [Bool.eq_false_iff]
  intro e
  have := (List.isPrefixOf_iff_prefix.1 e).length_le
  rw [lowL_len, List.length_drop, ← Lib.size_eq, ← Lib.size_eq] at this
  omega

end Go.Proofs.YtdpgdcbclgdjaaaDoor
