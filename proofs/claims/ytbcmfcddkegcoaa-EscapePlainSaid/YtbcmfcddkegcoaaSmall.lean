/-
  Small things for every layer: what is returned; bytes of texts, and texts by their bytes.
-/
import Derived.WalkKit
import Derived.RowKit
import Derived.Lib.Bytes
import Derived.Lib.Hide
import Derived.Lib.Strings
import Derived.WalkSpells
import Derived.WalkLawsBesides
namespace Go.Proofs.Ytbcmfcddkegcoaa
open Go.RowKit Go.Lib

def intOf : Value → Int | .int _ q => q | _ => 0
theorem ret_str {a b : ByteArray} (h : a = b) : Ending.returned (.string a) = .returned (.string b) := by rw [h]
theorem ret_int {k : IntKind} {a b : Int} (h : a = b) : Ending.returned (.int k a) = .returned (.int k b) := by rw [h]
theorem ret_bool {a b : Bool} (h : a = b) : Ending.returned (.bool a) = .returned (.bool b) := by rw [h]
theorem drop_at (s : ByteArray) (i : Nat) (h : i < s.size) : s.data.toList.drop i = s[i] :: s.data.toList.drop (i + 1) := by
  rw [List.drop_eq_getElem_cons (by rw [← Lib.size_eq]; exact h)]
  rfl

theorem u8_ne (c : UInt8) (n : Nat) (hn : n < 256) (h : ¬ ((c.toNat : Nat) : Int) = (n : Int)) : c ≠ UInt8.ofNat n := by
  intro e; apply h; subst e
  rw [UInt8.toNat_ofNat']; omega
theorem u8_eq (c : UInt8) (n : Nat) (hn : n < 256) (h : ((c.toNat : Nat) : Int) = (n : Int)) : c = UInt8.ofNat n := by
  rw [← UInt8.toNat_inj, UInt8.toNat_ofNat']; omega

theorem extract_one (s : ByteArray) (i : Nat) (h : i < s.size) : (s.extract i (i + 1)).data.toList = [s[i]] := by
  rw [extract_data, drop_at s i h, show i + 1 - i = 1 by omega]; rfl

theorem str_ext {a b : ByteArray} (h : a.data.toList = b.data.toList) : a = b := by
  cases a; cases b; congr 1; exact Array.toList_inj.1 h
theorem str_beq (A B : ByteArray) : (A.toList == B.toList) = decide (A.data.toList = B.data.toList) := by
  rw [ByteArray.toList_eq, ByteArray.toList_eq, Bool.eq_iff_iff, beq_iff_eq, decide_eq_true_iff]
theorem mem_take (s : ByteArray) (i : Nat) (h : i < s.size) (c : UInt8) : decide (c ∈ s.data.toList.take (i + 1)) = (decide (c ∈ s.data.toList.take i) || ((s[i].toNat : Nat) : Int) == (c.toNat : Int)) := by
  have e : s.data.toList.take (i + 1) = s.data.toList.take i ++ [s[i]] := by
    have hi' : i < s.data.toList.length := by rw [← Lib.size_eq]; exact h
    rw [List.take_succ_eq_append_getElem hi']; rfl
  rw [e, Bool.eq_iff_iff]
  simp only [List.mem_append, List.mem_singleton, decide_eq_true_eq, Bool.or_eq_true, beq_iff_eq]
  have : c = s[i] ↔ ((s[i].toNat : Nat) : Int) = (c.toNat : Int) := by
    rw [← UInt8.toNat_inj]; omega
  rw [this]

end Go.Proofs.Ytbcmfcddkegcoaa
