/-
  The arithmetic of bits in package utf's beginning, in plain Lean.
-/
import Derived.Test.YtnbafhaajckdcaaDoorUtfMathB
import Derived.Laws.BitsLemmas
import Derived.Laws.BitsAllLaws
import Derived.RowKit
namespace Go.Proofs.YtnbafhaajckdcaaDoor
open Go.RowKit Go.Lib

/-- how many bytes a sign has that begins with this one -/
def annN (b0 : Nat) : Nat := if b0 < 192 ∨ 247 < b0 then 1 else if b0 < 224 then 2 else if b0 < 240 then 3 else 4

theorem and192_fin : ∀ b : Fin 256, (((b.val &&& 192 : Nat) : Int) == 128) = decide (b.val / 64 = 2) := by decide +kernel
theorem and192 (b : Nat) (hb : b < 256) : (bits .and .u8 (b : Int) 192 == 128) = decide (b / 64 = 2) := by
  rw [show (192 : Int) = ((192 : Nat) : Int) from rfl, u8_and_nat b 192 hb (by decide)]
  exact and192_fin ⟨b, hb⟩

theorem i32_mask4 (b : Nat) (hb : b < 256) : bits .and .i32 (b : Int) 15 = (b : Int) % 16 :=
  bits_mask .i32 31 (by decide) wraps_i32 4 (by decide) b (by omega) (by omega)
theorem i32_mask3 (b : Nat) (hb : b < 256) : bits .and .i32 (b : Int) 7 = (b : Int) % 8 :=
  bits_mask .i32 31 (by decide) wraps_i32 3 (by decide) b (by omega) (by omega)
theorem w32 (x : Int) (h0 : 0 ≤ x) (h1 : x < 2147483648) : wrap32 x = x := by unfold wrap32; omega

/-- two bytes' bits side by side -/
theorem join6 (x y : Int) (hx : 0 ≤ x) (hx1 : x < 33554432) (hy : 0 ≤ y) (hy1 : y < 256) :
    bits .or .i32 (wrap32 (x * 64)) (wrap32 (bits .and .u8 y 63)) = x * 64 + y % 64 := by
  rw [u8_and63 _ hy hy1, w32 _ (by omega) (by omega), w32 _ (by omega) (by omega)]
  exact i32_or6 _ _ (by omega) (by omega) (by omega) (by omega) (by omega)

theorem least3 (b0 b1 : Nat) (h0 : b0 < 256) (h1 : b1 < 256) :
    wrap32 (bits .or .i32 (wrap32 (bits .and .i32 (b0 : Int) 15 * 64)) (wrap32 (bits .and .u8 (b1 : Int) 63)) * 64) = ((b0 % 16 * 4096 + b1 % 64 * 64 : Nat) : Int) := by
  rw [i32_mask4 b0 h0, join6 _ _ (by omega) (by omega) (by omega) (by omega), w32 _ (by omega) (by omega)]
  omega
theorem least4 (b0 b1 : Nat) (h0 : b0 < 256) (h1 : b1 < 256) :
    wrap32 (bits .or .i32 (wrap32 (bits .and .i32 (b0 : Int) 7 * 64)) (wrap32 (bits .and .u8 (b1 : Int) 63)) * 4096) = ((b0 % 8 * 262144 + b1 % 64 * 4096 : Nat) : Int) := by
  rw [i32_mask3 b0 h0, join6 _ _ (by omega) (by omega) (by omega) (by omega), w32 _ (by omega) (by omega)]
  omega
theorem least4b (b0 b1 b2 : Nat) (h0 : b0 < 256) (h1 : b1 < 256) (h2 : b2 < 256) :
    wrap32 (bits .or .i32 (wrap32 (bits .or .i32 (wrap32 (bits .and .i32 (b0 : Int) 7 * 64)) (wrap32 (bits .and .u8 (b1 : Int) 63)) * 64)) (wrap32 (bits .and .u8 (b2 : Int) 63)) * 64)
      = ((b0 % 8 * 262144 + b1 % 64 * 4096 + b2 % 64 * 64 : Nat) : Int) := by
  rw [i32_mask3 b0 h0, join6 _ (b1 : Int) (by omega) (by omega) (by omega) (by omega), join6 _ _ (by omega) (by omega) (by omega) (by omega), w32 _ (by omega) (by omega)]
  omega

theorem runeLen3 (c : Nat) : (runeLen (c : Int) == 3) = decide (2048 ≤ c ∧ (c < 55296 ∨ 57343 < c) ∧ c ≤ 65535) := by
  unfold runeLen
  repeat' split
  all_goals simp
  all_goals omega
theorem runeLen4 (c : Nat) : (runeLen (c : Int) == 4) = decide (65536 ≤ c ∧ c ≤ 1114111) := by
  unfold runeLen
  repeat' split
  all_goals simp
  all_goals omega

theorem getD_at (s : ByteArray) (k : Nat) (h : k < s.size) : s.data.toList.getD k 0 = s[k]'h := by
  have h' : k < s.data.size := h
  rw [List.getD_eq_getElem?_getD, List.getElem?_eq_getElem (by simpa using h'), Option.getD_some]
  rfl
theorem length_at (s : ByteArray) : s.data.toList.length = s.size := (size_eq s).symm

theorem beg_short (s : ByteArray) (hs : 0 < s.size) (h : annN (s[0]'hs).toNat = 1 ∨ annN (s[0]'hs).toNat = 2) : begL s.data.toList = 1 := by
  unfold begL
  rw [getD_at s 0 hs]
  unfold annN at h
  have := (s[0]'hs).toNat_lt
  unfold begN
  repeat' split
  all_goals first | rfl | (exfalso; repeat' split at h) 
  all_goals omega
theorem beg_one (s : ByteArray) (hs : s.size = 1) : begL s.data.toList = 1 := by
  unfold begL
  rw [length_at, hs]
  have := begN_le 1 (s.data.toList.getD 0 0).toNat (s.data.toList.getD 1 0).toNat (s.data.toList.getD 2 0).toNat (Nat.le_refl _)
  have := begN_ge 1 (s.data.toList.getD 0 0).toNat (s.data.toList.getD 1 0).toNat (s.data.toList.getD 2 0).toNat
  omega
theorem ann3 {b : Nat} (h : annN b = 3) : 224 ≤ b ∧ b < 240 := by
  unfold annN at h
  repeat' split at h
  all_goals omega
theorem ann4 {b : Nat} (h : annN b = 4) : 240 ≤ b ∧ b < 248 := by
  unfold annN at h
  repeat' split at h
  all_goals omega

theorem beg3_no (s : ByteArray) (hs : 1 < s.size) (h : annN (s[0]'(by omega)).toNat = 3) (hc : (bits .and .u8 ((s[1]'hs).toNat : Int) 192 == 128) = false) : begL s.data.toList = 1 := by
  rw [and192 _ (byte_lt _), decide_eq_false_iff_not] at hc
  have ha := ann3 h
  unfold begL
  rw [getD_at s 0 (by omega), getD_at s 1 hs]
  unfold begN
  rw [if_neg (by omega), if_pos (by omega), if_neg (by omega)]
theorem beg3_far (s : ByteArray) (hs : 1 < s.size) (h : annN (s[0]'(by omega)).toNat = 3)
    (hr : (runeLen (((s[0]'(by omega)).toNat % 16 * 4096 + (s[1]'hs).toNat % 64 * 64 : Nat) : Int) == 3) = false) : begL s.data.toList = 1 := by
  rw [runeLen3, decide_eq_false_iff_not] at hr
  have ha := ann3 h
  unfold begL
  rw [getD_at s 0 (by omega), getD_at s 1 hs]
  unfold begN
  rw [if_neg (by omega), if_pos (by omega), if_neg (by omega)]
theorem beg3_yes (s : ByteArray) (hs : 1 < s.size) (h : annN (s[0]'(by omega)).toNat = 3) (hc : (bits .and .u8 ((s[1]'hs).toNat : Int) 192 == 128) = true)
    (hr : (runeLen (((s[0]'(by omega)).toNat % 16 * 4096 + (s[1]'hs).toNat % 64 * 64 : Nat) : Int) == 3) = true) : begL s.data.toList = 2 := by
  rw [and192 _ (byte_lt _), decide_eq_true_iff] at hc
  rw [runeLen3, decide_eq_true_iff] at hr
  have ha := ann3 h
  unfold begL
  rw [length_at, getD_at s 0 (by omega), getD_at s 1 hs]
  unfold begN
  rw [if_neg (by omega), if_pos (by omega), if_pos (by omega)]
theorem beg4_no (s : ByteArray) (hs : 1 < s.size) (h : annN (s[0]'(by omega)).toNat = 4) (hc : (bits .and .u8 ((s[1]'hs).toNat : Int) 192 == 128) = false) : begL s.data.toList = 1 := by
  rw [and192 _ (byte_lt _), decide_eq_false_iff_not] at hc
  have ha := ann4 h
  unfold begL
  rw [getD_at s 0 (by omega), getD_at s 1 hs]
  unfold begN
  rw [if_neg (by omega), if_neg (by omega), if_neg (by omega)]
theorem beg4_far (s : ByteArray) (hs : 1 < s.size) (h : annN (s[0]'(by omega)).toNat = 4)
    (hr : (runeLen (((s[0]'(by omega)).toNat % 8 * 262144 + (s[1]'hs).toNat % 64 * 4096 : Nat) : Int) == 4) = false) : begL s.data.toList = 1 := by
  rw [runeLen4, decide_eq_false_iff_not] at hr
  have ha := ann4 h
  unfold begL
  rw [getD_at s 0 (by omega), getD_at s 1 hs]
  unfold begN
  rw [if_neg (by omega), if_neg (by omega), if_neg (by omega)]
theorem beg4_two (s : ByteArray) (hs : 1 < s.size) (h : annN (s[0]'(by omega)).toNat = 4) (hc : (bits .and .u8 ((s[1]'hs).toNat : Int) 192 == 128) = true)
    (hr : (runeLen (((s[0]'(by omega)).toNat % 8 * 262144 + (s[1]'hs).toNat % 64 * 4096 : Nat) : Int) == 4) = true)
    (h2 : s.size = 2 ∨ ∃ h2 : 2 < s.size, (bits .and .u8 ((s[2]'h2).toNat : Int) 192 == 128) = false) : begL s.data.toList = 2 := by
  rw [and192 _ (byte_lt _), decide_eq_true_iff] at hc
  rw [runeLen4, decide_eq_true_iff] at hr
  have ha := ann4 h
  unfold begL
  rw [length_at, getD_at s 0 (by omega), getD_at s 1 hs]
  unfold begN
  rw [if_neg (by omega), if_neg (by omega), if_pos (by omega)]
  rcases h2 with h2 | ⟨h2, hd⟩
  · rw [if_neg (by omega)]
  · rw [and192 _ (byte_lt _), decide_eq_false_iff_not] at hd
    rw [getD_at s 2 h2, if_neg (by omega)]
theorem beg4_three (s : ByteArray) (hs : 2 < s.size) (h : annN (s[0]'(by omega)).toNat = 4) (hc : (bits .and .u8 ((s[1]'(by omega)).toNat : Int) 192 == 128) = true)
    (hr : (runeLen (((s[0]'(by omega)).toNat % 8 * 262144 + (s[1]'(by omega)).toNat % 64 * 4096 : Nat) : Int) == 4) = true)
    (hd : (bits .and .u8 ((s[2]'hs).toNat : Int) 192 == 128) = true) : begL s.data.toList = 3 := by
  rw [and192 _ (byte_lt _), decide_eq_true_iff] at hc hd
  rw [runeLen4, decide_eq_true_iff] at hr
  have ha := ann4 h
  unfold begL
  rw [length_at, getD_at s 0 (by omega), getD_at s 1 (by omega), getD_at s 2 hs]
  unfold begN
  rw [if_neg (by omega), if_neg (by omega), if_pos (by omega), if_pos (by omega)]
theorem far_aux (c x : Nat) (hm : c % 4096 = 0) (hx : x < 64) (h : 65536 ≤ c ∧ c ≤ 1114111) : 65536 ≤ c + x * 64 ∧ c + x * 64 ≤ 1114111 := by omega
theorem mod_aux (x y : Nat) : (x * 262144 + y * 4096) % 4096 = 0 := by omega
set_option maxRecDepth 100000 in
/-- the third byte changes nothing about how long it is -/
theorem least4b_len (b0 b1 b2 : Nat) (h : (runeLen ((b0 % 8 * 262144 + b1 % 64 * 4096 : Nat) : Int) == 4) = true) :
    (runeLen ((b0 % 8 * 262144 + b1 % 64 * 4096 + b2 % 64 * 64 : Nat) : Int) == 4) = true := by
  rw [runeLen4, decide_eq_true_iff] at h ⊢
  exact far_aux _ _ (mod_aux _ _) (Nat.mod_lt _ (by decide)) h

/-! the same, as the walk spells it -/
theorem n3 (a b : Nat) : (runeLen ((a : Int) % 16 * 4096 + (b : Int) % 64 * 64) != 3) = !(runeLen ((a % 16 * 4096 + b % 64 * 64 : Nat) : Int) == 3) := by
  rw [show ((a % 16 * 4096 + b % 64 * 64 : Nat) : Int) = (a : Int) % 16 * 4096 + (b : Int) % 64 * 64 by omega]; rfl
theorem n4 (a b : Nat) : (runeLen ((a : Int) % 8 * 262144 + (b : Int) % 64 * 4096) != 4) = !(runeLen ((a % 8 * 262144 + b % 64 * 4096 : Nat) : Int) == 4) := by
  rw [show ((a % 8 * 262144 + b % 64 * 4096 : Nat) : Int) = (a : Int) % 8 * 262144 + (b : Int) % 64 * 4096 by omega]; rfl
theorem n4b (a b c : Nat) (h : (runeLen ((a : Int) % 8 * 262144 + (b : Int) % 64 * 4096) != 4) = false) :
    (runeLen ((a : Int) % 8 * 262144 + (b : Int) % 64 * 4096 + (c : Int) % 64 * 64) != 4) = false := by
  rw [n4, Bool.not_eq_false'] at h
  have := least4b_len a b c h
  rw [show ((a % 8 * 262144 + b % 64 * 4096 + c % 64 * 64 : Nat) : Int) = (a : Int) % 8 * 262144 + (b : Int) % 64 * 4096 + (c : Int) % 64 * 64 by omega] at this
  simp only [bne, this, Bool.not_true]
theorem no3 {a b : Nat} (h : (runeLen ((a : Int) % 16 * 4096 + (b : Int) % 64 * 64) != 3) = true) : (runeLen ((a % 16 * 4096 + b % 64 * 64 : Nat) : Int) == 3) = false := by
  rwa [n3, Bool.not_eq_true'] at h
theorem yes3 {a b : Nat} (h : (runeLen ((a : Int) % 16 * 4096 + (b : Int) % 64 * 64) != 3) = false) : (runeLen ((a % 16 * 4096 + b % 64 * 64 : Nat) : Int) == 3) = true := by
  rwa [n3, Bool.not_eq_false'] at h
theorem no4 {a b : Nat} (h : (runeLen ((a : Int) % 8 * 262144 + (b : Int) % 64 * 4096) != 4) = true) : (runeLen ((a % 8 * 262144 + b % 64 * 4096 : Nat) : Int) == 4) = false := by
  rwa [n4, Bool.not_eq_true'] at h
theorem yes4 {a b : Nat} (h : (runeLen ((a : Int) % 8 * 262144 + (b : Int) % 64 * 4096) != 4) = false) : (runeLen ((a % 8 * 262144 + b % 64 * 4096 : Nat) : Int) == 4) = true := by
  rwa [n4, Bool.not_eq_false'] at h

end Go.Proofs.YtnbafhaajckdcaaDoor
