/-
  Texts laid together: UtfBits, Builder, UtfCode, UtfBeg, UtfLoop, UtfDec, UtfAwake, UtfRefSign.
-/
import Derived.Test.YtbcmfcddkegcoaaDoorP1
import Derived.Laws.BitsLemmas
import Derived.Laws.BitsAllLaws
import Derived.RowKit
import Derived.Test.YtbcmfcddkegcoaaDoorP4
import Derived.WalkSpells
import Derived.WalkLawsBesides
import Derived.Lib.Hide
import Derived.Deep.QuietTactic
import Derived.BigQuiet
import Derived.LoopN
import Derived.Lib.OthersKept
import Derived.Laws.IdiomStrings
import Derived.Deep.DeepFit
/-! The arithmetic of bits in package utf's beginning, in plain Lean. -/
namespace Go.Proofs.YtbcmfcddkegcoaaDoor
open Go.RowKit Go.Lib

/-- how many bytes a sign has that begins with this one -/
def annN (b0 : Nat) : Nat := if b0 < 192 ∨ 247 < b0 then 1 else if b0 < 224 then 2 else if b0 < 240 then 3 else 4

theorem and192_fin : ∀ b : Fin 256, (((b.val &&& 192 : Nat) : Int) == 128) = decide (b.val / 64 = 2) := by decide +kernel
theorem and192 (b : Nat) (hb : b < 256) : (bits .and .u8 (b : Int) 192 == 128) = decide (b / 64 = 2) := by
  rw [show (192 : Int) = ((192 : Nat) : Int) from rfl, u8_and_nat b 192 hb (by decide)]
  exact and192_fin ⟨b, hb⟩

theorem i32_mask4 (b : Nat) (hb : b < 256) : bits .and .i32 (b : Int) 15 = (b : Int) % 16 :=
  bits_mask .i32 31 (by decide) wraps_i32 4 (by decide) b (by omega) (by omega)
theorem i32_mask3 (b : Nat) (hb : b < 256) : bits .and .i32 (b : Int) 7 = (b : Int) % 8 :=
  bits_mask .i32 31 (by decide) wraps_i32 3 (by decide) b (by omega) (by omega)
theorem w32 (x : Int) (h0 : 0 ≤ x) (h1 : x < 2147483648) : wrap32 x = x := by unfold wrap32; omega

/-- two bytes' bits side by side -/
theorem join6 (x y : Int) (hx : 0 ≤ x) (hx1 : x < 33554432) (hy : 0 ≤ y) (hy1 : y < 256) :
    bits .or .i32 (wrap32 (x * 64)) (wrap32 (bits .and .u8 y 63)) = x * 64 + y % 64 := by
  rw [u8_and63 _ hy hy1, w32 _ (by omega) (by omega), w32 _ (by omega) (by omega)]
  exact i32_or6 _ _ (by omega) (by omega) (by omega) (by omega) (by omega)

theorem least3 (b0 b1 : Nat) (h0 : b0 < 256) (h1 : b1 < 256) :
    wrap32 (bits .or .i32 (wrap32 (bits .and .i32 (b0 : Int) 15 * 64)) (wrap32 (bits .and .u8 (b1 : Int) 63)) * 64) = ((b0 % 16 * 4096 + b1 % 64 * 64 : Nat) : Int) := by
  rw [i32_mask4 b0 h0, join6 _ _ (by omega) (by omega) (by omega) (by omega), w32 _ (by omega) (by omega)]
  omega
theorem least4 (b0 b1 : Nat) (h0 : b0 < 256) (h1 : b1 < 256) :
    wrap32 (bits .or .i32 (wrap32 (bits .and .i32 (b0 : Int) 7 * 64)) (wrap32 (bits .and .u8 (b1 : Int) 63)) * 4096) = ((b0 % 8 * 262144 + b1 % 64 * 4096 : Nat) : Int) := by
  rw [i32_mask3 b0 h0, join6 _ _ (by omega) (by omega) (by omega) (by omega), w32 _ (by omega) (by omega)]
  omega
theorem least4b (b0 b1 b2 : Nat) (h0 : b0 < 256) (h1 : b1 < 256) (h2 : b2 < 256) :
    wrap32 (bits .or .i32 (wrap32 (bits .or .i32 (wrap32 (bits .and .i32 (b0 : Int) 7 * 64)) (wrap32 (bits .and .u8 (b1 : Int) 63)) * 64)) (wrap32 (bits .and .u8 (b2 : Int) 63)) * 64)
      = ((b0 % 8 * 262144 + b1 % 64 * 4096 + b2 % 64 * 64 : Nat) : Int) := by
  rw [i32_mask3 b0 h0, join6 _ (b1 : Int) (by omega) (by omega) (by omega) (by omega), join6 _ _ (by omega) (by omega) (by omega) (by omega), w32 _ (by omega) (by omega)]
  omega

theorem runeLen3 (c : Nat) : (runeLen (c : Int) == 3) = decide (2048 ≤ c ∧ (c < 55296 ∨ 57343 < c) ∧ c ≤ 65535) := by
  unfold runeLen
  repeat' split
  all_goals simp
  all_goals omega
theorem runeLen4 (c : Nat) : (runeLen (c : Int) == 4) = decide (65536 ≤ c ∧ c ≤ 1114111) := by
  unfold runeLen
  repeat' split
  all_goals simp
  all_goals omega

theorem getD_at (s : ByteArray) (k : Nat) (h : k < s.size) : s.data.toList.getD k 0 = s[k]'h := by
  have h' : k < s.data.size := h
  rw [List.getD_eq_getElem?_getD, List.getElem?_eq_getElem (by simpa using h'), Option.getD_some]
  rfl
theorem length_at (s : ByteArray) : s.data.toList.length = s.size := (size_eq s).symm

theorem beg_short (s : ByteArray) (hs : 0 < s.size) (h : annN (s[0]'hs).toNat = 1 ∨ annN (s[0]'hs).toNat = 2) : begL s.data.toList = 1 := by
  unfold begL
  rw [getD_at s 0 hs]
  unfold annN at h
  have := (s[0]'hs).toNat_lt
  unfold begN
  repeat' split
  all_goals first | rfl | (exfalso; repeat' split at h) 
  all_goals omega
theorem beg_one (s : ByteArray) (hs : s.size = 1) : begL s.data.toList = 1 := by
  unfold begL
  rw [length_at, hs]
  have := begN_le 1 (s.data.toList.getD 0 0).toNat (s.data.toList.getD 1 0).toNat (s.data.toList.getD 2 0).toNat (Nat.le_refl _)
  have := begN_ge 1 (s.data.toList.getD 0 0).toNat (s.data.toList.getD 1 0).toNat (s.data.toList.getD 2 0).toNat
  omega
theorem ann3 {b : Nat} (h : annN b = 3) : 224 ≤ b ∧ b < 240 := by
  unfold annN at h
  repeat' split at h
  all_goals omega
theorem ann4 {b : Nat} (h : annN b = 4) : 240 ≤ b ∧ b < 248 := by
  unfold annN at h
  repeat' split at h
  all_goals omega

theorem beg3_no (s : ByteArray) (hs : 1 < s.size) (h : annN (s[0]'(by omega)).toNat = 3) (hc : (bits .and .u8 ((s[1]'hs).toNat : Int) 192 == 128) = false) : begL s.data.toList = 1 := by
  rw [and192 _ (byte_lt _), decide_eq_false_iff_not] at hc
  have ha := ann3 h
  unfold begL
  rw [getD_at s 0 (by omega), getD_at s 1 hs]
  unfold begN
  rw [if_neg (by omega), if_pos (by omega), if_neg (by omega)]
theorem beg3_far (s : ByteArray) (hs : 1 < s.size) (h : annN (s[0]'(by omega)).toNat = 3)
    (hr : (runeLen (((s[0]'(by omega)).toNat % 16 * 4096 + (s[1]'hs).toNat % 64 * 64 : Nat) : Int) == 3) = false) : begL s.data.toList = 1 := by
  rw [runeLen3, decide_eq_false_iff_not] at hr
  have ha := ann3 h
  unfold begL
  rw [getD_at s 0 (by omega), getD_at s 1 hs]
  unfold begN
  rw [if_neg (by omega), if_pos (by omega), if_neg (by omega)]
theorem beg3_yes (s : ByteArray) (hs : 1 < s.size) (h : annN (s[0]'(by omega)).toNat = 3) (hc : (bits .and .u8 ((s[1]'hs).toNat : Int) 192 == 128) = true)
    (hr : (runeLen (((s[0]'(by omega)).toNat % 16 * 4096 + (s[1]'hs).toNat % 64 * 64 : Nat) : Int) == 3) = true) : begL s.data.toList = 2 := by
  rw [and192 _ (byte_lt _), decide_eq_true_iff] at hc
  rw [runeLen3, decide_eq_true_iff] at hr
  have ha := ann3 h
  unfold begL
  rw [length_at, getD_at s 0 (by omega), getD_at s 1 hs]
  unfold begN
  rw [if_neg (by omega), if_pos (by omega), if_pos (by omega)]
theorem beg4_no (s : ByteArray) (hs : 1 < s.size) (h : annN (s[0]'(by omega)).toNat = 4) (hc : (bits .and .u8 ((s[1]'hs).toNat : Int) 192 == 128) = false) : begL s.data.toList = 1 := by
  rw [and192 _ (byte_lt _), decide_eq_false_iff_not] at hc
  have ha := ann4 h
  unfold begL
  rw [getD_at s 0 (by omega), getD_at s 1 hs]
  unfold begN
  rw [if_neg (by omega), if_neg (by omega), if_neg (by omega)]
theorem beg4_far (s : ByteArray) (hs : 1 < s.size) (h : annN (s[0]'(by omega)).toNat = 4)
    (hr : (runeLen (((s[0]'(by omega)).toNat % 8 * 262144 + (s[1]'hs).toNat % 64 * 4096 : Nat) : Int) == 4) = false) : begL s.data.toList = 1 := by
  rw [runeLen4, decide_eq_false_iff_not] at hr
  have ha := ann4 h
  unfold begL
  rw [getD_at s 0 (by omega), getD_at s 1 hs]
  unfold begN
  rw [if_neg (by omega), if_neg (by omega), if_neg (by omega)]
theorem beg4_two (s : ByteArray) (hs : 1 < s.size) (h : annN (s[0]'(by omega)).toNat = 4) (hc : (bits .and .u8 ((s[1]'hs).toNat : Int) 192 == 128) = true)
    (hr : (runeLen (((s[0]'(by omega)).toNat % 8 * 262144 + (s[1]'hs).toNat % 64 * 4096 : Nat) : Int) == 4) = true)
    (h2 : s.size = 2 ∨ ∃ h2 : 2 < s.size, (bits .and .u8 ((s[2]'h2).toNat : Int) 192 == 128) = false) : begL s.data.toList = 2 := by
  rw [and192 _ (byte_lt _), decide_eq_true_iff] at hc
  rw [runeLen4, decide_eq_true_iff] at hr
  have ha := ann4 h
  unfold begL
  rw [length_at, getD_at s 0 (by omega), getD_at s 1 hs]
  unfold begN
  rw [if_neg (by omega), if_neg (by omega), if_pos (by omega)]
  rcases h2 with h2 | ⟨h2, hd⟩
  · rw [if_neg (by omega)]
  · rw [and192 _ (byte_lt _), decide_eq_false_iff_not] at hd
    rw [getD_at s 2 h2, if_neg (by omega)]
theorem beg4_three (s : ByteArray) (hs : 2 < s.size) (h : annN (s[0]'(by omega)).toNat = 4) (hc : (bits .and .u8 ((s[1]'(by omega)).toNat : Int) 192 == 128) = true)
    (hr : (runeLen (((s[0]'(by omega)).toNat % 8 * 262144 + (s[1]'(by omega)).toNat % 64 * 4096 : Nat) : Int) == 4) = true)
    (hd : (bits .and .u8 ((s[2]'hs).toNat : Int) 192 == 128) = true) : begL s.data.toList = 3 := by
  rw [and192 _ (byte_lt _), decide_eq_true_iff] at hc hd
  rw [runeLen4, decide_eq_true_iff] at hr
  have ha := ann4 h
  unfold begL
  rw [length_at, getD_at s 0 (by omega), getD_at s 1 (by omega), getD_at s 2 hs]
  unfold begN
  rw [if_neg (by omega), if_neg (by omega), if_pos (by omega), if_pos (by omega)]
theorem far_aux (c x : Nat) (hm : c % 4096 = 0) (hx : x < 64) (h : 65536 ≤ c ∧ c ≤ 1114111) : 65536 ≤ c + x * 64 ∧ c + x * 64 ≤ 1114111 := by omega
theorem mod_aux (x y : Nat) : (x * 262144 + y * 4096) % 4096 = 0 := by omega
set_option maxRecDepth 100000 in
/-- the third byte changes nothing about how long it is -/
theorem least4b_len (b0 b1 b2 : Nat) (h : (runeLen ((b0 % 8 * 262144 + b1 % 64 * 4096 : Nat) : Int) == 4) = true) :
    (runeLen ((b0 % 8 * 262144 + b1 % 64 * 4096 + b2 % 64 * 64 : Nat) : Int) == 4) = true := by
  rw [runeLen4, decide_eq_true_iff] at h ⊢
  exact far_aux _ _ (mod_aux _ _) (Nat.mod_lt _ (by decide)) h

/-! the same, as the walk spells it -/
theorem n3 (a b : Nat) : (runeLen ((a : Int) % 16 * 4096 + (b : Int) % 64 * 64) != 3) = !(runeLen ((a % 16 * 4096 + b % 64 * 64 : Nat) : Int) == 3) := by
  rw [show ((a % 16 * 4096 + b % 64 * 64 : Nat) : Int) = (a : Int) % 16 * 4096 + (b : Int) % 64 * 64 by omega]; rfl
theorem n4 (a b : Nat) : (runeLen ((a : Int) % 8 * 262144 + (b : Int) % 64 * 4096) != 4) = !(runeLen ((a % 8 * 262144 + b % 64 * 4096 : Nat) : Int) == 4) := by
  rw [show ((a % 8 * 262144 + b % 64 * 4096 : Nat) : Int) = (a : Int) % 8 * 262144 + (b : Int) % 64 * 4096 by omega]; rfl
theorem n4b (a b c : Nat) (h : (runeLen ((a : Int) % 8 * 262144 + (b : Int) % 64 * 4096) != 4) = false) :
    (runeLen ((a : Int) % 8 * 262144 + (b : Int) % 64 * 4096 + (c : Int) % 64 * 64) != 4) = false := by
  rw [n4, Bool.not_eq_false'] at h
  have := least4b_len a b c h
  rw [show ((a % 8 * 262144 + b % 64 * 4096 + c % 64 * 64 : Nat) : Int) = (a : Int) % 8 * 262144 + (b : Int) % 64 * 4096 + (c : Int) % 64 * 64 by omega] at this
  simp only [bne, this, Bool.not_true]
theorem no3 {a b : Nat} (h : (runeLen ((a : Int) % 16 * 4096 + (b : Int) % 64 * 64) != 3) = true) : (runeLen ((a % 16 * 4096 + b % 64 * 64 : Nat) : Int) == 3) = false := by
  rwa [n3, Bool.not_eq_true'] at h
theorem yes3 {a b : Nat} (h : (runeLen ((a : Int) % 16 * 4096 + (b : Int) % 64 * 64) != 3) = false) : (runeLen ((a % 16 * 4096 + b % 64 * 64 : Nat) : Int) == 3) = true := by
  rwa [n3, Bool.not_eq_false'] at h
theorem no4 {a b : Nat} (h : (runeLen ((a : Int) % 8 * 262144 + (b : Int) % 64 * 4096) != 4) = true) : (runeLen ((a % 8 * 262144 + b % 64 * 4096 : Nat) : Int) == 4) = false := by
  rwa [n4, Bool.not_eq_true'] at h
theorem yes4 {a b : Nat} (h : (runeLen ((a : Int) % 8 * 262144 + (b : Int) % 64 * 4096) != 4) = false) : (runeLen ((a % 8 * 262144 + b % 64 * 4096 : Nat) : Int) == 4) = true := by
  rwa [n4, Bool.not_eq_false'] at h

end Go.Proofs.YtbcmfcddkegcoaaDoor

/-! What writing to a Builder does, at this program: WriteRune (copyCheck, WriteString, WriteByte: BldB, Bld). -/
namespace Go.Proofs.YtbcmfcddkegcoaaDoor
open Go.RowKit Go.Shelf

end Go.Proofs.YtbcmfcddkegcoaaDoor

/-! What package utf's functions answer, for every argument: told by the plain functions of UtfMath. -/
namespace Go.Proofs.YtbcmfcddkegcoaaDoor
open Go.RowKit Go.Lib

theorem ofNat_eq (a : Nat) (x : Int) (h : x.toNat = a) : UInt8.ofNat a = x.toNat.toUInt8 := by rw [h]
/-- the model's bytes of a rune's sign are the plain ones -/
theorem encode_eq (n : Int) : Utf8.encode n = ⟨(encodeRune n).toArray⟩ := by
  by_cases h : 0 ≤ n ∧ IsSign n.toNat
  · obtain ⟨hn, hs⟩ := h
    obtain ⟨r, rfl⟩ := Int.eq_ofNat_of_zero_le hn
    unfold IsSign at hs
    rw [Int.toNat_natCast] at hs
    have v : Utf8.valid (r : Int) = true := by
      unfold Utf8.valid
      simp
      omega
    unfold Utf8.encode encodeRune
    simp only [v, if_true, Int.toNat_natCast]
    by_cases h1 : r ≤ 127
    · rw [if_pos (by omega), encodeRuneZ_one (by omega) (by omega)]
      simp only [List.map_cons, List.map_nil]
      rw [ofNat_eq r (r : Int) (by omega)]
    by_cases h2 : r ≤ 2047
    · rw [if_neg (by omega), if_pos (by omega), encodeRuneZ_two (by omega) (by omega)]
      simp only [List.map_cons, List.map_nil]
      rw [ofNat_eq _ (192 + (r : Int) / 64) (by omega), ofNat_eq _ (128 + (r : Int) % 64) (by omega)]
    by_cases h3 : r ≤ 65535
    · rw [if_neg (by omega), if_neg (by omega), if_pos (by omega), encodeRuneZ_three (by omega)]
      simp only [List.map_cons, List.map_nil]
      rw [ofNat_eq _ (224 + (r : Int) / 4096) (by omega), ofNat_eq _ (128 + (r : Int) / 64 % 64) (by omega), ofNat_eq _ (128 + (r : Int) % 64) (by omega)]
    · rw [if_neg (by omega), if_neg (by omega), if_neg (by omega), encodeRuneZ_four (by omega) (by omega)]
      simp only [List.map_cons, List.map_nil]
      rw [ofNat_eq _ (240 + (r : Int) / 262144) (by omega), ofNat_eq _ (128 + (r : Int) / 4096 % 64) (by omega), ofNat_eq _ (128 + (r : Int) / 64 % 64) (by omega), ofNat_eq _ (128 + (r : Int) % 64) (by omega)]
  · unfold IsSign at h
    have v : Utf8.valid n = false := by
      unfold Utf8.valid
      simp
      omega
    unfold Utf8.encode encodeRune
    simp only [v, Bool.false_eq_true, if_false, Utf8.runeError]
    rw [encodeRuneZ_bad (by omega), if_neg (by omega), if_neg (by omega), if_pos (by omega)]
    rfl

set_option maxRecDepth 100000 in
/-- Sign: a number's sign; api.Bad, if there is none. -/
theorem sign_any (n : Int) (w : World) :
    Calls Tryd.prog 29 #[.int .i64 n] w fun e w' => e = .returned (.string ⟨(encodeRune n).toArray⟩) ∧ w = w' := by
  have E := Lib.hid (encode_eq n)
  by_cases h0 : n < 0
  · have B : Hid (encodeRune n = badL) := Lib.hid (by rw [encodeRune, encodeRuneZ_bad (.inl h0)]; rfl)
    go_enter Tryd.func29, Tryd.ntmps29
    go_wp2
    go_ret
    exact ⟨ret_str (by rw [B.out]; rfl), rfl⟩
  · by_cases h1 : 1114111 < n
    · have B : Hid (encodeRune n = badL) := Lib.hid (by rw [encodeRune, encodeRuneZ_bad (.inr (.inr h1))]; rfl)
      go_enter Tryd.func29, Tryd.ntmps29
      go_wp2
      go_ret
      exact ⟨ret_str (by rw [B.out]; rfl), rfl⟩
    · have g0 : 0 ≤ n := by omega
      have g1 : n ≤ 1114111 := by omega
      go_enter Tryd.func29, Tryd.ntmps29
      go_wp2
      go_ret
      exact ⟨ret_str E.out, rfl⟩

end Go.Proofs.YtbcmfcddkegcoaaDoor

/-! What package utf's beginning and broken answer, for every text. -/
namespace Go.Proofs.YtbcmfcddkegcoaaDoor
open Go.RowKit Go.Lib

theorem beg_cast {n m : Nat} (h : n = m) : Ending.returned (.int .i64 (m : Int)) = .returned (.int .i64 (n : Int)) := by rw [h]

theorem badL_lit : (ByteArray.mk #[239, 191, 189]).data.toList = badL := rfl
end Go.Proofs.YtbcmfcddkegcoaaDoor

/-! What package utf's Right and Decode answer, for every argument. -/
namespace Go.Proofs.YtbcmfcddkegcoaaDoor
open Go.RowKit Go.Lib

theorem drop_neU (s : ByteArray) (pos : Nat) (h : pos < s.size) : s.data.toList.drop pos ≠ [] := by
  intro h0
  have := congrArg List.length h0
  rw [List.length_drop, ← size_eq] at this
  simp at this
  omega
theorem drop_end (s : ByteArray) (pos : Nat) (h : ¬ pos < s.size) : s.data.toList.drop pos = [] :=
  List.drop_eq_nil_of_le (by rw [← size_eq]; omega)

end Go.Proofs.YtbcmfcddkegcoaaDoor

/-! What package utf's Decode answers, for every list of bytes. -/
namespace Go.Proofs.YtbcmfcddkegcoaaDoor
open Go.RowKit Go.Lib

/-- a value that is a list of bytes: nil, or a row in memory -/
def IsBytes (w : World) (v : Value) (l : List UInt8) : Prop :=
  (v = .slice none 0 0 ∧ l = []) ∨
  ∃ x cap, v = .slice (some x) l.length cap ∧ l.length ≤ cap ∧ cap ≤ maxLen ∧ ∀ i (h : i < l.length), w.cell? (x.add i) = some (.int .u8 ((l[i]'h).toNat : Int))

theorem IsBytes.conv {w : World} {v : Value} {l : List UInt8} (h : IsBytes w v l) :
    (convert 29 9 v).run Tryd.prog w = .ok (.string ⟨l.toArray⟩) w := by
  rcases h with ⟨rfl, rfl⟩ | ⟨x, cap, rfl, hl, hc, hcell⟩
  · rw [run_convert_bytes_string w 29 9 5 none 0 0 Tryd.underlying29 Tryd.underlying5 Tryd.underlying9]; rfl
  · exact run_convert_bytes_back (P := Tryd.prog) w 29 9 5 x cap l Tryd.underlying29 Tryd.underlying5 Tryd.underlying9 hcell

theorem strL (l : List UInt8) : (ByteArray.mk l.toArray).data.toList = l := by simp
theorem strSize (l : List UInt8) : (ByteArray.mk l.toArray).size = l.length := by rw [size_eq, strL]

/-- what is carried from round to round: the place, how far the longest beginning reached, what has been told -/
def DecAt (S : ByteArray) (pos behind : Nat) (acc : List UInt8) : Prop :=
  behind ≤ S.size ∧ (∀ i, pos ≤ i → i < behind → (S.data.toList.getD i 0).toNat / 64 = 2) ∧ acc ++ dec0 (S.data.toList.drop (max pos behind)) = dec0 S.data.toList ∧ acc.length ≤ 3 * max pos behind

theorem DecAt.skip {S : ByteArray} {pos behind : Nat} {acc : List UInt8} (h : DecAt S pos behind acc) (hlt : pos < behind) : Utf8.decode S pos = (65533, 1) ∧ DecAt S (pos + 1) behind acc := by
  obtain ⟨h1, h2, h3, h4⟩ := h
  refine ⟨?_, h1, fun i hi hb => h2 i (by omega) hb, ?_, ?_⟩
  · rw [← decodeL_drop]
    exact decodeL_cont _ (by rw [getD_dropU, Nat.add_zero]; exact h2 pos (Nat.le_refl _) hlt)
  · rw [show max (pos + 1) behind = max pos behind by omega]; exact h3
  · omega
theorem DecAt.bad {S : ByteArray} {pos behind : Nat} {acc : List UInt8} (h : DecAt S pos behind acc) (hp : pos < S.size) (hge : behind ≤ pos) (hk : brk (S.data.toList.drop pos) = true) :
    DecAt S (pos + 1) (pos + begL (S.data.toList.drop pos)) (acc ++ badL) := by
  obtain ⟨h1, h2, h3, h4⟩ := h
  have hb := begL_ge (S.data.toList.drop pos)
  have hl := begL_le (S.data.toList.drop pos) (drop_neU S pos hp)
  rw [List.length_drop, ← size_eq] at hl
  rw [show max pos behind = pos by omega] at h3 h4
  refine ⟨by omega, fun i hi hb => ?_, ?_, ?_⟩
  · have := beg_conts (S.data.toList.drop pos) (i - pos) (by omega) (by omega)
    rw [getD_dropU, show pos + (i - pos) = i by omega] at this
    exact this
  · rw [show max (pos + 1) (pos + begL (S.data.toList.drop pos)) = pos + begL (S.data.toList.drop pos) by omega, List.append_assoc, ← h3,
      dec0_step (S.data.toList.drop pos) (drop_neU S pos hp), hk, if_pos rfl, List.drop_drop]
  · rw [List.length_append]; simp only [badL, List.length_cons, List.length_nil]; omega
theorem DecAt.good {S : ByteArray} {pos behind : Nat} {acc : List UInt8} (h : DecAt S pos behind acc) (hp : pos < S.size) (hge : behind ≤ pos) (hk : brk (S.data.toList.drop pos) = false) :
    DecAt S (pos + (Utf8.decode S pos).2) behind (acc ++ encodeRune ((Utf8.decode S pos).1 : Int)) := by
  obtain ⟨h1, h2, h3, h4⟩ := h
  have hw := width_pos S pos
  have hl := width_enc (S.data.toList.drop pos) (drop_neU S pos hp) hk
  rw [decodeL_drop] at hl
  rw [show max pos behind = pos by omega] at h3 h4
  refine ⟨h1, fun i hi hb => by omega, ?_, ?_⟩
  · rw [show max (pos + (Utf8.decode S pos).2) behind = pos + (Utf8.decode S pos).2 by omega, List.append_assoc, ← h3,
      dec0_step (S.data.toList.drop pos) (drop_neU S pos hp), hk, if_neg (by simp), ← enc_dec _ (drop_neU S pos hp) hk, decodeL_drop, List.drop_drop]
  · rw [List.length_append, hl]; omega
theorem DecAt.end {S : ByteArray} {pos behind : Nat} {acc : List UInt8} (h : DecAt S pos behind acc) (hp : ¬ pos < S.size) : acc = dec0 S.data.toList := by
  obtain ⟨_, _, h3, _⟩ := h
  rw [drop_end S _ (by omega), dec0_nil, List.append_nil] at h3
  exact h3

theorem strCells_badU : strCells ⟨#[239, 191, 189]⟩ = byteCells badL := rfl

end Go.Proofs.YtbcmfcddkegcoaaDoor

/-! The chapter's examples, at every world: what 'awake' of layer 1 answers is true. -/
namespace Go.Proofs.YtbcmfcddkegcoaaDoor
open Go.RowKit Go.Lib

theorem dec_ex1 : (⟨(dec [65, 255, 66]).toArray⟩ : ByteArray) = ⟨#[65, 239, 191, 189, 66]⟩ := by
  rw [show dec [65, 255, 66] = [65, 239, 191, 189, 66] by decide +kernel]
theorem dec_ex2 : (⟨(dec [226, 130]).toArray⟩ : ByteArray) = ⟨#[239, 191, 189]⟩ := by
  rw [show dec [226, 130] = [239, 191, 189] by decide +kernel]
theorem dec_ex3 : (⟨(dec [224, 128]).toArray⟩ : ByteArray) = ⟨#[239, 191, 189, 239, 191, 189]⟩ := by
  rw [show dec [224, 128] = [239, 191, 189, 239, 191, 189] by decide +kernel]
theorem sign_ex : (⟨(encodeRune 65).toArray⟩ : ByteArray) = ⟨#[65]⟩ := by
  rw [show encodeRune 65 = [65] by decide +kernel]
theorem right_ex : validD (ByteArray.mk #[65]).data.toList = true := by decide +kernel

/-- a new row of bytes -/
theorem isBytes_new (w : World) (C : Array Value) (t : TypeId) (l : List UInt8) (h : C.toList = byteCells l) (hm : l.length ≤ maxLen) :
    IsBytes (w.alloc (.cells C t)) (.slice (some ⟨w.heap.size, 0, none⟩) l.length l.length) l := by
  refine .inr ⟨_, _, rfl, Nat.le_refl _, hm, fun i hi => ?_⟩
  have e : (⟨w.heap.size, 0, none⟩ : Addr).add i = ⟨w.heap.size, i, none⟩ := by simp [Addr.add]; omega
  rw [e, World.cell?_alloc_mark, ← Array.getElem?_toList, h, byteCells, List.getElem?_map, List.getElem?_eq_getElem hi]
  rfl

end Go.Proofs.YtbcmfcddkegcoaaDoor

/-! What the document's answer for a number's sign is, for every number. -/
namespace Go.Proofs.YtbcmfcddkegcoaaDoor
open Go.RowKit Go.Lib

theorem enc_conv (n : Int) (k : Nat) (C : Array Value) (hz : (encodeRuneZ n).map (Value.int .u8) = C.toList) (hk : (encodeRuneZ n).length = k) (w : World) :
    (convert 29 9 (.slice (some ⟨w.heap.size, 0, none⟩) k k)).run Tryd.prog (w.alloc (.cells C 5)) = .ok (.string ⟨(encodeRune n).toArray⟩) (w.alloc (.cells C 5)) := by
  have h4 := enc_len n
  have hl : (encodeRune n).length = k := by rw [← hk]; simp [encodeRune]
  have := (isBytes_new w C 5 (encodeRune n) (by rw [byteCells_encodeRune, runeCells, hz]) (by unfold maxLen; omega)).conv
  rwa [hl] at this

end Go.Proofs.YtbcmfcddkegcoaaDoor
