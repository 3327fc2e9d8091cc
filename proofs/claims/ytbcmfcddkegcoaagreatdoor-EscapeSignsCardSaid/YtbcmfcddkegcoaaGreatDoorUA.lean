/-
  Texts laid together: UtfBits, Builder, UtfCode, UtfBeg, UtfLoop, UtfDec, UtfAwake, UtfRefSign.
-/
import Derived.Test.YtbcmfcddkegcoaaGreatDoorP1
import Derived.Laws.BitsLemmas
import Derived.Laws.BitsAllLaws
import Derived.RowKit
import Derived.Test.YtbcmfcddkegcoaaGreatDoorP4
import Derived.WalkSpells
import Derived.WalkLawsBesides
import Derived.Lib.Hide
import Derived.Deep.QuietTactic
import Derived.BigQuiet
import Derived.LoopN
import Derived.Lib.OthersKept
import Derived.Laws.IdiomStrings
import Derived.Deep.DeepFit
/-! The arithmetic of bits in package utf's beginning, in plain Lean. -/
namespace Go.Proofs.YtbcmfcddkegcoaaGreatDoor
open Go.RowKit Go.Lib

/-- how many bytes a sign has that begins with this one -/
def annN (b0 : Nat) : Nat := if b0 < 192 ∨ 247 < b0 then 1 else if b0 < 224 then 2 else if b0 < 240 then 3 else 4

theorem and192_fin : ∀ b : Fin 256, (((b.val &&& 192 : Nat) : Int) == 128) = decide (b.val / 64 = 2) := by decide +kernel
theorem and192 (b : Nat) (hb : b < 256) : (bits .and .u8 (b : Int) 192 == 128) = decide (b / 64 = 2) := by
  rw [show (192 : Int) = ((192 : Nat) : Int) from rfl, u8_and_nat b 192 hb (by decide)]
  exact and192_fin ⟨b, hb⟩

theorem i32_mask4 (b : Nat) (hb : b < 256) : bits .and .i32 (b : Int) 15 = (b : Int) % 16 :=
  bits_mask .i32 31 (by decide) wraps_i32 4 (by decide) b (by omega) (by omega)
theorem i32_mask3 (b : Nat) (hb : b < 256) : bits .and .i32 (b : Int) 7 = (b : Int) % 8 :=
  bits_mask .i32 31 (by decide) wraps_i32 3 (by decide) b (by omega) (by omega)
theorem w32 (x : Int) (h0 : 0 ≤ x) (h1 : x < 2147483648) : wrap32 x = x := by unfold wrap32; omega

/-- two bytes' bits side by side -/
theorem join6 (x y : Int) (hx : 0 ≤ x) (hx1 : x < 33554432) (hy : 0 ≤ y) (hy1 : y < 256) :
    bits .or .i32 (wrap32 (x * 64)) (wrap32 (bits .and .u8 y 63)) = x * 64 + y % 64 := by
  rw [u8_and63 _ hy hy1, w32 _ (by omega) (by omega), w32 _ (by omega) (by omega)]
  exact i32_or6 _ _ (by omega) (by omega) (by omega) (by omega) (by omega)

theorem least3 (b0 b1 : Nat) (h0 : b0 < 256) (h1 : b1 < 256) :
    wrap32 (bits .or .i32 (wrap32 (bits .and .i32 (b0 : Int) 15 * 64)) (wrap32 (bits .and .u8 (b1 : Int) 63)) * 64) = ((b0 % 16 * 4096 + b1 % 64 * 64 : Nat) : Int) := by
  rw [i32_mask4 b0 h0, join6 _ _ (by omega) (by omega) (by omega) (by omega), w32 _ (by omega) (by omega)]
  omega
theorem least4 (b0 b1 : Nat) (h0 : b0 < 256) (h1 : b1 < 256) :
    wrap32 (bits .or .i32 (wrap32 (bits .and .i32 (b0 : Int) 7 * 64)) (wrap32 (bits .and .u8 (b1 : Int) 63)) * 4096) = ((b0 % 8 * 262144 + b1 % 64 * 4096 : Nat) : Int) := by
  rw [i32_mask3 b0 h0, join6 _ _ (by omega) (by omega) (by omega) (by omega), w32 _ (by omega) (by omega)]
  omega
theorem least4b (b0 b1 b2 : Nat) (h0 : b0 < 256) (h1 : b1 < 256) (h2 : b2 < 256) :
    wrap32 (bits .or .i32 (wrap32 (bits .or .i32 (wrap32 (bits .and .i32 (b0 : Int) 7 * 64)) (wrap32 (bits .and .u8 (b1 : Int) 63)) * 64)) (wrap32 (bits .and .u8 (b2 : Int) 63)) * 64)
      = ((b0 % 8 * 262144 + b1 % 64 * 4096 + b2 % 64 * 64 : Nat) : Int) := by
  rw [i32_mask3 b0 h0, join6 _ (b1 : Int) (by omega) (by omega) (by omega) (by omega), join6 _ _ (by omega) (by omega) (by omega) (by omega), w32 _ (by omega) (by omega)]
  omega

theorem runeLen3 (c : Nat) : (runeLen (c : Int) == 3) = decide (2048 ≤ c ∧ (c < 55296 ∨ 57343 < c) ∧ c ≤ 65535) := by
  unfold runeLen
  repeat' split
  all_goals simp
  all_goals omega
theorem runeLen4 (c : Nat) : (runeLen (c : Int) == 4) = decide (65536 ≤ c ∧ c ≤ 1114111) := by
  unfold runeLen
  repeat' split
  all_goals simp
  all_goals omega

theorem getD_at (s : ByteArray) (k : Nat) (h : k < s.size) : s.data.toList.getD k 0 = s[k]'h := by
  have h' : k < s.data.size := h
  rw [List.getD_eq_getElem?_getD, List.getElem?_eq_getElem (by simpa using h'), Option.getD_some]
  rfl
theorem length_at (s : ByteArray) : s.data.toList.length = s.size := (size_eq s).symm

theorem beg_short (s : ByteArray) (hs : 0 < s.size) (h : annN (s[0]'hs).toNat = 1 ∨ annN (s[0]'hs).toNat = 2) : begL s.data.toList = 1 := by
  unfold begL
  rw [getD_at s 0 hs]
  unfold annN at h
  have := (s[0]'hs).toNat_lt
  unfold begN
  repeat' split
  all_goals first | rfl | (exfalso; repeat' split at h) 
  all_goals omega
theorem beg_one (s : ByteArray) (hs : s.size = 1) : begL s.data.toList = 1 := by
  unfold begL
  rw [length_at, hs]
  have := begN_le 1 (s.data.toList.getD 0 0).toNat (s.data.toList.getD 1 0).toNat (s.data.toList.getD 2 0).toNat (Nat.le_refl _)
  have := begN_ge 1 (s.data.toList.getD 0 0).toNat (s.data.toList.getD 1 0).toNat (s.data.toList.getD 2 0).toNat
  omega
theorem ann3 {b : Nat} (h : annN b = 3) : 224 ≤ b ∧ b < 240 := by
  unfold annN at h
  repeat' split at h
  all_goals omega
theorem ann4 {b : Nat} (h : annN b = 4) : 240 ≤ b ∧ b < 248 := by
  unfold annN at h
  repeat' split at h
  all_goals omega

theorem beg3_no (s : ByteArray) (hs : 1 < s.size) (h : annN (s[0]'(by omega)).toNat = 3) (hc : (bits .and .u8 ((s[1]'hs).toNat : Int) 192 == 128) = false) : begL s.data.toList = 1 := by
  rw [and192 _ (byte_lt _), decide_eq_false_iff_not] at hc
  have ha := ann3 h
  unfold begL
  rw [getD_at s 0 (by omega), getD_at s 1 hs]
  unfold begN
  rw [if_neg (by omega), if_pos (by omega), if_neg (by omega)]
theorem beg3_far (s : ByteArray) (hs : 1 < s.size) (h : annN (s[0]'(by omega)).toNat = 3)
    (hr : (runeLen (((s[0]'(by omega)).toNat % 16 * 4096 + (s[1]'hs).toNat % 64 * 64 : Nat) : Int) == 3) = false) : begL s.data.toList = 1 := by
  rw [runeLen3, decide_eq_false_iff_not] at hr
  have ha := ann3 h
  unfold begL
  rw [getD_at s 0 (by omega), getD_at s 1 hs]
  unfold begN
  rw [if_neg (by omega), if_pos (by omega), if_neg (by omega)]
theorem beg3_yes (s : ByteArray) (hs : 1 < s.size) (h : annN (s[0]'(by omega)).toNat = 3) (hc : (bits .and .u8 ((s[1]'hs).toNat : Int) 192 == 128) = true)
    (hr : (runeLen (((s[0]'(by omega)).toNat % 16 * 4096 + (s[1]'hs).toNat % 64 * 64 : Nat) : Int) == 3) = true) : begL s.data.toList = 2 := by
  rw [and192 _ (byte_lt _), decide_eq_true_iff] at hc
  rw [runeLen3, decide_eq_true_iff] at hr
  have ha := ann3 h
  unfold begL
  rw [length_at, getD_at s 0 (by omega), getD_at s 1 hs]
  unfold begN
  rw [if_neg (by omega), if_pos (by omega), if_pos (by omega)]
theorem beg4_no (s : ByteArray) (hs : 1 < s.size) (h : annN (s[0]'(by omega)).toNat = 4) (hc : (bits .and .u8 ((s[1]'hs).toNat : Int) 192 == 128) = false) : begL s.data.toList = 1 := by
  rw [and192 _ (byte_lt _), decide_eq_false_iff_not] at hc
  have ha := ann4 h
  unfold begL
  rw [getD_at s 0 (by omega), getD_at s 1 hs]
  unfold begN
  rw [if_neg (by omega), if_neg (by omega), if_neg (by omega)]
theorem beg4_far (s : ByteArray) (hs : 1 < s.size) (h : annN (s[0]'(by omega)).toNat = 4)
    (hr : (runeLen (((s[0]'(by omega)).toNat % 8 * 262144 + (s[1]'hs).toNat % 64 * 4096 : Nat) : Int) == 4) = false) : begL s.data.toList = 1 := by
  rw [runeLen4, decide_eq_false_iff_not] at hr
  have ha := ann4 h
  unfold begL
  rw [getD_at s 0 (by omega), getD_at s 1 hs]
  unfold begN
  rw [if_neg (by omega), if_neg (by omega), if_neg (by omega)]
theorem beg4_two (s : ByteArray) (hs : 1 < s.size) (h : annN (s[0]'(by omega)).toNat = 4) (hc : (bits .and .u8 ((s[1]'hs).toNat : Int) 192 == 128) = true)
    (hr : (runeLen (((s[0]'(by omega)).toNat % 8 * 262144 + (s[1]'hs).toNat % 64 * 4096 : Nat) : Int) == 4) = true)
    (h2 : s.size = 2 ∨ ∃ h2 : 2 < s.size, (bits .and .u8 ((s[2]'h2).toNat : Int) 192 == 128) = false) : begL s.data.toList = 2 := by
  rw [and192 _ (byte_lt _), decide_eq_true_iff] at hc
  rw [runeLen4, decide_eq_true_iff] at hr
  have ha := ann4 h
  unfold begL
  rw [length_at, getD_at s 0 (by omega), getD_at s 1 hs]
  unfold begN
  rw [if_neg (by omega), if_neg (by omega), if_pos (by omega)]
  rcases h2 with h2 | ⟨h2, hd⟩
  · rw [if_neg (by omega)]
  · rw [and192 _ (byte_lt _), decide_eq_false_iff_not] at hd
    rw [getD_at s 2 h2, if_neg (by omega)]
theorem beg4_three (s : ByteArray) (hs : 2 < s.size) (h : annN (s[0]'(by omega)).toNat = 4) (hc : (bits .and .u8 ((s[1]'(by omega)).toNat : Int) 192 == 128) = true)
    (hr : (runeLen (((s[0]'(by omega)).toNat % 8 * 262144 + (s[1]'(by omega)).toNat % 64 * 4096 : Nat) : Int) == 4) = true)
    (hd : (bits .and .u8 ((s[2]'hs).toNat : Int) 192 == 128) = true) : begL s.data.toList = 3 := by
  rw [and192 _ (byte_lt _), decide_eq_true_iff] at hc hd
  rw [runeLen4, decide_eq_true_iff] at hr
  have ha := ann4 h
  unfold begL
  rw [length_at, getD_at s 0 (by omega), getD_at s 1 (by omega), getD_at s 2 hs]
  unfold begN
  rw [if_neg (by omega), if_neg (by omega), if_pos (by omega), if_pos (by omega)]
theorem far_aux (c x : Nat) (hm : c % 4096 = 0) (hx : x < 64) (h : 65536 ≤ c ∧ c ≤ 1114111) : 65536 ≤ c + x * 64 ∧ c + x * 64 ≤ 1114111 := by omega
theorem mod_aux (x y : Nat) : (x * 262144 + y * 4096) % 4096 = 0 := by omega
set_option maxRecDepth 100000 in
/-- the third byte changes nothing about how long it is -/
theorem least4b_len (b0 b1 b2 : Nat) (h : (runeLen ((b0 % 8 * 262144 + b1 % 64 * 4096 : Nat) : Int) == 4) = true) :
    (runeLen ((b0 % 8 * 262144 + b1 % 64 * 4096 + b2 % 64 * 64 : Nat) : Int) == 4) = true := by
  rw [runeLen4, decide_eq_true_iff] at h ⊢
  exact far_aux _ _ (mod_aux _ _) (Nat.mod_lt _ (by decide)) h

/-! the same, as the walk spells it -/
theorem n3 (a b : Nat) : (runeLen ((a : Int) % 16 * 4096 + (b : Int) % 64 * 64) != 3) = !(runeLen ((a % 16 * 4096 + b % 64 * 64 : Nat) : Int) == 3) := by
  rw [show ((a % 16 * 4096 + b % 64 * 64 : Nat) : Int) = (a : Int) % 16 * 4096 + (b : Int) % 64 * 64 by omega]; rfl
theorem n4 (a b : Nat) : (runeLen ((a : Int) % 8 * 262144 + (b : Int) % 64 * 4096) != 4) = !(runeLen ((a % 8 * 262144 + b % 64 * 4096 : Nat) : Int) == 4) := by
  rw [show ((a % 8 * 262144 + b % 64 * 4096 : Nat) : Int) = (a : Int) % 8 * 262144 + (b : Int) % 64 * 4096 by omega]; rfl
theorem n4b (a b c : Nat) (h : (runeLen ((a : Int) % 8 * 262144 + (b : Int) % 64 * 4096) != 4) = false) :
    (runeLen ((a : Int) % 8 * 262144 + (b : Int) % 64 * 4096 + (c : Int) % 64 * 64) != 4) = false := by
  rw [n4, Bool.not_eq_false'] at h
  have := least4b_len a b c h
  rw [show ((a % 8 * 262144 + b % 64 * 4096 + c % 64 * 64 : Nat) : Int) = (a : Int) % 8 * 262144 + (b : Int) % 64 * 4096 + (c : Int) % 64 * 64 by omega] at this
  simp only [bne, this, Bool.not_true]
theorem no3 {a b : Nat} (h : (runeLen ((a : Int) % 16 * 4096 + (b : Int) % 64 * 64) != 3) = true) : (runeLen ((a % 16 * 4096 + b % 64 * 64 : Nat) : Int) == 3) = false := by
  rwa [n3, Bool.not_eq_true'] at h
theorem yes3 {a b : Nat} (h : (runeLen ((a : Int) % 16 * 4096 + (b : Int) % 64 * 64) != 3) = false) : (runeLen ((a % 16 * 4096 + b % 64 * 64 : Nat) : Int) == 3) = true := by
  rwa [n3, Bool.not_eq_false'] at h
theorem no4 {a b : Nat} (h : (runeLen ((a : Int) % 8 * 262144 + (b : Int) % 64 * 4096) != 4) = true) : (runeLen ((a % 8 * 262144 + b % 64 * 4096 : Nat) : Int) == 4) = false := by
  rwa [n4, Bool.not_eq_true'] at h
theorem yes4 {a b : Nat} (h : (runeLen ((a : Int) % 8 * 262144 + (b : Int) % 64 * 4096) != 4) = false) : (runeLen ((a % 8 * 262144 + b % 64 * 4096 : Nat) : Int) == 4) = true := by
  rwa [n4, Bool.not_eq_false'] at h

end Go.Proofs.YtbcmfcddkegcoaaGreatDoor

/-! What writing to a Builder does, at this program: WriteRune (copyCheck, WriteString, WriteByte: BldB, Bld). -/
namespace Go.Proofs.YtbcmfcddkegcoaaGreatDoor
open Go.RowKit Go.Shelf

set_option maxHeartbeats 4000000 in
set_option maxRecDepth 100000 in
/-- WriteRune: the bytes of the rune's sign, whatever rune. -/
theorem writeRune (B b : Nat) (bs : List Value) (r : Int) (hr0 : -2147483648 ≤ r) (hr1 : r ≤ 2147483647) (w : World) (h : Lib.IsBuilderF 53 5 B b bs w) (hlen : bs.length + 4 ≤ 140737488355328) (hBw : B ≤ w.heap.size) :
    Calls Tryz.prog 48 #[.pointer (some ⟨b, 0, none⟩), .int .i32 r] w fun e w' => e = .returned (.tuple #[.int .i64 (Lib.runeCells r).length, .nilIface]) ∧ Lib.BuilderAtF 53 5 B b (.pointer (some ⟨b, 0, none⟩)) (bs ++ Lib.runeCells r) w' ∧ Below B w w' ∧ Lib.OthersKept 5 (some b) w w' := by
  have hk4 := Lib.runeCells_le r
  go_enter Tryz.func48, Tryz.ntmps48
  go_wp2_with (go_at_call 42; refine (copyCheck B b bs _ h).mono ?_)
  rintro e w1 ⟨rfl, h1, hb1, hk1⟩
  obtain ⟨hB, v, hbk, hown, hne⟩ := h1
  have hs1 := hb1.size
  obtain ⟨ao, cap, rfl⟩ : ∃ ao cap, v = .slice ao bs.length cap := by
    rcases hown.2 with ⟨hv, h0⟩ | ⟨g, cap, cur, fz, hv, _⟩
    · exact ⟨none, 0, by rw [hv, h0]⟩
    · exact ⟨_, _, hv⟩
  have c0 : w1.cell? ⟨b, 0, none⟩ = some (.pointer (some ⟨b, 0, none⟩)) := by rw [Lib.cell_of_heap hbk]; rfl
  have c1 : w1.cell? ⟨b, 1, none⟩ = some (.slice ao bs.length cap) := by rw [Lib.cell_of_heap hbk]; rfl
  go_wp2_with (go_at_call 70; refine (Tryz.utf8_AppendRune_row B _ bs.length bs r hr0 hr1 _ hown hlen (by omega)).mono ?_)
  rintro e w2 ⟨v', rfl, hown', o, hgrow⟩
  have hlt := lt_of_block hbk
  have hb2 : w2.heap[b]? = some (.cells #[.pointer (some ⟨b, 0, none⟩), .slice ao bs.length cap] 53 (0, 0)) := by
    rw [hgrow.block b (by simp; omega) (fun e => hne e.symm), Lib.alloc_old w1 _ b hlt]
    exact hbk
  have d0 : w2.cell? ⟨b, 0, none⟩ = some (.pointer (some ⟨b, 0, none⟩)) := by rw [Lib.cell_of_heap hb2]; rfl
  have d1 : w2.cell? ⟨b, 1, none⟩ = some (.slice ao bs.length cap) := by rw [Lib.cell_of_heap hb2]; rfl
  have f1 : w2.frozen? ⟨b, 1, none⟩ = false := Lib.frozen_of_heap hb2 1
  obtain ⟨g, cap', rfl⟩ : ∃ g cap', v' = .slice (some ⟨g, 0, none⟩) (bs.length + (Lib.runeCells r).length) cap' := by
    rcases hown'.2 with ⟨_, h0⟩ | ⟨g, cap', cur, fz, hv, _⟩
    · omega
    · exact ⟨g, cap', hv⟩
  go_wp2
  go_ret2
  refine ⟨?_, Lib.BuilderAtF.put (T := 53) (e := 5) hB hb2 (bs' := bs ++ Lib.runeCells r) (by simpa using hown') (by decide),
    ((hb1.alloc (by omega) _).grown hgrow (by simp; omega) (fun k hk => (hown.lt k hk).1)).setCell (p := ⟨b, 1, none⟩) hB _, ((hk1.alloc _).grown hgrow (Lib.ownsRowF_kind (hown.alloc _))).setCell ⟨b, 1, none⟩ rfl _⟩
  have e : ((bs.length : Int) + ((Lib.runeCells r).length : Int) - (bs.length : Int)) = ((Lib.runeCells r).length : Int) := by omega
  simp [e]

end Go.Proofs.YtbcmfcddkegcoaaGreatDoor

/-! What package utf's functions answer, for every argument: told by the plain functions of UtfMath. -/
namespace Go.Proofs.YtbcmfcddkegcoaaGreatDoor
open Go.RowKit Go.Lib

set_option maxRecDepth 100000 in
theorem announced (c : Nat) (w : World) (hc : c < 256) :
    Calls Tryz.prog 68 #[.int .u8 (c : Int)] w fun e w' => e = .returned (.int .i64 (annN c : Nat)) ∧ w = w' := by
  by_cases h1 : c < 192
  · have e : annN c = 1 := by unfold annN; rw [if_pos (by omega)]
    rw [e]
    go_enter Tryz.func68, Tryz.ntmps68
    go_wp2
    go_ret
    exact ⟨rfl, rfl⟩
  · by_cases h2 : 247 < c
    · have e : annN c = 1 := by unfold annN; rw [if_pos (by omega)]
      rw [e]
      go_enter Tryz.func68, Tryz.ntmps68
      go_wp2
      go_ret
      exact ⟨rfl, rfl⟩
    · by_cases h3 : c < 224
      · have e : annN c = 2 := by unfold annN; rw [if_neg (by omega), if_pos (by omega)]
        rw [e]
        go_enter Tryz.func68, Tryz.ntmps68
        go_wp2
        go_ret
        exact ⟨rfl, rfl⟩
      · by_cases h4 : c < 240
        · have e : annN c = 3 := by unfold annN; rw [if_neg (by omega), if_neg (by omega), if_pos (by omega)]
          rw [e]
          go_enter Tryz.func68, Tryz.ntmps68
          go_wp2
          go_ret
          exact ⟨rfl, rfl⟩
        · have e : annN c = 4 := by unfold annN; rw [if_neg (by omega), if_neg (by omega), if_neg (by omega)]
          rw [e]
          go_enter Tryz.func68, Tryz.ntmps68
          go_wp2
          go_ret
          exact ⟨rfl, rfl⟩

theorem ofNat_eq (a : Nat) (x : Int) (h : x.toNat = a) : UInt8.ofNat a = x.toNat.toUInt8 := by rw [h]
/-- the model's bytes of a rune's sign are the plain ones -/
theorem encode_eq (n : Int) : Utf8.encode n = ⟨(encodeRune n).toArray⟩ := by
  by_cases h : 0 ≤ n ∧ IsSign n.toNat
  · obtain ⟨hn, hs⟩ := h
    obtain ⟨r, rfl⟩ := Int.eq_ofNat_of_zero_le hn
    unfold IsSign at hs
    rw [Int.toNat_natCast] at hs
    have v : Utf8.valid (r : Int) = true := by
      unfold Utf8.valid
      simp
      omega
    unfold Utf8.encode encodeRune
    simp only [v, if_true, Int.toNat_natCast]
    by_cases h1 : r ≤ 127
    · rw [if_pos (by omega), encodeRuneZ_one (by omega) (by omega)]
      simp only [List.map_cons, List.map_nil]
      rw [ofNat_eq r (r : Int) (by omega)]
    by_cases h2 : r ≤ 2047
    · rw [if_neg (by omega), if_pos (by omega), encodeRuneZ_two (by omega) (by omega)]
      simp only [List.map_cons, List.map_nil]
      rw [ofNat_eq _ (192 + (r : Int) / 64) (by omega), ofNat_eq _ (128 + (r : Int) % 64) (by omega)]
    by_cases h3 : r ≤ 65535
    · rw [if_neg (by omega), if_neg (by omega), if_pos (by omega), encodeRuneZ_three (by omega)]
      simp only [List.map_cons, List.map_nil]
      rw [ofNat_eq _ (224 + (r : Int) / 4096) (by omega), ofNat_eq _ (128 + (r : Int) / 64 % 64) (by omega), ofNat_eq _ (128 + (r : Int) % 64) (by omega)]
    · rw [if_neg (by omega), if_neg (by omega), if_neg (by omega), encodeRuneZ_four (by omega) (by omega)]
      simp only [List.map_cons, List.map_nil]
      rw [ofNat_eq _ (240 + (r : Int) / 262144) (by omega), ofNat_eq _ (128 + (r : Int) / 4096 % 64) (by omega), ofNat_eq _ (128 + (r : Int) / 64 % 64) (by omega), ofNat_eq _ (128 + (r : Int) % 64) (by omega)]
  · unfold IsSign at h
    have v : Utf8.valid n = false := by
      unfold Utf8.valid
      simp
      omega
    unfold Utf8.encode encodeRune
    simp only [v, Bool.false_eq_true, if_false, Utf8.runeError]
    rw [encodeRuneZ_bad (by omega), if_neg (by omega), if_neg (by omega), if_pos (by omega)]
    rfl

set_option maxRecDepth 100000 in
/-- Sign: a number's sign; api.Bad, if there is none. -/
theorem sign_any (n : Int) (w : World) :
    Calls Tryz.prog 30 #[.int .i64 n] w fun e w' => e = .returned (.string ⟨(encodeRune n).toArray⟩) ∧ w = w' := by
  have E := Lib.hid (encode_eq n)
  by_cases h0 : n < 0
  · have B : Hid (encodeRune n = badL) := Lib.hid (by rw [encodeRune, encodeRuneZ_bad (.inl h0)]; rfl)
    go_enter Tryz.func30, Tryz.ntmps30
    go_wp2
    go_ret
    exact ⟨ret_str (by rw [B.out]; rfl), rfl⟩
  · by_cases h1 : 1114111 < n
    · have B : Hid (encodeRune n = badL) := Lib.hid (by rw [encodeRune, encodeRuneZ_bad (.inr (.inr h1))]; rfl)
      go_enter Tryz.func30, Tryz.ntmps30
      go_wp2
      go_ret
      exact ⟨ret_str (by rw [B.out]; rfl), rfl⟩
    · have g0 : 0 ≤ n := by omega
      have g1 : n ≤ 1114111 := by omega
      go_enter Tryz.func30, Tryz.ntmps30
      go_wp2
      go_ret
      exact ⟨ret_str E.out, rfl⟩

end Go.Proofs.YtbcmfcddkegcoaaGreatDoor

/-! What package utf's beginning and broken answer, for every text. -/
namespace Go.Proofs.YtbcmfcddkegcoaaGreatDoor
open Go.RowKit Go.Lib

theorem beg_cast {n m : Nat} (h : n = m) : Ending.returned (.int .i64 (m : Int)) = .returned (.int .i64 (n : Int)) := by rw [h]

set_option maxRecDepth 100000 in
set_option maxHeartbeats 400000 in
theorem beginning_three (s : ByteArray) (w : World) (hs : 1 < s.size) (hm : s.size ≤ maxLen) (h0 : annN (s[0]'(by omega)).toNat = 3) :
    Calls Tryz.prog 47 #[.string s] w fun e w' => e = .returned (.int .i64 (begL s.data.toList : Nat)) ∧ ∃ n, w' = w.drewN n := by
  have H0 := Lib.hid h0
  have hb := (s[0]'(by omega)).toNat_lt
  have hs0 : 0 < s.size := by omega
  have L3 := Lib.hid (least3 _ _ (byte_lt s[0]) (byte_lt s[1]))
  unfold maxLen at hm
  clear h0
  go_enter Tryz.func47, Tryz.ntmps47
  go_wp2_with (go_at_call 68; refine (announced _ _ hb).mono ?_; rintro e w' ⟨rfl, rfl⟩; rw [H0.out])
  go_quiet (fail)
  go_wp2
  refine wp_loop_rounds 3 ?_
  rw [rounds_succ]
  go_wp2_with (go_at_call 69; rw [L3.out]; refine (Tryz.utf8_RuneLen _ _).mono ?_; rintro e w' ⟨rfl, rfl⟩)
  · go_ret
    exact ⟨beg_cast (beg3_far s hs H0.out (no3 ‹_›)), _, rfl⟩
  · rw [rounds_succ]
    go_wp2
    go_ret
    exact ⟨beg_cast (beg3_yes s hs H0.out ‹_› (yes3 ‹_›)), _, rfl⟩
  · go_ret
    exact ⟨beg_cast (beg3_no s hs H0.out ‹_›), _, rfl⟩

set_option maxRecDepth 100000 in
set_option maxHeartbeats 400000 in
theorem beginning_four (s : ByteArray) (w : World) (hs : 2 < s.size) (hm : s.size ≤ maxLen) (h0 : annN (s[0]'(by omega)).toNat = 4) :
    Calls Tryz.prog 47 #[.string s] w fun e w' => e = .returned (.int .i64 (begL s.data.toList : Nat)) ∧ ∃ n, w' = w.drewN n := by
  have H0 := Lib.hid h0
  have hb := (s[0]'(by omega)).toNat_lt
  have hs0 : 0 < s.size := by omega
  have hs1 : 1 < s.size := by omega
  have L4 := Lib.hid (least4 _ _ (byte_lt s[0]) (byte_lt s[1]))
  have L4b := Lib.hid (least4b _ _ _ (byte_lt s[0]) (byte_lt s[1]) (byte_lt s[2]))
  have N4 := Lib.hid (n4b s[0].toNat s[1].toNat s[2].toNat)
  unfold maxLen at hm
  clear h0
  go_enter Tryz.func47, Tryz.ntmps47
  go_wp2_with (go_at_call 68; refine (announced _ _ hb).mono ?_; rintro e w' ⟨rfl, rfl⟩; rw [H0.out])
  go_quiet (fail)
  go_wp2
  refine wp_loop_rounds 4 ?_
  rw [rounds_succ]
  go_wp2_with (go_at_call 69; rw [L4.out]; refine (Tryz.utf8_RuneLen _ _).mono ?_; rintro e w' ⟨rfl, rfl⟩)
  · go_ret
    exact ⟨beg_cast (beg4_far s hs1 H0.out (no4 ‹_›)), _, rfl⟩
  · rw [rounds_succ]
    have hy : (runeLen ((s[0].toNat : Int) % 8 * 262144 + (s[1].toNat : Int) % 64 * 4096) != 4) = false := by assumption
    have hx := N4.out hy
    have HY := Lib.hid (yes4 hy)
    go_wp2_with (go_at_call 69; rw [L4b.out]; refine (Tryz.utf8_RuneLen _ _).mono ?_; rintro e w' ⟨rfl, rfl⟩)
    · rw [rounds_succ]
      go_wp2
      go_ret
      exact ⟨beg_cast (beg4_three s hs H0.out ‹_› HY.out ‹_›), _, rfl⟩
    · go_ret
      exact ⟨beg_cast (beg4_two s hs1 H0.out ‹_› HY.out (.inr ⟨hs, ‹_›⟩)), _, rfl⟩
  · go_ret
    exact ⟨beg_cast (beg4_no s hs1 H0.out ‹_›), _, rfl⟩

set_option maxRecDepth 100000 in
set_option maxHeartbeats 400000 in
theorem beginning_four2 (s : ByteArray) (w : World) (hs1 : 1 < s.size) (hs2 : s.size ≤ 2) (h0 : annN (s[0]'(by omega)).toNat = 4) :
    Calls Tryz.prog 47 #[.string s] w fun e w' => e = .returned (.int .i64 (begL s.data.toList : Nat)) ∧ ∃ n, w' = w.drewN n := by
  have H0 := Lib.hid h0
  have HS : Hid (s.size = 2) := Lib.hid (by omega)
  have hb := (s[0]'(by omega)).toNat_lt
  have hs0 : 0 < s.size := by omega
  have L4 := Lib.hid (least4 _ _ (byte_lt s[0]) (byte_lt s[1]))
  clear h0
  go_enter Tryz.func47, Tryz.ntmps47
  go_wp2_with (go_at_call 68; refine (announced _ _ hb).mono ?_; rintro e w' ⟨rfl, rfl⟩; rw [H0.out])
  go_quiet (fail)
  go_wp2
  refine wp_loop_rounds 4 ?_
  rw [rounds_succ]
  go_wp2_with (go_at_call 69; rw [L4.out]; refine (Tryz.utf8_RuneLen _ _).mono ?_; rintro e w' ⟨rfl, rfl⟩)
  · go_ret
    exact ⟨beg_cast (beg4_far s hs1 H0.out (no4 ‹_›)), _, rfl⟩
  · rw [rounds_succ]
    go_wp2
    go_ret
    exact ⟨beg_cast (beg4_two s hs1 H0.out ‹_› (yes4 ‹_›) (.inl HS.out)), _, rfl⟩
  · go_ret
    exact ⟨beg_cast (beg4_no s hs1 H0.out ‹_›), _, rfl⟩

set_option maxRecDepth 100000 in
set_option maxHeartbeats 400000 in
theorem beginning_few (s : ByteArray) (w : World) (hs : 0 < s.size) (k : Nat) (hk : k = 1 ∨ k = 2) (h0 : annN (s[0]'hs).toNat = k) :
    Calls Tryz.prog 47 #[.string s] w fun e w' => e = .returned (.int .i64 (begL s.data.toList : Nat)) ∧ ∃ n, w' = w.drewN n := by
  have H0 := Lib.hid h0
  have B := Lib.hid (beg_short s hs (by omega))
  have hb := (s[0]'hs).toNat_lt
  clear h0
  rcases hk with rfl | rfl
  all_goals
    go_enter Tryz.func47, Tryz.ntmps47
    go_wp2_with (go_at_call 68; refine (announced _ _ hb).mono ?_; rintro e w' ⟨rfl, rfl⟩; rw [H0.out])
    go_quiet (fail)
    go_wp2
    refine wp_loop_rounds 1 ?_
    rw [rounds_succ]
    go_wp2
    go_ret
    exact ⟨beg_cast B.out, _, rfl⟩

set_option maxRecDepth 100000 in
set_option maxHeartbeats 400000 in
theorem beginning_alone (s : ByteArray) (w : World) (hs0 : 0 < s.size) (hs1 : s.size ≤ 1) (k : Nat) (hk : k = 3 ∨ k = 4) (h0 : annN (s[0]'(by omega)).toNat = k) :
    Calls Tryz.prog 47 #[.string s] w fun e w' => e = .returned (.int .i64 (begL s.data.toList : Nat)) ∧ ∃ n, w' = w.drewN n := by
  have H0 := Lib.hid h0
  have B := Lib.hid (beg_one s (by omega))
  have hb := (s[0]'(by omega)).toNat_lt
  clear h0
  rcases hk with rfl | rfl
  all_goals
    go_enter Tryz.func47, Tryz.ntmps47
    go_wp2_with (go_at_call 68; refine (announced _ _ hb).mono ?_; rintro e w' ⟨rfl, rfl⟩; rw [H0.out])
    go_quiet (fail)
    go_wp2
    refine wp_loop_rounds 1 ?_
    rw [rounds_succ]
    go_wp2
    go_ret
    exact ⟨beg_cast B.out, _, rfl⟩

/-- beginning: how long the longest beginning is -/
theorem beginning_any (s : ByteArray) (w : World) (hs : 0 < s.size) (hm : s.size ≤ maxLen) :
    Calls Tryz.prog 47 #[.string s] w fun e w' => e = .returned (.int .i64 (begL s.data.toList : Nat)) ∧ ∃ n, w' = w.drewN n := by
  have ha : annN (s[0]'hs).toNat = 1 ∨ annN (s[0]'hs).toNat = 2 ∨ annN (s[0]'hs).toNat = 3 ∨ annN (s[0]'hs).toNat = 4 := by
    unfold annN; repeat' split
    all_goals simp
  by_cases h1 : s.size = 1
  · rcases ha with h | h | h | h
    · exact beginning_few s w hs 1 (.inl rfl) h
    · exact beginning_few s w hs 2 (.inr rfl) h
    · exact beginning_alone s w hs (by omega) 3 (.inl rfl) h
    · exact beginning_alone s w hs (by omega) 4 (.inr rfl) h
  · rcases ha with h | h | h | h
    · exact beginning_few s w hs 1 (.inl rfl) h
    · exact beginning_few s w hs 2 (.inr rfl) h
    · exact beginning_three s w (by omega) hm h
    · by_cases h2 : s.size = 2
      · exact beginning_four2 s w (by omega) (by omega) h
      · exact beginning_four s w (by omega) hm h

set_option maxRecDepth 100000 in
theorem broken_no (s : ByteArray) (i : Nat) (r : Int) (w : World) (hr : r ≠ 65533) :
    Calls Tryz.prog 10 #[.string s, .int .i64 (i : Int), .int .i32 r] w fun e w' => e = .returned (.bool false) ∧ w = w' := by
  have h : (r == 65533) = false := by simpa using hr
  clear hr
  go_enter Tryz.func10, Tryz.ntmps10
  go_wp2
  go_ret
  exact ⟨rfl, rfl⟩
set_option maxRecDepth 100000 in
theorem broken_yes (s : ByteArray) (i : Nat) (r : Int) (w : World) (hr : r = 65533) (hi : i ≤ s.size) :
    Calls Tryz.prog 10 #[.string s, .int .i64 (i : Int), .int .i32 r] w fun e w' => e = .returned (.bool (!hasPrefix (s.data.toList.drop i) badL)) ∧ w = w' := by
  subst hr
  go_enter Tryz.func10, Tryz.ntmps10
  go_wp2_with (go_at_call 21; refine (Tryz.strings_HasPrefix _ _ _).mono ?_; rintro e w' ⟨rfl, rfl⟩)
  go_ret
  exact ⟨ret_bool (by rw [List.take_of_length_le (by rw [List.length_drop, ← size_eq]; exact Nat.le_refl _)]; rfl), rfl⟩

end Go.Proofs.YtbcmfcddkegcoaaGreatDoor

/-! What package utf's Right and Decode answer, for every argument. -/
namespace Go.Proofs.YtbcmfcddkegcoaaGreatDoor
open Go.RowKit Go.Lib

theorem drop_neU (s : ByteArray) (pos : Nat) (h : pos < s.size) : s.data.toList.drop pos ≠ [] := by
  intro h0
  have := congrArg List.length h0
  rw [List.length_drop, ← size_eq] at this
  simp at this
  omega
theorem drop_end (s : ByteArray) (pos : Nat) (h : ¬ pos < s.size) : s.data.toList.drop pos = [] :=
  List.drop_eq_nil_of_le (by rw [← size_eq]; omega)

set_option maxRecDepth 100000 in
set_option maxHeartbeats 1000000 in
/-- Right: whether a text is just signs -/
theorem right_any (s : ByteArray) (w : World) :
    Calls Tryz.prog 5 #[.string s] w fun e w' => e = .returned (.bool (validD s.data.toList)) ∧ Below w.heap.size w w' := by
  go_enter Tryz.func5, Tryz.ntmps5
  go_wp2
  go_loopw [] (fun wr => ∃ pos : Nat, wr.heap[w.heap.size]? = some (.stringIter s pos) ∧ Below w.heap.size w wr ∧ validD (s.data.toList.drop pos) = validD s.data.toList) (fun wr => s.size - wr.iterPos w.heap.size)
  case atStart =>
    refine ⟨0, ?_, (Below.refl _ w).alloc (Nat.le_refl _) _, rfl⟩
    have := World.iter_heap w s 0
    simpa using this
  case round =>
    obtain ⟨pos, hit, hbw, hv⟩ := hrel
    have HV := Lib.hid hv
    clear hv
    by_cases hp : pos < s.size
    · have hnx : ∀ ty, (Instr.next (.pointer (some ⟨w.heap.size, 0, none⟩)) true ty).run Tryz.prog wr = _ := fun ty => Lib.run_next_any_at wr w.heap.size s pos ty hit hp
      have hwd := width_pos s pos
      have hit2 := Lib.iterAt_heap wr w.heap.size s pos (pos + (Utf8.decode s pos).2) hit
      have hbw2 := Lib.below_iterAt hbw (k := w.heap.size) (Nat.le_refl _) s (pos + (Utf8.decode s pos).2)
      have HB := Lib.hid (brk_code (s.data.toList.drop pos) (drop_neU s pos hp))
      have HD := Lib.hid (validD_brk (s.data.toList.drop pos) (drop_neU s pos hp))
      have HL := Lib.hid (decodeL_drop s pos)
      by_cases hr : ((Utf8.decode s pos).1 : Int) = 65533
      · have hr' : (Utf8.decode s pos).1 = 65533 := by omega
        have HR := Lib.hid hr
        have HR' := Lib.hid hr'
        clear hr hr'
        cases hk : hasPrefix (s.data.toList.drop pos) badL with
        | true =>
          have HK := Lib.hid hk
          clear hk
          have V : Hid (validD (s.data.toList.drop (pos + (Utf8.decode s pos).2)) = validD s.data.toList) := Lib.hid (by
            rw [← HV.out, HD.out, HB.out, HK.out, HL.out, List.drop_drop]; simp)
          go_wp2_with (go_at_call 10; refine (broken_yes _ _ _ _ HR.out (by omega)).mono ?_; rintro e w' ⟨rfl, rfl⟩; rw [HK.out])
          go_roundw
          case rel => exact ⟨pos + (Utf8.decode s pos).2, hit2, hbw2, V.out⟩
          case measure =>
            simp only [World.iterPos, hit2, hit]
            omega
        | false =>
          have HK := Lib.hid hk
          clear hk
          have V : Hid (validD s.data.toList = false) := Lib.hid (by
            rw [← HV.out, HD.out, HB.out, HK.out, HL.out, HR'.out]; rfl)
          go_wp2_with (go_at_call 10; refine (broken_yes _ _ _ _ HR.out (by omega)).mono ?_; rintro e w' ⟨rfl, rfl⟩; rw [HK.out])
          go_ret
          exact ⟨ret_bool V.out.symm, hbw2⟩
      · have V : Hid (validD (s.data.toList.drop (pos + (Utf8.decode s pos).2)) = validD s.data.toList) := Lib.hid (by
          rw [← HV.out, HD.out, HB.out, HL.out, decide_eq_false (by omega), List.drop_drop]; simp)
        go_wp2_with (go_at_call 10; refine (broken_no _ _ _ _ hr).mono ?_; rintro e w' ⟨rfl, rfl⟩)
        go_roundw
        case rel => exact ⟨pos + (Utf8.decode s pos).2, hit2, hbw2, V.out⟩
        case measure =>
          simp only [World.iterPos, hit2, hit]
          omega
    · have hnx : ∀ ty, (Instr.next (.pointer (some ⟨w.heap.size, 0, none⟩)) true ty).run Tryz.prog wr = _ := fun ty => Lib.run_next_end_at wr w.heap.size s pos ty hit hp
      go_wp2
      go_ret
      refine ⟨ret_bool ?_, hbw⟩
      rw [← HV.out, drop_end s pos hp, validD_nil]

end Go.Proofs.YtbcmfcddkegcoaaGreatDoor

/-! What package utf's Decode answers, for every list of bytes. -/
namespace Go.Proofs.YtbcmfcddkegcoaaGreatDoor
open Go.RowKit Go.Lib

/-- a value that is a list of bytes: nil, or a row in memory -/
def IsBytes (w : World) (v : Value) (l : List UInt8) : Prop :=
  (v = .slice none 0 0 ∧ l = []) ∨
  ∃ x cap, v = .slice (some x) l.length cap ∧ l.length ≤ cap ∧ cap ≤ maxLen ∧ ∀ i (h : i < l.length), w.cell? (x.add i) = some (.int .u8 ((l[i]'h).toNat : Int))

theorem IsBytes.conv {w : World} {v : Value} {l : List UInt8} (h : IsBytes w v l) :
    (convert 25 9 v).run Tryz.prog w = .ok (.string ⟨l.toArray⟩) w := by
  rcases h with ⟨rfl, rfl⟩ | ⟨x, cap, rfl, hl, hc, hcell⟩
  · rw [run_convert_bytes_string w 25 9 5 none 0 0 Tryz.underlying25 Tryz.underlying5 Tryz.underlying9]; rfl
  · exact run_convert_bytes_back (P := Tryz.prog) w 25 9 5 x cap l Tryz.underlying25 Tryz.underlying5 Tryz.underlying9 hcell

theorem strL (l : List UInt8) : (ByteArray.mk l.toArray).data.toList = l := by simp
theorem strSize (l : List UInt8) : (ByteArray.mk l.toArray).size = l.length := by rw [size_eq, strL]

theorem trim_mark (l : List UInt8) (S : ByteArray) (h : Hid ((⟨(trimPrefix l markL).toArray⟩ : ByteArray) = S)) (w : World) :
    Calls Tryz.prog 46 #[.string ⟨l.toArray⟩, .string ⟨#[239, 187, 191]⟩] w fun e w' => e = .returned (.string S) ∧ w = w' := by
  refine (Tryz.strings_TrimPrefix _ _ w).mono ?_
  rintro e w' ⟨rfl, rfl⟩
  refine ⟨ret_str ?_, rfl⟩
  rw [← h.out, strL]; rfl

/-- what is carried from round to round: the place, how far the longest beginning reached, what has been told -/
def DecAt (S : ByteArray) (pos behind : Nat) (acc : List UInt8) : Prop :=
  behind ≤ S.size ∧ (∀ i, pos ≤ i → i < behind → (S.data.toList.getD i 0).toNat / 64 = 2) ∧ acc ++ dec0 (S.data.toList.drop (max pos behind)) = dec0 S.data.toList ∧ acc.length ≤ 3 * max pos behind

theorem DecAt.skip {S : ByteArray} {pos behind : Nat} {acc : List UInt8} (h : DecAt S pos behind acc) (hlt : pos < behind) : Utf8.decode S pos = (65533, 1) ∧ DecAt S (pos + 1) behind acc := by
  obtain ⟨h1, h2, h3, h4⟩ := h
  refine ⟨?_, h1, fun i hi hb => h2 i (by omega) hb, ?_, ?_⟩
  · rw [← decodeL_drop]
    exact decodeL_cont _ (by rw [getD_dropU, Nat.add_zero]; exact h2 pos (Nat.le_refl _) hlt)
  · rw [show max (pos + 1) behind = max pos behind by omega]; exact h3
  · omega
theorem DecAt.bad {S : ByteArray} {pos behind : Nat} {acc : List UInt8} (h : DecAt S pos behind acc) (hp : pos < S.size) (hge : behind ≤ pos) (hk : brk (S.data.toList.drop pos) = true) :
    DecAt S (pos + 1) (pos + begL (S.data.toList.drop pos)) (acc ++ badL) := by
  obtain ⟨h1, h2, h3, h4⟩ := h
  have hb := begL_ge (S.data.toList.drop pos)
  have hl := begL_le (S.data.toList.drop pos) (drop_neU S pos hp)
  rw [List.length_drop, ← size_eq] at hl
  rw [show max pos behind = pos by omega] at h3 h4
  refine ⟨by omega, fun i hi hb => ?_, ?_, ?_⟩
  · have := beg_conts (S.data.toList.drop pos) (i - pos) (by omega) (by omega)
    rw [getD_dropU, show pos + (i - pos) = i by omega] at this
    exact this
  · rw [show max (pos + 1) (pos + begL (S.data.toList.drop pos)) = pos + begL (S.data.toList.drop pos) by omega, List.append_assoc, ← h3,
      dec0_step (S.data.toList.drop pos) (drop_neU S pos hp), hk, if_pos rfl, List.drop_drop]
  · rw [List.length_append]; simp only [badL, List.length_cons, List.length_nil]; omega
theorem DecAt.good {S : ByteArray} {pos behind : Nat} {acc : List UInt8} (h : DecAt S pos behind acc) (hp : pos < S.size) (hge : behind ≤ pos) (hk : brk (S.data.toList.drop pos) = false) :
    DecAt S (pos + (Utf8.decode S pos).2) behind (acc ++ encodeRune ((Utf8.decode S pos).1 : Int)) := by
  obtain ⟨h1, h2, h3, h4⟩ := h
  have hw := width_pos S pos
  have hl := width_enc (S.data.toList.drop pos) (drop_neU S pos hp) hk
  rw [decodeL_drop] at hl
  rw [show max pos behind = pos by omega] at h3 h4
  refine ⟨h1, fun i hi hb => by omega, ?_, ?_⟩
  · rw [show max (pos + (Utf8.decode S pos).2) behind = pos + (Utf8.decode S pos).2 by omega, List.append_assoc, ← h3,
      dec0_step (S.data.toList.drop pos) (drop_neU S pos hp), hk, if_neg (by simp), ← enc_dec _ (drop_neU S pos hp) hk, decodeL_drop, List.drop_drop]
  · rw [List.length_append, hl]; omega
theorem DecAt.end {S : ByteArray} {pos behind : Nat} {acc : List UInt8} (h : DecAt S pos behind acc) (hp : ¬ pos < S.size) : acc = dec0 S.data.toList := by
  obtain ⟨_, _, h3, _⟩ := h
  rw [drop_end S _ (by omega), dec0_nil, List.append_nil] at h3
  exact h3

theorem strCells_badU : strCells ⟨#[239, 191, 189]⟩ = byteCells badL := rfl

set_option maxRecDepth 100000 in
set_option maxHeartbeats 4000000 in
/-- Decode: bytes as signs -/
theorem utfDecode_any (v : Value) (l : List UInt8) (w : World) (hv : IsBytes w v l) (hl : l.length ≤ 1099511627776) :
    Calls Tryz.prog 23 #[v] w fun e w' => e = .returned (.string ⟨(dec l).toArray⟩) ∧ Below w.heap.size w w' := by
  have hcv := hv.conv
  clear hv
  obtain ⟨S, hS⟩ : ∃ S : ByteArray, (⟨(trimPrefix l markL).toArray⟩ : ByteArray) = S := ⟨_, rfl⟩
  have hSl : S.size ≤ 1099511627776 := by
    have := trimPrefix_le l markL
    rw [← hS, strSize]; omega
  have HS := Lib.hid hS
  have HD : Hid (dec l = dec0 S.data.toList) := Lib.hid (by unfold dec; rw [← hS, strL])
  clear hS
  go_enter Tryz.func23, Tryz.ntmps23
  go_wp2_with (go_at_call 46; refine (trim_mark l S HS _).mono ?_; rintro e w' ⟨rfl, rfl⟩)
  refine (Tryz.Builder_Grow_fresh w.heap.size w.heap.size S.size _ (Nat.le_refl _) (heap_alloc_new w _) (by simp) (by omega)).mono ?_
  rintro e w2 ⟨rfl, hB0, hbel0⟩
  have hI0 : Lib.IsBuilderF 53 5 w.heap.size w.heap.size [] w2 := Lib.IsBuilderF.of (.inr hB0)
  have hsz0 : w.heap.size + 1 ≤ w2.heap.size := by have := hbel0.size; simpa using this
  go_wp2_with (fail)
  go_loopw [5] (fun bh wr => ∃ (pos behind : Nat) (acc : List UInt8), bh = .int .i64 (behind : Int) ∧ Lib.IsBuilderF 53 5 w.heap.size w.heap.size (byteCells acc) wr ∧ wr.heap[w2.heap.size]? = some (.stringIter S pos) ∧ Below w.heap.size w wr ∧ DecAt S pos behind acc) (fun _ wr => S.size - wr.iterPos w2.heap.size)
  case atStart =>
    refine ⟨0, 0, [], rfl, hI0.alloc _, ?_, (((Below.refl _ w).alloc (Nat.le_refl _) _).trans hbel0).alloc (by omega) _, Nat.zero_le _, fun i _ h => absurd h (by omega), rfl, Nat.zero_le _⟩
    have := World.iter_heap w2 S 0
    simpa using this
  case round =>
    obtain ⟨pos, behind, acc, rfl, hI, hit, hbw, hat⟩ := hrel
    have hb1 := hat.1
    have hal := hat.2.2.2
    have HA := Lib.hid hat
    clear hat
    have hsz : w2.heap.size < wr.heap.size := (Array.getElem?_eq_some_iff.1 hit).1
    by_cases hp : pos < S.size
    · have hnx : ∀ ty, (Instr.next (.pointer (some ⟨w2.heap.size, 0, none⟩)) true ty).run Tryz.prog wr = _ := fun ty => Lib.run_next_any_at wr w2.heap.size S pos ty hit hp
      have hwd := width_pos S pos
      have hd1 := decode_le S pos
      have hI2 := hI.iterAt hit (pos + (Utf8.decode S pos).2)
      have hit2 := Lib.iterAt_heap wr w2.heap.size S pos (pos + (Utf8.decode S pos).2) hit
      have hbw2 := Lib.below_iterAt hbw (k := w2.heap.size) (by omega) S (pos + (Utf8.decode S pos).2)
      have hsz2 : w.heap.size ≤ (wr.iterAt w2.heap.size S (pos + (Utf8.decode S pos).2)).heap.size := by rw [Lib.iterAt_size]; omega
      have HB := Lib.hid (brk_code (S.data.toList.drop pos) (drop_neU S pos hp))
      have HL := Lib.hid (decodeL_drop S pos)
      by_cases hlt : pos < behind
      · have SK := Lib.hid (HA.out.skip hlt)
        go_wp2
        go_roundw
        case rel => exact ⟨pos + (Utf8.decode S pos).2, behind, acc, rfl, hI2, hit2, hbw2, by rw [SK.out.1]; exact SK.out.2⟩
        case measure =>
          simp only [World.iterPos, hit2, hit]
          omega
      · by_cases hr : ((Utf8.decode S pos).1 : Int) = 65533
        · have hr' : (Utf8.decode S pos).1 = 65533 := by omega
          have HR := Lib.hid hr
          have HR' := Lib.hid hr'
          clear hr hr'
          cases hk : hasPrefix (S.data.toList.drop pos) badL with
          | true =>
            have HK := Lib.hid hk
            clear hk
            have HG := Lib.hid (HA.out.good hp (by omega) (by rw [HB.out, HK.out]; simp))
            go_wp2_with (first
              | (go_at_call 10; refine (broken_yes _ _ _ _ HR.out (by omega)).mono ?_; rintro e w' ⟨rfl, rfl⟩; rw [HK.out])
              | (go_at_call 48; refine (writeRune w.heap.size w.heap.size _ _ (by omega) (by omega) _ hI2 (by rw [byteCells_length]; omega) hsz2).mono ?_))
            rintro e W1 ⟨rfl, h1, b1, k1⟩
            go_wp2
            go_roundw
            case rel => exact ⟨pos + (Utf8.decode S pos).2, behind, acc ++ encodeRune ((Utf8.decode S pos).1 : Int), rfl, by rw [byteCells_append, byteCells_encodeRune]; exact .inr h1, k1.iter hit2 (by omega), hbw2.trans b1, HG.out⟩
            case measure =>
              simp only [World.iterPos, k1.iter hit2 (by omega), hit]
              omega
          | false =>
            have HK := Lib.hid hk
            clear hk
            have hbk : brk (S.data.toList.drop pos) = true := by rw [HB.out, HK.out, HL.out, HR'.out]; rfl
            have HG := Lib.hid (HA.out.bad hp (by omega) hbk)
            have hbl := begL_le (S.data.toList.drop pos) (drop_neU S pos hp)
            have HW : Hid ((Utf8.decode S pos).2 = 1) := Lib.hid (by rw [← HL.out, (brk_iff _).1 hbk])
            have HE : Hid (begL (S.extract pos S.size).data.toList = begL (S.data.toList.drop pos)) := Lib.hid (by rw [extract_data, List.take_of_length_le (by rw [List.length_drop, ← size_eq]; exact Nat.le_refl _)])
            clear hbk
            go_wp2_with (first
              | (go_at_call 10; refine (broken_yes _ _ _ _ HR.out (by omega)).mono ?_; rintro e w' ⟨rfl, rfl⟩; rw [HK.out])
              | (go_at_call 19; refine (writeString w.heap.size w.heap.size _ _ _ hI2 (by rw [byteCells_length]; have := strSize [239, 191, 189]; simp at this; omega) hsz2).mono ?_))
            rintro e W1 ⟨rfl, h1, b1, k1⟩
            go_wp2_with (go_at_call 47; refine (beginning_any _ _ (by rw [ByteArray.size_extract]; omega) (by rw [ByteArray.size_extract]; unfold maxLen; omega)).mono ?_)
            rintro e w' ⟨rfl, nq, rfl⟩
            rw [HE.out]
            go_wp2
            go_roundw
            case rel => exact ⟨pos + (Utf8.decode S pos).2, pos + begL (S.data.toList.drop pos), acc ++ badL, by go_num, by rw [byteCells_append, ← strCells_badU]; exact .inr h1, k1.iter hit2 (by omega), below_drewN (hbw2.trans b1) nq, by rw [HW.out]; exact HG.out⟩
            case measure =>
              simp only [World.iterPos, World.heap_drewN, k1.iter hit2 (by omega), hit]
              omega
        · have HG := Lib.hid (HA.out.good hp (by omega) (by rw [HB.out, HL.out, decide_eq_false (by omega)]; rfl))
          go_wp2_with (first
            | (go_at_call 10; refine (broken_no _ _ _ _ hr).mono ?_; rintro e w' ⟨rfl, rfl⟩)
            | (go_at_call 48; refine (writeRune w.heap.size w.heap.size _ _ (by omega) (by omega) _ hI2 (by rw [byteCells_length]; omega) hsz2).mono ?_))
          rintro e W1 ⟨rfl, h1, b1, k1⟩
          go_wp2
          go_roundw
          case rel => exact ⟨pos + (Utf8.decode S pos).2, behind, acc ++ encodeRune ((Utf8.decode S pos).1 : Int), rfl, by rw [byteCells_append, byteCells_encodeRune]; exact .inr h1, k1.iter hit2 (by omega), hbw2.trans b1, HG.out⟩
          case measure =>
            simp only [World.iterPos, k1.iter hit2 (by omega), hit]
            omega
    · have hnx : ∀ ty, (Instr.next (.pointer (some ⟨w2.heap.size, 0, none⟩)) true ty).run Tryz.prog wr = _ := fun ty => Lib.run_next_end_at wr w2.heap.size S pos ty hit hp
      go_wp2_with (go_at_call 18; refine (Tryz.Builder_String_any_k w.heap.size w.heap.size acc _ hI (by omega)).mono ?_)
      rintro e W1 ⟨rfl, _, b1, _⟩
      go_wp2
      go_ret
      exact ⟨ret_str (by rw [HD.out, ← HA.out.end hp]), hbw.trans b1⟩

end Go.Proofs.YtbcmfcddkegcoaaGreatDoor

/-! The chapter's examples, at every world: what 'awake' of layer 1 answers is true. -/
namespace Go.Proofs.YtbcmfcddkegcoaaGreatDoor
open Go.RowKit Go.Lib

end Go.Proofs.YtbcmfcddkegcoaaGreatDoor

/-! What the document's answer for a number's sign is, for every number. -/
namespace Go.Proofs.YtbcmfcddkegcoaaGreatDoor
open Go.RowKit Go.Lib

end Go.Proofs.YtbcmfcddkegcoaaGreatDoor
