/-
  Texts laid together: Small, SignMath, SignCode, SignBeg, SignRef, SignRefB, FloatMath, UtfMath, UtfMathB, UtfSgn.
-/
import Derived.WalkKit
import Derived.RowKit
import Derived.Lib.Bytes
import Derived.Lib.Hide
import Derived.Lib.Strings
import Derived.WalkSpells
import Derived.WalkLawsBesides
import Derived.Test.YtbcmfcddkegcoaaGreatDoorProg
import Derived.Deep.QuietTactic
import Derived.BigQuiet
import Derived.Laws.IdiomStrings
import Derived.Below
import Derived.Deep.RegionHeld3
import Derived.Laws.FloatArith
import Derived.Laws.ComplexArith
import Derived.Lib.MapLaws
import Derived.Lib.ValidLaws
import Derived.Lib.QuoteLoop
/-! Small things for every layer: what is returned; bytes of texts, and texts by their bytes. -/
namespace Go.Proofs.YtbcmfcddkegcoaaGreatDoor
open Go.RowKit Go.Lib

def intOf : Value → Int | .int _ q => q | _ => 0
theorem ret_str {a b : ByteArray} (h : a = b) : Ending.returned (.string a) = .returned (.string b) := by rw [h]
theorem ret_int {k : IntKind} {a b : Int} (h : a = b) : Ending.returned (.int k a) = .returned (.int k b) := by rw [h]
theorem ret_bool {a b : Bool} (h : a = b) : Ending.returned (.bool a) = .returned (.bool b) := by rw [h]
theorem drop_at (s : ByteArray) (i : Nat) (h : i < s.size) : s.data.toList.drop i = s[i] :: s.data.toList.drop (i + 1) := by
  rw [List.drop_eq_getElem_cons (by rw [← Lib.size_eq]; exact h)]
  rfl

theorem u8_ne (c : UInt8) (n : Nat) (hn : n < 256) (h : ¬ ((c.toNat : Nat) : Int) = (n : Int)) : c ≠ UInt8.ofNat n := by
  intro e; apply h; subst e
  rw [UInt8.toNat_ofNat']; omega
theorem u8_eq (c : UInt8) (n : Nat) (hn : n < 256) (h : ((c.toNat : Nat) : Int) = (n : Int)) : c = UInt8.ofNat n := by
  rw [← UInt8.toNat_inj, UInt8.toNat_ofNat']; omega

theorem extract_one (s : ByteArray) (i : Nat) (h : i < s.size) : (s.extract i (i + 1)).data.toList = [s[i]] := by
  rw [extract_data, drop_at s i h, show i + 1 - i = 1 by omega]; rfl

theorem str_ext {a b : ByteArray} (h : a.data.toList = b.data.toList) : a = b := by
  cases a; cases b; congr 1; exact Array.toList_inj.1 h
theorem str_beq (A B : ByteArray) : (A.toList == B.toList) = decide (A.data.toList = B.data.toList) := by
  rw [ByteArray.toList_eq, ByteArray.toList_eq, Bool.eq_iff_iff, beq_iff_eq, decide_eq_true_iff]
end Go.Proofs.YtbcmfcddkegcoaaGreatDoor

/-! Bytes told by their kinds, small letters, and what a text begins with: plain mathematics. -/
namespace Go.Proofs.YtbcmfcddkegcoaaGreatDoor
open Go.RowKit Go.Lib

def isLarge (q : Int) : Prop := 65 ≤ q ∧ q ≤ 90
instance (q : Int) : Decidable (isLarge q) := by unfold isLarge; exact inferInstance
/-- all kinds of a byte, a bit for each -/
def kindI (q : Int) : Int := if 65 ≤ q ∧ q ≤ 90 then 14 else if 97 ≤ q ∧ q ≤ 122 then 12 else if 48 ≤ q ∧ q ≤ 57 then 8 else if q = 9 ∨ q = 10 ∨ q = 12 ∨ q = 32 then 1 else 0
def spaceI (q : Int) : Bool := decide (q = 9 ∨ q = 10 ∨ q = 12 ∨ q = 32)
def letterI (q : Int) : Bool := decide (65 ≤ q ∧ q ≤ 90 ∨ 97 ≤ q ∧ q ≤ 122)
def digitI (q : Int) : Bool := decide (48 ≤ q ∧ q ≤ 57)
def wordI (q : Int) : Bool := letterI q || digitI q
def hexI (q : Int) : Int := if 48 ≤ q ∧ q ≤ 57 then q - 48 else if 65 ≤ q ∧ q ≤ 70 then q - 55 else if 97 ≤ q ∧ q ≤ 102 then q - 87 else -1
def lowI (q : Int) : Int := if 65 ≤ q ∧ q ≤ 90 then q + 32 else q

def lowB (c : UInt8) : UInt8 := UInt8.ofNat (lowI (c.toNat : Int)).toNat
theorem lowI_range (q : Int) (h0 : 0 ≤ q) (h1 : q < 256) : 0 ≤ lowI q ∧ lowI q < 256 := by unfold lowI; split <;> omega
theorem lowB_int (c : UInt8) : ((lowB c).toNat : Int) = lowI (c.toNat : Int) := by
  have h := lowI_range (c.toNat : Int) (by omega) (by have := c.toNat_lt; omega)
  unfold lowB
  rw [UInt8.toNat_ofNat']
  omega
def lowL (l : List UInt8) : List UInt8 := l.map lowB
theorem lowL_len (l : List UInt8) : (lowL l).length = l.length := List.length_map _
theorem lowL_app (a b : List UInt8) : lowL (a ++ b) = lowL a ++ lowL b := List.map_append
theorem lowL_drop (l : List UInt8) (k : Nat) : lowL (l.drop k) = (lowL l).drop k := List.map_drop
theorem lowL_cons (c : UInt8) (l : List UInt8) : lowL (c :: l) = lowB c :: lowL l := rfl

/-- a text in small letters -/
def lowS (s : ByteArray) : ByteArray := ⟨(lowL s.data.toList).toArray⟩
theorem lowS_list (s : ByteArray) : (lowS s).data.toList = lowL s.data.toList := by simp [lowS]
theorem lowS_size (s : ByteArray) : (lowS s).size = s.size := by rw [Lib.size_eq, Lib.size_eq, lowS_list, lowL_len]
/-- whether there stand bytes, in whatever letters, at a place -/
def begS (s : ByteArray) (at_ : Int) (low : ByteArray) : Bool :=
  decide (0 ≤ at_ ∧ at_ ≤ (s.size : Int)) && low.data.toList.isPrefixOf (lowL (s.data.toList.drop at_.toNat))

theorem pre_step (s low : ByteArray) (a k : Nat) (h1 : k < low.size) (h2 : a + k < s.size) :
    (low.data.toList.drop k).isPrefixOf (lowL (s.data.toList.drop (a + k))) = (low[k] == lowB s[a + k] && (low.data.toList.drop (k + 1)).isPrefixOf (lowL (s.data.toList.drop (a + (k + 1))))) := by
  rw [drop_at low k h1, drop_at s (a + k) h2, lowL_cons, List.isPrefixOf_cons_cons]; rfl
theorem pre_yes (s low : ByteArray) (a k : Nat) (T : Bool) (h1 : k < low.size) (h2 : a + k < s.size) (he : lowI (s[a + k].toNat : Int) = (low[k].toNat : Int))
    (h : (low.data.toList.drop k).isPrefixOf (lowL (s.data.toList.drop (a + k))) = T) : (low.data.toList.drop (k + 1)).isPrefixOf (lowL (s.data.toList.drop (a + (k + 1)))) = T := by
  have e : low[k] = lowB s[a + k] := by
    have := lowB_int s[a + k]
    rw [← UInt8.toNat_inj]; omega
  rw [← h, pre_step s low a k h1 h2, beq_iff_eq.2 e, Bool.true_and]
theorem pre_no (s low : ByteArray) (a k : Nat) (T : Bool) (h1 : k < low.size) (h2 : a + k < s.size) (he : ¬ lowI (s[a + k].toNat : Int) = (low[k].toNat : Int))
    (h : (low.data.toList.drop k).isPrefixOf (lowL (s.data.toList.drop (a + k))) = T) : false = T := by
  have e : low[k] ≠ lowB s[a + k] := by
    intro e
    have := lowB_int s[a + k]
    rw [← e] at this
    omega
  rw [← h, pre_step s low a k h1 h2, beq_eq_false_iff_ne.2 e, Bool.false_and]
theorem pre_end (s low : ByteArray) (a k : Nat) (h1 : k = low.size) :
    (low.data.toList.drop k).isPrefixOf (lowL (s.data.toList.drop (a + k))) = true := by
  rw [List.drop_eq_nil_of_le (by rw [← Lib.size_eq]; omega)]; exact List.isPrefixOf_nil_left
theorem pre_long (s low : ByteArray) (a : Nat) (h : s.size < a + low.size) (ha : a ≤ s.size) :
    low.data.toList.isPrefixOf (lowL (s.data.toList.drop a)) = false := by
  rw [Bool.eq_false_iff]
  intro e
  have := (List.isPrefixOf_iff_prefix.1 e).length_le
  rw [lowL_len, List.length_drop, ← Lib.size_eq, ← Lib.size_eq] at this
  omega

end Go.Proofs.YtbcmfcddkegcoaaGreatDoor

/-! What package sign's functions on one byte answer, and Begins, for every input. -/
namespace Go.Proofs.YtbcmfcddkegcoaaGreatDoor
open Go.RowKit Go.Lib

set_option maxRecDepth 100000 in
set_option maxHeartbeats 1000000 in
theorem kindsOf (q : Int) (w : World) (h0 : 0 ≤ q) (h1 : q < 256) :
    Calls Tryz.prog 129 #[.int .u8 q] w fun e w' => e = .returned (.int .u8 (kindI q)) ∧ w' = w := by
  by_cases hA : 65 ≤ q ∧ q ≤ 90
  · rw [show kindI q = 14 from if_pos hA]
    obtain ⟨ha, hb⟩ := hA
    go_enter Tryz.func129, Tryz.ntmps129
    go_wp2
    go_ret
    exact ⟨ret_int (by decide), rfl⟩
  · by_cases hB : 97 ≤ q ∧ q ≤ 122
    · rw [show kindI q = 12 by unfold kindI; rw [if_neg hA, if_pos hB]]
      obtain ⟨ha, hb⟩ := hB
      go_enter Tryz.func129, Tryz.ntmps129
      go_wp2
      go_ret
      exact ⟨ret_int (by decide), rfl⟩
    · by_cases hC : 48 ≤ q ∧ q ≤ 57
      · rw [show kindI q = 8 by unfold kindI; rw [if_neg hA, if_neg hB, if_pos hC]]
        obtain ⟨ha, hb⟩ := hC
        go_enter Tryz.func129, Tryz.ntmps129
        go_wp2
        go_ret
        exact ⟨ret_int (by decide), rfl⟩
      · obtain ⟨k, hk⟩ : ∃ k, kindI q = k := ⟨_, rfl⟩
        have HK := Lib.hid hk
        rw [hk]
        clear hk
        go_enter Tryz.func129, Tryz.ntmps129
        go_wp2
        all_goals go_ret
        all_goals refine ⟨ret_int ?_, rfl⟩
        all_goals rw [← HK.out, kindI, if_neg hA, if_neg hB, if_neg hC]
        all_goals try simp only [beq_iff_eq] at *
        all_goals first
          | (rw [if_pos (by omega)]; decide)
          | rw [if_neg (by omega)]
          | rw [if_neg (by simp_all)]
          | (rw [if_pos (by simp_all)]; decide)

theorem kind_space (q : Int) : (bits .and .u8 (kindI q) 1 != 0) = spaceI q := by
  unfold kindI spaceI
  by_cases hA : 65 ≤ q ∧ q ≤ 90
  · rw [if_pos hA, decide_eq_false (by omega)]; decide
  · rw [if_neg hA]
    by_cases hB : 97 ≤ q ∧ q ≤ 122
    · rw [if_pos hB, decide_eq_false (by omega)]; decide
    · rw [if_neg hB]
      by_cases hC : 48 ≤ q ∧ q ≤ 57
      · rw [if_pos hC, decide_eq_false (by omega)]; decide
      · rw [if_neg hC]
        by_cases hD : q = 9 ∨ q = 10 ∨ q = 12 ∨ q = 32
        · rw [if_pos hD, decide_eq_true hD]; decide
        · rw [if_neg hD, decide_eq_false hD]; decide
theorem kind_letter (q : Int) : (bits .and .u8 (kindI q) 4 != 0) = letterI q := by
  unfold kindI letterI
  by_cases hA : 65 ≤ q ∧ q ≤ 90
  · rw [if_pos hA, decide_eq_true (by omega)]; decide
  · rw [if_neg hA]
    by_cases hB : 97 ≤ q ∧ q ≤ 122
    · rw [if_pos hB, decide_eq_true (by omega)]; decide
    · rw [if_neg hB, decide_eq_false (by omega)]
      by_cases hC : 48 ≤ q ∧ q ≤ 57
      · rw [if_pos hC]; decide
      · rw [if_neg hC]
        by_cases hD : q = 9 ∨ q = 10 ∨ q = 12 ∨ q = 32
        · rw [if_pos hD]; decide
        · rw [if_neg hD]; decide
theorem kind_word (q : Int) : (bits .and .u8 (kindI q) 8 != 0) = wordI q := by
  unfold kindI wordI letterI digitI
  rw [← Bool.decide_or]
  by_cases hA : 65 ≤ q ∧ q ≤ 90
  · rw [if_pos hA, decide_eq_true (by omega)]; decide
  · rw [if_neg hA]
    by_cases hB : 97 ≤ q ∧ q ≤ 122
    · rw [if_pos hB, decide_eq_true (by omega)]; decide
    · rw [if_neg hB]
      by_cases hC : 48 ≤ q ∧ q ≤ 57
      · rw [if_pos hC, decide_eq_true (by omega)]; decide
      · rw [if_neg hC, decide_eq_false (by omega)]
        by_cases hD : q = 9 ∨ q = 10 ∨ q = 12 ∨ q = 32
        · rw [if_pos hD]; decide
        · rw [if_neg hD]; decide
theorem kind_large (q : Int) : (bits .and .u8 (kindI q) 2 != 0) = decide (65 ≤ q ∧ q ≤ 90) := by
  unfold kindI
  by_cases hA : 65 ≤ q ∧ q ≤ 90
  · rw [if_pos hA, decide_eq_true (by omega)]; decide
  · rw [if_neg hA, decide_eq_false hA]
    by_cases hB : 97 ≤ q ∧ q ≤ 122
    · rw [if_pos hB]; decide
    · rw [if_neg hB]
      by_cases hC : 48 ≤ q ∧ q ≤ 57
      · rw [if_pos hC]; decide
      · rw [if_neg hC]
        by_cases hD : q = 9 ∨ q = 10 ∨ q = 12 ∨ q = 32
        · rw [if_pos hD]; decide
        · rw [if_neg hD]; decide

set_option maxRecDepth 100000 in
set_option maxHeartbeats 400000 in
theorem space (q : Int) (w : World) (h0 : 0 ≤ q) (h1 : q < 256) :
    Calls Tryz.prog 123 #[.int .u8 q] w fun e w' => e = .returned (.bool (spaceI q)) ∧ w' = w := by
  go_enter Tryz.func123, Tryz.ntmps123
  go_wp2_with (go_at_call 129; refine (kindsOf _ _ h0 h1).mono ?_; rintro e w' ⟨rfl, rfl⟩)
  go_ret
  exact ⟨ret_bool (kind_space q), rfl⟩
set_option maxRecDepth 100000 in
set_option maxHeartbeats 400000 in
theorem letter (q : Int) (w : World) (h0 : 0 ≤ q) (h1 : q < 256) :
    Calls Tryz.prog 121 #[.int .u8 q] w fun e w' => e = .returned (.bool (letterI q)) ∧ w' = w := by
  go_enter Tryz.func121, Tryz.ntmps121
  go_wp2_with (go_at_call 129; refine (kindsOf _ _ h0 h1).mono ?_; rintro e w' ⟨rfl, rfl⟩)
  go_ret
  exact ⟨ret_bool (kind_letter q), rfl⟩
set_option maxRecDepth 100000 in
set_option maxHeartbeats 400000 in
theorem word (q : Int) (w : World) (h0 : 0 ≤ q) (h1 : q < 256) :
    Calls Tryz.prog 163 #[.int .u8 q] w fun e w' => e = .returned (.bool (wordI q)) ∧ w' = w := by
  go_enter Tryz.func163, Tryz.ntmps163
  go_wp2_with (go_at_call 129; refine (kindsOf _ _ h0 h1).mono ?_; rintro e w' ⟨rfl, rfl⟩)
  go_ret
  exact ⟨ret_bool (kind_word q), rfl⟩
set_option maxRecDepth 100000 in
set_option maxHeartbeats 400000 in
theorem small (q : Int) (w : World) (h0 : 0 ≤ q) (h1 : q < 256) :
    Calls Tryz.prog 108 #[.int .u8 q] w fun e w' => e = .returned (.int .u8 (lowI q)) ∧ w' = w := by
  have hk := kind_large q
  by_cases hA : 65 ≤ q ∧ q ≤ 90
  · rw [decide_eq_true hA] at hk
    rw [show lowI q = q + 32 from if_pos hA]
    obtain ⟨ha, hb⟩ := hA
    go_enter Tryz.func108, Tryz.ntmps108
    go_wp2_with (go_at_call 129; refine (kindsOf _ _ h0 h1).mono ?_; rintro e w' ⟨rfl, rfl⟩)
    go_ret
    exact ⟨ret_int (by simp), rfl⟩
  · rw [decide_eq_false hA] at hk
    rw [show lowI q = q from if_neg hA]
    go_enter Tryz.func108, Tryz.ntmps108
    go_wp2_with (go_at_call 129; refine (kindsOf _ _ h0 h1).mono ?_; rintro e w' ⟨rfl, rfl⟩)
    go_ret
    exact ⟨ret_int rfl, rfl⟩
set_option maxRecDepth 100000 in
set_option maxHeartbeats 1000000 in
theorem hex (q : Int) (w : World) (h0 : 0 ≤ q) (h1 : q < 256) :
    Calls Tryz.prog 169 #[.int .u8 q] w fun e w' => e = .returned (.int .i64 (hexI q)) ∧ w' = w := by
  by_cases hA : 65 ≤ q ∧ q ≤ 70
  · rw [show hexI q = q - 55 by unfold hexI; rw [if_neg (by omega), if_pos hA]]
    obtain ⟨ha, hb⟩ := hA
    go_enter Tryz.func169, Tryz.ntmps169
    go_wp2
    go_ret
    exact ⟨ret_int (by omega), rfl⟩
  · by_cases hB : 97 ≤ q ∧ q ≤ 102
    · rw [show hexI q = q - 87 by unfold hexI; rw [if_neg (by omega), if_neg hA, if_pos hB]]
      obtain ⟨ha, hb⟩ := hB
      go_enter Tryz.func169, Tryz.ntmps169
      go_wp2
      go_ret
      exact ⟨ret_int (by omega), rfl⟩
    · by_cases hC : 48 ≤ q ∧ q ≤ 57
      · rw [show hexI q = q - 48 by unfold hexI; rw [if_pos hC]]
        obtain ⟨ha, hb⟩ := hC
        go_enter Tryz.func169, Tryz.ntmps169
        go_wp2
        go_ret
        exact ⟨ret_int (by omega), rfl⟩
      · rw [show hexI q = -1 by unfold hexI; rw [if_neg hC, if_neg hA, if_neg hB]]
        go_enter Tryz.func169, Tryz.ntmps169
        go_wp2
        all_goals go_ret
        all_goals exact ⟨ret_int rfl, rfl⟩

end Go.Proofs.YtbcmfcddkegcoaaGreatDoor

/-! What package sign's Begins answers, for every input. -/
namespace Go.Proofs.YtbcmfcddkegcoaaGreatDoor
open Go.RowKit Go.Lib

set_option maxRecDepth 100000 in
set_option maxHeartbeats 1000000 in
theorem begins (s : ByteArray) (a : Int) (low : ByteArray) (w : World) (hs : s.size ≤ 1099511627776) (hl : low.size ≤ 1099511627776) (ha : -9223372036854775808 ≤ a) (hb : a ≤ 9223372036854775807) :
    Calls Tryz.prog 78 #[.string s, .int .i64 a, .string low] w fun e w' => e = .returned (.bool (begS s a low)) ∧ ∃ n, w' = w.drewN n := by
  by_cases h0 : a < 0
  · have HT := Lib.hid (show begS s a low = false by unfold begS; rw [decide_eq_false (by omega)]; rfl)
    rw [HT.out]
    go_enter Tryz.func78, Tryz.ntmps78
    go_wp2
    go_ret
    exact ⟨rfl, 0, rfl⟩
  obtain ⟨k, rfl⟩ : ∃ k : Nat, a = k := ⟨a.toNat, by omega⟩
  by_cases h1 : (s.size : Int) - (k : Int) < (low.size : Int)
  · have HT := Lib.hid (show begS s k low = false by
      unfold begS
      by_cases h2 : k ≤ s.size
      · rw [show ((k : Nat) : Int).toNat = k by omega, pre_long s low k (by omega) h2, Bool.and_false]
      · rw [decide_eq_false (by omega)]; rfl)
    rw [HT.out]
    go_enter Tryz.func78, Tryz.ntmps78
    go_wp2
    go_ret
    exact ⟨rfl, 0, rfl⟩
  · obtain ⟨T, hT⟩ : ∃ T, begS s k low = T := ⟨_, rfl⟩
    have HT : Hid ((low.data.toList.drop 0).isPrefixOf (lowL (s.data.toList.drop (k + 0))) = T) := Lib.hid (by
      rw [← hT]; unfold begS
      rw [show ((k : Nat) : Int).toNat = k by omega, decide_eq_true (by omega)]; rfl)
    rw [hT]
    clear hT
    have hkl : k + low.size ≤ s.size := by omega
    go_enter Tryz.func78, Tryz.ntmps78
    go_wp2
    go_loopw [21] (fun v wr => ∃ (j n : Nat), v = .int .i64 (j : Int) ∧ wr = w.drewN n ∧ j ≤ low.size ∧ (low.data.toList.drop j).isPrefixOf (lowL (s.data.toList.drop (k + j))) = T) (fun v _ => low.size - (intOf v).toNat)
    case atStart => exact ⟨0, 0, rfl, rfl, Nat.zero_le _, HT.out⟩
    case round =>
      obtain ⟨j, n, rfl, rfl, hj, hT⟩ := hrel
      have HJ := Lib.hid hT
      clear hT HT
      by_cases hlt : j < low.size
      · have hk : k + j < s.size := by omega
        have i1 : (k : Int) + (j : Int) < (s.size : Int) := by omega
        have i2 : (j : Int) < (low.size : Int) := by omega
        have i3 : (0 : Int) ≤ (k : Int) + (j : Int) := by omega
        have i4 : IntKind.i64.wrap ((k : Int) + (j : Int)) = (k : Int) + (j : Int) := by rw [IntKind.wrap_i64]; omega
        have i5 : ((k : Int) + (j : Int)).toNat = k + j := by omega
        have hb1 := (s[k + j]'hk).toNat_lt
        by_cases he : lowI (s[k + j].toNat : Int) = (low[j].toNat : Int)
        · have hb : (lowI (s[k + j].toNat : Int) != (low[j].toNat : Int)) = false := by simpa using he
          have HE := Lib.hid he
          clear he
          go_wp2
          go_quiet ((go_at_call 108; refine (small _ _ (by omega) (by omega)).mono ?_; rintro e w'' ⟨rfl, rfl⟩; exact ⟨rfl, _, rfl⟩))
          go_wp2
          go_roundw
          case rel => exact ⟨j + 1, _, rfl, rfl, by omega, pre_yes s low k j T hlt hk HE.out HJ.out⟩
          case measure => simp [intOf]; omega
        · have hb : (lowI (s[k + j].toNat : Int) != (low[j].toNat : Int)) = true := by simpa using he
          go_wp2
          go_quiet ((go_at_call 108; refine (small _ _ (by omega) (by omega)).mono ?_; rintro e w'' ⟨rfl, rfl⟩; exact ⟨rfl, _, rfl⟩))
          go_wp2
          go_ret
          exact ⟨ret_bool (pre_no s low k j T hlt hk he HJ.out), _, World.drewN_drewN ..⟩
      · go_wp2
        go_ret
        exact ⟨ret_bool (by rw [← HJ.out, pre_end s low k j (by omega)]), _, rfl⟩

end Go.Proofs.YtbcmfcddkegcoaaGreatDoor

/-! What the document's functions of layer 3 on one byte answer, for every input. -/
namespace Go.Proofs.YtbcmfcddkegcoaaGreatDoor
open Go.RowKit Go.Lib

end Go.Proofs.YtbcmfcddkegcoaaGreatDoor

/-! What the document's Begins of layer 3 answers, for every input. -/
namespace Go.Proofs.YtbcmfcddkegcoaaGreatDoor
open Go.RowKit Go.Lib

end Go.Proofs.YtbcmfcddkegcoaaGreatDoor

/-! Whole numbers below 2^53 as floats: read, added, multiplied, compared and cut back exactly: plain mathematics over the interface of floats. -/
namespace Go.Proofs.YtbcmfcddkegcoaaGreatDoor
open Ieee

/-- the word of a whole number -/
def fl (n : Nat) : Nat := Ieee.double.write (.number false n 0)
/-- a datum that is a whole number -/
def Num (d : Datum) (n : Nat) : Prop := ∃ k : Nat, d = .number false (n * 2 ^ k) (-(k : Int))

theorem cut_even (n k : Nat) (h : k ≤ (n * 2 ^ k).log2 + 2) : Toward.even.cut false (n * 2 ^ k) k = n := by
  have hm : min k ((n * 2 ^ k).log2 + 2) = k := Nat.min_eq_left h
  have hp : 0 < 2 ^ k := Nat.two_pow_pos k
  simp only [Toward.cut, hm, Nat.shiftLeft_eq, Nat.one_mul, Nat.mul_mod_left, Nat.mul_div_cancel _ hp]
  have h2 : ((2 ^ k : Nat) == 2 * 0) = false := by simp
  simp [h2]
theorem cut_zero (n k : Nat) (h : k ≤ (n * 2 ^ k).log2 + 2) : Toward.zero.cut false (n * 2 ^ k) k = n := by
  have hm : min k ((n * 2 ^ k).log2 + 2) = k := Nat.min_eq_left h
  have hp : 0 < 2 ^ k := Nat.two_pow_pos k
  simp [Toward.cut, hm, Nat.shiftLeft_eq, Nat.mul_div_cancel _ hp]

theorem log2_mul_pow (n k : Nat) (h : n ≠ 0) : (n * 2 ^ k).log2 = n.log2 + k := by
  have hp : 0 < 2 ^ k := Nat.two_pow_pos k
  have hn : n * 2 ^ k ≠ 0 := by
    intro e
    rcases Nat.mul_eq_zero.1 e with e | e <;> omega
  rw [Nat.log2_eq_iff hn]
  have h1 := Nat.log2_self_le h
  have h2 := @Nat.lt_log2_self n
  constructor
  · rw [Nat.pow_add]; exact Nat.mul_le_mul_right _ h1
  · rw [show n.log2 + k + 1 = n.log2 + 1 + k by omega, Nat.pow_add]; exact Nat.mul_lt_mul_of_pos_right h2 hp

/-- the rung of a whole number -/
def rungOf (n : Nat) : Nat := if n = 0 then 0 else (n.log2 + 1022) * 2 ^ 52 + n * 2 ^ (52 - n.log2)

theorem log2_le (n : Nat) (hn : n < 2 ^ 53) : n.log2 ≤ 52 := by
  by_cases h : n = 0
  · subst h; decide
  · have := (Nat.log2_lt h).2 hn
    omega

theorem write_num (n k : Nat) (hn : n < 2 ^ 53) : Ieee.double.write (.number false (n * 2 ^ k) (-(k : Int))) = rungOf n := by
  have hL := log2_le n hn
  by_cases h : n = 0
  · subst h
    simp [Format.write, Format.nearest, rungOf, Format.word]
  · have hp : 0 < 2 ^ k := Nat.two_pow_pos k
    have hn0 : n * 2 ^ k ≠ 0 := by
      intro e
      rcases Nat.mul_eq_zero.1 e with e | e <;> omega
    have hl := log2_mul_pow n k h
    have hleast : Ieee.double.leastPlace = -1074 := by decide
    have hfr : Ieee.double.fractionBits = 52 := rfl
    have hmax : max (-(k : Int) + ((n.log2 + k : Nat) : Int) - (52 : Nat)) (-1074) = (n.log2 : Int) - 52 := by omega
    have hk : (n * 2 ^ k) <<< (-(k : Int) - ((n.log2 : Int) - 52)).toNat = (n * 2 ^ (52 - n.log2)) * 2 ^ ((n.log2 : Int) - 52 - -(k : Int)).toNat := by
      rw [Nat.shiftLeft_eq]
      by_cases hc : k ≤ 52 - n.log2
      · rw [show ((n.log2 : Int) - 52 - -(k : Int)).toNat = 0 by omega, show (-(k : Int) - ((n.log2 : Int) - 52)).toNat = 52 - n.log2 - k by omega, Nat.pow_zero, Nat.mul_one, Nat.mul_assoc, ← Nat.pow_add]
        congr 2; omega
      · rw [show (-(k : Int) - ((n.log2 : Int) - 52)).toNat = 0 by omega, show ((n.log2 : Int) - 52 - -(k : Int)).toNat = k - (52 - n.log2) by omega, Nat.pow_zero, Nat.mul_one, Nat.mul_assoc, ← Nat.pow_add]
        congr 2; omega
    have hcut : Toward.even.cut false ((n * 2 ^ (52 - n.log2)) * 2 ^ ((n.log2 : Int) - 52 - -(k : Int)).toNat) ((n.log2 : Int) - 52 - -(k : Int)).toNat = n * 2 ^ (52 - n.log2) := by
      refine cut_even _ _ ?_
      rw [log2_mul_pow _ _ (by
        intro e
        rcases Nat.mul_eq_zero.1 e with e | e
        · exact h e
        · have := Nat.two_pow_pos (52 - n.log2); omega)]
      omega
    have hK : n * 2 ^ (52 - n.log2) < 2 ^ 53 := by
      have h2 := @Nat.lt_log2_self n
      have h3 : n * 2 ^ (52 - n.log2) < 2 ^ (n.log2 + 1) * 2 ^ (52 - n.log2) := Nat.mul_lt_mul_of_pos_right h2 (Nat.two_pow_pos _)
      rw [← Nat.pow_add, show n.log2 + 1 + (52 - n.log2) = 53 by omega] at h3
      exact h3
    have hinf : Ieee.double.infRung = 2047 * 2 ^ 52 := by decide
    have hbin : Ieee.double.binade = 2 ^ 52 := by decide
    simp only [Format.write, Format.nearest, if_neg hn0, hl, hleast, hfr, hmax, hk, hcut, hinf, hbin, Format.word, rungOf, if_neg h]
    rw [show ((n.log2 : Int) - 52 - -1074).toNat = n.log2 + 1022 by omega]
    simp only [Bool.false_eq_true, if_false]
    refine Nat.min_eq_left ?_
    omega

theorem fl_rung (n : Nat) (hn : n < 2 ^ 53) : fl n = rungOf n := by
  have := write_num n 0 hn
  simpa [fl] using this

theorem read_fl (n : Nat) (hn : n < 2 ^ 53) : Num (Ieee.double.read (fl n)) n := by
  rw [fl_rung n hn]
  have hL := log2_le n hn
  have hleast : Ieee.double.leastPlace = -1074 := by decide
  have hinf : Ieee.double.infRung = 2047 * 2 ^ 52 := by decide
  have hbin : Ieee.double.binade = 2 ^ 52 := by decide
  have hsw : Ieee.double.signWeight = 2 ^ 63 := by decide
  by_cases h : n = 0
  · subst h
    obtain ⟨k, hk⟩ : ∃ k : Nat, k = 1074 := ⟨_, rfl⟩
    refine ⟨k, ?_⟩
    rw [Nat.zero_mul, hk]
    decide
  · have hK : n * 2 ^ (52 - n.log2) < 2 ^ 53 := by
      have h2 := @Nat.lt_log2_self n
      have h3 : n * 2 ^ (52 - n.log2) < 2 ^ (n.log2 + 1) * 2 ^ (52 - n.log2) := Nat.mul_lt_mul_of_pos_right h2 (Nat.two_pow_pos _)
      rw [← Nat.pow_add, show n.log2 + 1 + (52 - n.log2) = 53 by omega] at h3
      exact h3
    have hK0 : 2 ^ 52 ≤ n * 2 ^ (52 - n.log2) := by
      have h1 := Nat.log2_self_le h
      have h3 : 2 ^ n.log2 * 2 ^ (52 - n.log2) ≤ n * 2 ^ (52 - n.log2) := Nat.mul_le_mul_right _ h1
      rw [← Nat.pow_add, show n.log2 + (52 - n.log2) = 52 by omega] at h3
      exact h3
    obtain ⟨K, hKe⟩ : ∃ K, n * 2 ^ (52 - n.log2) = K := ⟨_, rfl⟩
    obtain ⟨l, hl⟩ : ∃ l, n.log2 = l := ⟨_, rfl⟩
    refine ⟨52 - l, ?_⟩
    simp only [rungOf, if_neg h]
    rw [hKe] at hK hK0
    rw [hKe, hl]
    rw [hl] at hKe hL
    rw [hKe]
    clear h hn hKe hl
    have e1 : ((l + 1022) * 2 ^ 52 + K) / 2 ^ 63 % 2 = 0 := by omega
    have e2 : ((l + 1022) * 2 ^ 52 + K) % 2 ^ 63 = (l + 1022) * 2 ^ 52 + K := by omega
    have e3 : ¬ (l + 1022) * 2 ^ 52 + K < 2 ^ 52 := by omega
    have e4 : (l + 1022) * 2 ^ 52 + K < 2047 * 2 ^ 52 := by omega
    have e5 : ((l + 1022) * 2 ^ 52 + K) % 2 ^ 52 = K - 2 ^ 52 := by omega
    have e6 : ((l + 1022) * 2 ^ 52 + K) / 2 ^ 52 = l + 1023 := by omega
    simp only [Format.read, hsw, hbin, hinf, hleast, e1, e2, if_neg e3, if_pos e4, e5, e6]
    have e7 : 2 ^ 52 + (K - 2 ^ 52) = K := by omega
    have e8 : (-1074 : Int) + ((l + 1023 - 1 : Nat) : Int) = -((52 - l : Nat) : Int) := by omega
    rw [e7, e8, show ((0 : Nat) == 1) = false from rfl]

theorem num_write {d : Datum} {n : Nat} (h : Num d n) (hn : n < 2 ^ 53) : Ieee.double.write d = fl n := by
  obtain ⟨k, rfl⟩ := h
  rw [write_num n k hn, fl_rung n hn]

theorem up_eq (n k l : Nat) (b : Int) (hb : b = -(l : Int)) (h : k ≤ l) : (n * 2 ^ k) <<< (-(k : Int) - b).toNat = n * 2 ^ l := by
  rw [Nat.shiftLeft_eq, show (-(k : Int) - b).toNat = l - k by omega, Nat.mul_assoc, ← Nat.pow_add, show k + (l - k) = l by omega]

theorem num_sum {d e : Datum} {a b : Nat} (hd : Num d a) (he : Num e b) : ∃ c, d.sum e = some c ∧ Num c (a + b) := by
  obtain ⟨k, rfl⟩ := hd
  obtain ⟨l, rfl⟩ := he
  have hb : min (-(k : Int)) (-(l : Int)) = -((max k l : Nat) : Int) := by omega
  have e1 := up_eq a k (max k l) _ hb (Nat.le_max_left ..)
  have e2 := up_eq b l (max k l) _ hb (Nat.le_max_right ..)
  have e3 : ((a * 2 ^ max k l : Nat) : Int) + ((b * 2 ^ max k l : Nat) : Int) = (((a + b) * 2 ^ max k l : Nat) : Int) := by
    rw [Nat.add_mul]; omega
  refine ⟨.number false ((a + b) * 2 ^ max k l) (-((max k l : Nat) : Int)), ?_, max k l, rfl⟩
  rw [hb] at e1 e2
  simp only [Datum.sum, signed, hb, e1, e2, e3, Bool.false_eq_true, if_false, Bool.and_false, Int.natAbs_natCast]
  congr 2
  split
  · rfl
  · exact decide_eq_false (by omega)

theorem num_product {d e : Datum} {a b : Nat} (hd : Num d a) (he : Num e b) : ∃ c, d.product e = some c ∧ Num c (a * b) := by
  obtain ⟨k, rfl⟩ := hd
  obtain ⟨l, rfl⟩ := he
  refine ⟨_, rfl, k + l, ?_⟩
  simp only [Bool.xor_false]
  congr 1
  · rw [Nat.pow_add, Nat.mul_mul_mul_comm]
  · omega

theorem cmp_lt {x y : Int} (h : x < y) : compare x y = .lt := by
  show compareOfLessAndEq x y = .lt
  unfold compareOfLessAndEq
  rw [if_pos h]
theorem cmp_eq {x y : Int} (h : x = y) : compare x y = .eq := by
  show compareOfLessAndEq x y = .eq
  unfold compareOfLessAndEq
  rw [if_neg (by omega), if_pos h]
theorem cmp_gt {x y : Int} (h : y < x) : compare x y = .gt := by
  show compareOfLessAndEq x y = .gt
  unfold compareOfLessAndEq
  rw [if_neg (by omega), if_neg (by omega)]
theorem num_order {d e : Datum} {a b : Nat} (hd : Num d a) (he : Num e b) : d.order e = some (compare a b) := by
  obtain ⟨k, rfl⟩ := hd
  obtain ⟨l, rfl⟩ := he
  have hb : min (-(k : Int)) (-(l : Int)) = -((max k l : Nat) : Int) := by omega
  have e1 := up_eq a k (max k l) _ hb (Nat.le_max_left ..)
  have e2 := up_eq b l (max k l) _ hb (Nat.le_max_right ..)
  have hp := Nat.two_pow_pos (max k l)
  rw [hb] at e1 e2
  simp only [Datum.order, signed, hb, e1, e2, Bool.false_eq_true, if_false]
  congr 1
  rcases Nat.lt_trichotomy a b with h | h | h
  · rw [Nat.compare_eq_lt.2 h]
    exact cmp_lt (Int.ofNat_lt.2 (Nat.mul_lt_mul_of_pos_right h hp))
  · subst h
    rw [Nat.compare_eq_eq.2 rfl]
    exact cmp_eq rfl
  · rw [Nat.compare_eq_gt.2 h]
    exact cmp_gt (Int.ofNat_lt.2 (Nat.mul_lt_mul_of_pos_right h hp))

theorem num_int {d : Datum} {n : Nat} (h : Num d n) : d.toInt .zero = some (n : Int) := by
  obtain ⟨k, rfl⟩ := h
  have h1 : (-(k : Int)).toNat = 0 := by omega
  have h2 : (-(-(k : Int))).toNat = k := by omega
  simp only [Datum.toInt, Datum.integral, h1, h2, Nat.shiftLeft_zero]
  rw [show Toward.zero.cut false (n * 2 ^ k) k = n by
    by_cases h : n = 0
    · subst h; simp [Toward.cut]
    · exact cut_zero n k (by rw [log2_mul_pow n k h]; omega)]
  simp [signed]

theorem fl_add (a b : Nat) (h : a + b < 2 ^ 53) : floatBits .add .f64 (fl a) (fl b) = some (fl (a + b)) := by
  obtain ⟨c, hc, hn⟩ := num_sum (read_fl a (by omega)) (read_fl b (by omega))
  show Ieee.double.add (fl a) (fl b) = _
  unfold Format.add
  rw [hc, Option.map_some, num_write hn h]
theorem fl_mul (a b : Nat) (ha : a < 2 ^ 53) (hb : b < 2 ^ 53) (h : a * b < 2 ^ 53) : floatBits .mul .f64 (fl a) (fl b) = some (fl (a * b)) := by
  obtain ⟨c, hc, hn⟩ := num_product (read_fl a ha) (read_fl b hb)
  show Ieee.double.mul (fl a) (fl b) = _
  unfold Format.mul
  rw [hc, Option.map_some, num_write hn h]
theorem fl_order (a b : Nat) (ha : a < 2 ^ 53) (hb : b < 2 ^ 53) : FloatKind.f64.format.order (fl a) (fl b) = some (compare a b) :=
  num_order (read_fl a ha) (read_fl b hb)
theorem fl_int (n : Nat) (h : n < 2 ^ 53) : floatToIntVal .f64 (fl n) .i64 = some (n : Int) := by
  have h1 : (FloatKind.f64.decode (fl n)).toInt .zero = some (n : Int) := num_int (read_fl n h)
  unfold floatToIntVal
  rw [h1]
  have h2 : IntKind.i64.min = -9223372036854775808 := by decide
  have h3 : IntKind.i64.max = 9223372036854775807 := by decide
  simp only [h2, h3]
  rw [if_pos (by omega)]
theorem fl_of (n : Nat) : floatOfInt .f64 (n : Int) = fl n := by
  show FloatKind.f64.nearest (n : Int) = fl n
  unfold FloatKind.nearest FloatKind.encode fl
  rw [show decide ((n : Int) < 0) = false from decide_eq_false (by omega), Int.natAbs_natCast]
  rfl

theorem fl_0 : fl 0 = 0 := by decide
theorem fl_1 : fl 1 = 4607182418800017408 := by decide
theorem fl_10 : fl 10 = 4621819117588971520 := by decide
theorem fl_16 : fl 16 = 4625196817309499392 := by decide
theorem fl_most : fl 1114111 = 4697535882029170688 := by decide
theorem fl_more : fl 1114112 = 4697535886324137984 := by decide
theorem fl_less : FloatKind.f64.format.order (floatOfInt .f64 (-1)) 0 = some .lt := by decide
end Go.Proofs.YtbcmfcddkegcoaaGreatDoor

/-! What the bytes of a text are as signs, in plain Lean: how long a sign is, what the longest beginning is, what decoding gives. No program in it. -/
namespace Go.Proofs.YtbcmfcddkegcoaaGreatDoor
open Go.Lib

/-- the bytes of the sign 65533 -/
def badL : List UInt8 := [239, 191, 189]
/-- the mark's bytes -/
def markL : List UInt8 := [239, 187, 191]

/-- how many bytes the longest beginning has, where no sign stands -/
def begN (n b0 b1 b2 : Nat) : Nat :=
  if b0 < 224 ∨ 247 < b0 then 1
  else if b0 < 240 then
    (if 1 < n ∧ b1 / 64 = 2 ∧ (2048 ≤ b0 % 16 * 4096 + b1 % 64 * 64 ∧ (b0 % 16 * 4096 + b1 % 64 * 64 < 55296 ∨ 57343 < b0 % 16 * 4096 + b1 % 64 * 64)) then 2 else 1)
  else if 1 < n ∧ b1 / 64 = 2 ∧ (65536 ≤ b0 % 8 * 262144 + b1 % 64 * 4096 ∧ b0 % 8 * 262144 + b1 % 64 * 4096 ≤ 1114111) then
    (if 2 < n ∧ b2 / 64 = 2 then 3 else 2)
  else 1
def begL (l : List UInt8) : Nat := begN l.length (l.getD 0 0).toNat (l.getD 1 0).toNat (l.getD 2 0).toNat

/-- no sign stands at the head -/
def brk (l : List UInt8) : Bool := decide ((decodeL l).1 = 65533 ∧ (decodeL l).2 = 1)

/-- decoding, by at most so many steps -/
def decF : Nat → List UInt8 → List UInt8
  | 0, _ => []
  | f + 1, l => if l = [] then [] else if brk l then badL ++ decF f (l.drop (begL l)) else l.take (decodeL l).2 ++ decF f (l.drop (decodeL l).2)
def dec0 (l : List UInt8) : List UInt8 := decF l.length l
def dec (l : List UInt8) : List UInt8 := dec0 (trimPrefix l markL)

theorem begN_ge (n b0 b1 b2 : Nat) : 1 ≤ begN n b0 b1 b2 := by
  unfold begN; repeat' split
  all_goals omega
theorem begN_le (n b0 b1 b2 : Nat) (h : 1 ≤ n) : begN n b0 b1 b2 ≤ n ∧ begN n b0 b1 b2 ≤ 3 := by
  unfold begN; repeat' split
  all_goals omega
theorem begL_ge (l : List UInt8) : 1 ≤ begL l := begN_ge _ _ _ _
theorem begL_le (l : List UInt8) (h : l ≠ []) : begL l ≤ l.length ∧ begL l ≤ 3 := begN_le _ _ _ _ (List.length_pos_iff.2 h)

theorem decF_fuel : ∀ (n m : Nat) (l : List UInt8), l.length ≤ n → l.length ≤ m → decF n l = decF m l
  | 0, m, l, hn, _ => by
    have : l = [] := List.eq_nil_of_length_eq_zero (by omega)
    subst this
    cases m <;> simp [decF]
  | n + 1, 0, l, _, hm => by
    have : l = [] := List.eq_nil_of_length_eq_zero (by omega)
    subst this
    simp [decF]
  | n + 1, m + 1, l, hn, hm => by
    unfold decF
    by_cases hne : l = []
    · simp [hne]
    · have hw := decodeL_width l
      have hb := begL_ge l
      have hl : 0 < l.length := List.length_pos_iff.2 hne
      rw [if_neg hne, if_neg hne, decF_fuel n m (l.drop (decodeL l).2) (by rw [List.length_drop]; omega) (by rw [List.length_drop]; omega),
        decF_fuel n m (l.drop (begL l)) (by rw [List.length_drop]; omega) (by rw [List.length_drop]; omega)]

theorem dec0_nil : dec0 [] = [] := rfl
theorem dec0_step (l : List UInt8) (hne : l ≠ []) : dec0 l = if brk l then badL ++ dec0 (l.drop (begL l)) else l.take (decodeL l).2 ++ dec0 (l.drop (decodeL l).2) := by
  have hl : 0 < l.length := List.length_pos_iff.2 hne
  have hw := decodeL_width l
  have hb := begL_ge l
  obtain ⟨n, hn⟩ : ∃ n, l.length = n + 1 := ⟨l.length - 1, by omega⟩
  unfold dec0
  rw [hn]
  show (if l = [] then [] else _) = _
  rw [if_neg hne, decF_fuel n (l.drop (decodeL l).2).length _ (by rw [List.length_drop]; omega) (Nat.le_refl _),
    decF_fuel n (l.drop (begL l)).length _ (by rw [List.length_drop]; omega) (Nat.le_refl _)]

theorem validD_brk (l : List UInt8) (hne : l ≠ []) : validD l = if brk l then false else validD (l.drop (decodeL l).2) := by
  rw [validD_step l hne]
  simp [brk]

theorem width_le (l : List UInt8) (hne : l ≠ []) : (decodeL l).2 ≤ l.length := decodeL_le l hne

theorem byte_lt (b : UInt8) : b.toNat < 256 := b.toNat_lt

theorem brk_iff (l : List UInt8) : brk l = true ↔ decodeL l = (65533, 1) := by
  unfold brk
  rw [decide_eq_true_iff]
  constructor
  · intro h; exact Prod.ext h.1 h.2
  · intro h; rw [h]; exact ⟨rfl, rfl⟩

/-- a sign that is not broken at the head: its bytes -/
theorem enc_dec (l : List UInt8) (hne : l ≠ []) (h : brk l = false) : encodeRune ((decodeL l).1 : Int) = l.take (decodeL l).2 :=
  encode_decode l hne (by intro h2; simp [brk, h2] at h)

theorem getD0 (x : UInt8) (t : List UInt8) : (x :: t).getD 0 0 = x := rfl
theorem getD_s (x : UInt8) (t : List UInt8) (k : Nat) : (x :: t).getD (k + 1) 0 = t.getD k 0 := rfl

end Go.Proofs.YtbcmfcddkegcoaaGreatDoor

/-! What the bytes of a text are as signs, continued: a sign's bytes are read as that sign; what is decoded is right, and at most three times as long; what is right stays. -/
namespace Go.Proofs.YtbcmfcddkegcoaaGreatDoor
open Go.Lib

theorem u8nat (x : Int) (h0 : 0 ≤ x) (h1 : x < 256) : (x.toNat.toUInt8).toNat = x.toNat := by
  have : x.toNat < 256 := by omega
  simp [Nat.toUInt8]; omega

/-- a number that a sign has -/
def IsSign (r : Nat) : Prop := r < 55296 ∨ (57343 < r ∧ r ≤ 1114111)

theorem decodeL_sign (l : List UInt8) (_hne : l ≠ []) : IsSign (decodeL l).1 := by
  rw [decodeL_N]
  exact decodeN_valid _ _ _ _ _ (l.getD 0 0).toNat_lt

set_option maxRecDepth 100000 in
/-- a sign's bytes are read as that sign, whatever is behind them -/
theorem decodeL_enc (r : Nat) (h : IsSign r) (t : List UInt8) : decodeL (encodeRune (r : Int) ++ t) = (r, (encodeRune (r : Int)).length) := by
  unfold IsSign at h
  rw [decodeL_N]
  by_cases h1 : r ≤ 127
  · rw [encodeRune, encodeRuneZ_one (by omega) (by omega)]
    simp only [List.map_cons, List.map_nil, List.cons_append, List.nil_append, getD0, List.length_cons, List.length_nil]
    rw [u8nat _ (by omega) (by omega), decodeN_ascii _ _ _ _ _ (by omega)]
    simp
  by_cases h2 : r ≤ 2047
  · rw [encodeRune, encodeRuneZ_two (by omega) (by omega)]
    simp only [List.map_cons, List.map_nil, List.cons_append, List.nil_append, getD0, getD_s, List.length_cons, List.length_nil]
    rw [u8nat _ (by omega) (by omega), u8nat _ (by omega) (by omega)]
    generalize hb0 : (192 + (r : Int) / 64).toNat = b0
    generalize hb1 : (128 + (r : Int) % 64).toNat = b1
    have e0 : b0 = 192 + r / 64 := by omega
    have e1 : b1 = 128 + r % 64 := by omega
    clear hb0 hb1
    unfold decodeN
    rw [if_neg (by omega), if_pos ⟨by omega, by omega, by omega⟩, if_pos (by omega)]
    exact Prod.ext (by simp only; omega) rfl
  by_cases h3 : r ≤ 65535
  · rw [encodeRune, encodeRuneZ_three (by omega)]
    simp only [List.map_cons, List.map_nil, List.cons_append, List.nil_append, getD0, getD_s, List.length_cons, List.length_nil]
    rw [u8nat _ (by omega) (by omega), u8nat _ (by omega) (by omega), u8nat _ (by omega) (by omega)]
    generalize hb0 : (224 + (r : Int) / 4096).toNat = b0
    generalize hb1 : (128 + (r : Int) / 64 % 64).toNat = b1
    generalize hb2 : (128 + (r : Int) % 64).toNat = b2
    have e0 : b0 = 224 + r / 4096 := by omega
    have e1 : b1 = 128 + r / 64 % 64 := by omega
    have e2 : b2 = 128 + r % 64 := by omega
    clear hb0 hb1 hb2
    unfold decodeN
    rw [if_neg (by omega), if_neg (by omega), if_pos ⟨by omega, ⟨by omega, by omega⟩, by omega, by omega⟩, if_pos ⟨by omega, by omega⟩]
    exact Prod.ext (by simp only; omega) rfl
  · rw [encodeRune, encodeRuneZ_four (by omega) (by omega)]
    simp only [List.map_cons, List.map_nil, List.cons_append, List.nil_append, getD0, getD_s, List.length_cons, List.length_nil]
    rw [u8nat _ (by omega) (by omega), u8nat _ (by omega) (by omega), u8nat _ (by omega) (by omega), u8nat _ (by omega) (by omega)]
    generalize hb0 : (240 + (r : Int) / 262144).toNat = b0
    generalize hb1 : (128 + (r : Int) / 4096 % 64).toNat = b1
    generalize hb2 : (128 + (r : Int) / 64 % 64).toNat = b2
    generalize hb3 : (128 + (r : Int) % 64).toNat = b3
    have e0 : b0 = 240 + r / 262144 := by omega
    have e1 : b1 = 128 + r / 4096 % 64 := by omega
    have e2 : b2 = 128 + r / 64 % 64 := by omega
    have e3 : b3 = 128 + r % 64 := by omega
    clear hb0 hb1 hb2 hb3
    unfold decodeN
    rw [if_neg (by omega), if_neg (by omega), if_neg (by omega), if_pos ⟨by omega, ⟨by omega, by omega⟩, ⟨by omega, by omega⟩, by omega, by omega⟩, if_pos ⟨by omega, by omega⟩]
    exact Prod.ext (by simp only; omega) rfl

theorem enc_len (r : Int) : 1 ≤ (encodeRune r).length ∧ (encodeRune r).length ≤ 4 := by
  have := encodeRuneZ_length r
  simpa [encodeRune] using this
theorem enc_ne (r : Int) : encodeRune r ≠ [] := by
  intro h; have := (enc_len r).1; rw [h] at this; simp at this
/-- whatever number: its bytes are a sign's -/
theorem enc_is (n : Int) : ∃ r : Nat, IsSign r ∧ encodeRune n = encodeRune (r : Int) ∧ ((0 ≤ n ∧ IsSign n.toNat ∧ (r : Int) = n) ∨ (¬ (0 ≤ n ∧ IsSign n.toNat) ∧ r = 65533)) := by
  by_cases h : 0 ≤ n ∧ IsSign n.toNat
  · exact ⟨n.toNat, h.2, by rw [Int.toNat_of_nonneg h.1], .inl ⟨h.1, h.2, by omega⟩⟩
  · refine ⟨65533, by unfold IsSign; omega, ?_, .inr ⟨h, rfl⟩⟩
    unfold IsSign at h
    have e : encodeRuneZ n = [239, 191, 189] := encodeRuneZ_bad (by omega)
    have e2 : encodeRuneZ ((65533 : Nat) : Int) = [239, 191, 189] := by decide
    rw [encodeRune, encodeRune, e, e2]

/-- a sign that stands at the head is not broken -/
theorem brk_enc (r : Nat) (h : IsSign r) (t : List UInt8) : brk (encodeRune (r : Int) ++ t) = false := by
  unfold brk
  rw [decodeL_enc r h t, decide_eq_false_iff_not]
  rintro ⟨e1, e2⟩
  simp only at e1 e2
  subst e1
  have : (encodeRune ((65533 : Nat) : Int)).length = 3 := by decide
  omega

/-- what stands at the head, where it isn't broken, is a sign's bytes, and then the rest -/
theorem head_enc (l : List UInt8) (hne : l ≠ []) (h : brk l = false) : l = encodeRune ((decodeL l).1 : Int) ++ l.drop (decodeL l).2 := by
  rw [enc_dec l hne h, List.take_append_drop]
theorem width_enc (l : List UInt8) (hne : l ≠ []) (h : brk l = false) : (encodeRune ((decodeL l).1 : Int)).length = (decodeL l).2 := by
  rw [enc_dec l hne h, List.length_take]
  have := width_le l hne
  omega

theorem dec0_enc (r : Nat) (h : IsSign r) (t : List UInt8) : dec0 (encodeRune (r : Int) ++ t) = encodeRune (r : Int) ++ dec0 t := by
  rw [dec0_step _ (by simp [enc_ne]), brk_enc r h t, decodeL_enc r h t]
  simp
theorem validD_enc (r : Nat) (h : IsSign r) (t : List UInt8) : validD (encodeRune (r : Int) ++ t) = validD t := by
  rw [validD_brk _ (by simp [enc_ne]), brk_enc r h t, decodeL_enc r h t]
  simp
/-- what is right stays, whatever is behind it -/
theorem dec0_right (t : List UInt8) : ∀ (n : Nat) (a : List UInt8), a.length ≤ n → validD a = true → dec0 (a ++ t) = a ++ dec0 t
  | 0, a, h, _ => by
    have : a = [] := List.eq_nil_of_length_eq_zero (by omega)
    subst this; rfl
  | n + 1, a, h, hv => by
    by_cases hne : a = []
    · subst hne; rfl
    · have hl : 0 < a.length := List.length_pos_iff.2 hne
      have hw := decodeL_width a
      rw [validD_brk a hne] at hv
      cases hk : brk a with
      | true => rw [hk] at hv; simp at hv
      | false =>
        rw [hk, if_neg (by simp)] at hv
        have ih := dec0_right t n (a.drop (decodeL a).2) (by rw [List.length_drop]; omega) hv
        conv => lhs; rw [head_enc a hne hk]
        rw [List.append_assoc, dec0_enc _ (decodeL_sign a hne), ih, ← List.append_assoc, ← head_enc a hne hk]
theorem validD_right (t : List UInt8) : ∀ (n : Nat) (a : List UInt8), a.length ≤ n → validD a = true → validD (a ++ t) = validD t
  | 0, a, h, _ => by
    have : a = [] := List.eq_nil_of_length_eq_zero (by omega)
    subst this; rfl
  | n + 1, a, h, hv => by
    by_cases hne : a = []
    · subst hne; rfl
    · have hl : 0 < a.length := List.length_pos_iff.2 hne
      have hw := decodeL_width a
      rw [validD_brk a hne] at hv
      cases hk : brk a with
      | true => rw [hk] at hv; simp at hv
      | false =>
        rw [hk, if_neg (by simp)] at hv
        have ih := validD_right t n (a.drop (decodeL a).2) (by rw [List.length_drop]; omega) hv
        conv => lhs; rw [head_enc a hne hk]
        rw [List.append_assoc, validD_enc _ (decodeL_sign a hne), ih]
theorem dec0_same (a : List UInt8) (hv : validD a = true) : dec0 a = a := by
  have := dec0_right [] a.length a (Nat.le_refl _) hv
  rwa [List.append_nil, dec0_nil, List.append_nil] at this

/-! ### the mark -/
theorem mark_dec (t : List UInt8) : decodeL (markL ++ t) = (65279, 3) := by
  have := decodeL_enc 65279 (by unfold IsSign; omega) t
  rwa [show encodeRune ((65279 : Nat) : Int) = markL by decide] at this
theorem hasMark (l : List UInt8) : hasPrefix l markL = true ↔ ∃ t, l = markL ++ t := by
  unfold hasPrefix
  rw [List.isPrefixOf_iff_prefix]
  exact ⟨fun ⟨t, h⟩ => ⟨t, h.symm⟩, fun ⟨t, h⟩ => ⟨t, h.symm⟩⟩
theorem dec_plain (l : List UInt8) (h : hasPrefix l markL = false) : dec l = dec0 l := by
  unfold dec trimPrefix; rw [h]; rfl
theorem dec_mark (l : List UInt8) (h : hasPrefix l markL = true) : dec l = dec0 (l.drop 3) := by
  unfold dec trimPrefix; rw [h]; rfl
theorem low_head (x : UInt8) (t : List UInt8) (h : x.toNat < 128) : hasPrefix (x :: t) markL = false := by
  rw [Bool.eq_false_iff]
  intro h2
  obtain ⟨u, hu⟩ := (hasMark _).1 h2
  simp only [markL, List.cons_append, List.cons.injEq] at hu
  rw [hu.1] at h
  exact absurd h (by decide)

/-- what a range tells of what can't be read is the sign 65533; so it does of that sign itself -/
theorem brk_code (l : List UInt8) (hne : l ≠ []) : brk l = (decide ((decodeL l).1 = 65533) && !hasPrefix l badL) := by
  rw [Bool.eq_iff_iff]
  constructor
  · intro h
    have e := (brk_iff l).1 h
    rw [e]
    simp only [decide_true, Bool.true_and, Bool.not_eq_true']
    rw [Bool.eq_false_iff]
    intro hp
    unfold hasPrefix at hp
    rw [List.isPrefixOf_iff_prefix] at hp
    obtain ⟨t, ht⟩ := hp
    have := decodeL_enc 65533 (by unfold IsSign; omega) t
    rw [show encodeRune ((65533 : Nat) : Int) = badL by decide, ht, e] at this
    exact absurd (congrArg Prod.snd this) (by decide)
  · intro h
    rw [Bool.and_eq_true, decide_eq_true_iff, Bool.not_eq_true'] at h
    obtain ⟨h1, h2⟩ := h
    cases hk : brk l with
    | true => rfl
    | false =>
      have he := enc_dec l hne hk
      rw [h1, show encodeRune ((65533 : Nat) : Int) = badL by decide] at he
      have : hasPrefix l badL = true := by
        unfold hasPrefix
        rw [List.isPrefixOf_iff_prefix]
        exact ⟨l.drop (decodeL l).2, by rw [he, List.take_append_drop]⟩
      rw [this] at h2
      exact absurd h2 (by simp)

/-- within the longest beginning all but its first byte go on -/
theorem beg_conts (l : List UInt8) (i : Nat) (h1 : 1 ≤ i) (h2 : i < begL l) : (l.getD i 0).toNat / 64 = 2 := by
  unfold begL begN at h2
  repeat' split at h2
  all_goals first | omega | skip
  · have : i = 1 := by omega
    subst this; omega
  · rename_i a b
    have : i = 1 ∨ i = 2 := by omega
    rcases this with rfl | rfl
    · omega
    · omega
  · have : i = 1 := by omega
    subst this; omega
/-- a byte that goes on can't be read by itself -/
theorem decodeL_cont (l : List UInt8) (h : (l.getD 0 0).toNat / 64 = 2) : decodeL l = (65533, 1) := by
  rw [decodeL_N]
  exact decodeN_cont _ _ _ _ _ h

end Go.Proofs.YtbcmfcddkegcoaaGreatDoor

/-! The sign of a number: the program's answer and the document's, for every number. (Without the texts of decoding: for programs that have no Decode.) -/
namespace Go.Proofs.YtbcmfcddkegcoaaGreatDoor
open Go.RowKit Go.Lib

theorem ofNat_eqs (a : Nat) (x : Int) (h : x.toNat = a) : UInt8.ofNat a = x.toNat.toUInt8 := by rw [h]
/-- the model's bytes of a rune's sign are the plain ones -/
theorem encode_eqs (n : Int) : Utf8.encode n = ⟨(encodeRune n).toArray⟩ := by
  by_cases h : 0 ≤ n ∧ IsSign n.toNat
  · obtain ⟨hn, hs⟩ := h
    obtain ⟨r, rfl⟩ := Int.eq_ofNat_of_zero_le hn
    unfold IsSign at hs
    rw [Int.toNat_natCast] at hs
    have v : Utf8.valid (r : Int) = true := by
      unfold Utf8.valid
      simp
      omega
    unfold Utf8.encode encodeRune
    simp only [v, if_true, Int.toNat_natCast]
    by_cases h1 : r ≤ 127
    · rw [if_pos (by omega), encodeRuneZ_one (by omega) (by omega)]
      simp only [List.map_cons, List.map_nil]
      rw [ofNat_eqs r (r : Int) (by omega)]
    by_cases h2 : r ≤ 2047
    · rw [if_neg (by omega), if_pos (by omega), encodeRuneZ_two (by omega) (by omega)]
      simp only [List.map_cons, List.map_nil]
      rw [ofNat_eqs _ (192 + (r : Int) / 64) (by omega), ofNat_eqs _ (128 + (r : Int) % 64) (by omega)]
    by_cases h3 : r ≤ 65535
    · rw [if_neg (by omega), if_neg (by omega), if_pos (by omega), encodeRuneZ_three (by omega)]
      simp only [List.map_cons, List.map_nil]
      rw [ofNat_eqs _ (224 + (r : Int) / 4096) (by omega), ofNat_eqs _ (128 + (r : Int) / 64 % 64) (by omega), ofNat_eqs _ (128 + (r : Int) % 64) (by omega)]
    · rw [if_neg (by omega), if_neg (by omega), if_neg (by omega), encodeRuneZ_four (by omega) (by omega)]
      simp only [List.map_cons, List.map_nil]
      rw [ofNat_eqs _ (240 + (r : Int) / 262144) (by omega), ofNat_eqs _ (128 + (r : Int) / 4096 % 64) (by omega), ofNat_eqs _ (128 + (r : Int) / 64 % 64) (by omega), ofNat_eqs _ (128 + (r : Int) % 64) (by omega)]
  · unfold IsSign at h
    have v : Utf8.valid n = false := by
      unfold Utf8.valid
      simp
      omega
    unfold Utf8.encode encodeRune
    simp only [v, Bool.false_eq_true, if_false, Utf8.runeError]
    rw [encodeRuneZ_bad (by omega), if_neg (by omega), if_neg (by omega), if_pos (by omega)]
    rfl

set_option maxRecDepth 100000 in
/-- Sign: a number's sign; api.Bad, if there is none. -/
theorem sgn_any (n : Int) (w : World) :
    Calls Tryz.prog 30 #[.int .i64 n] w fun e w' => e = .returned (.string ⟨(encodeRune n).toArray⟩) ∧ w = w' := by
  have E := Lib.hid (encode_eqs n)
  by_cases h0 : n < 0
  · have B : Hid (encodeRune n = badL) := Lib.hid (by rw [encodeRune, encodeRuneZ_bad (.inl h0)]; rfl)
    go_enter Tryz.func30, Tryz.ntmps30
    go_wp2
    go_ret
    exact ⟨ret_str (by rw [B.out]; rfl), rfl⟩
  · by_cases h1 : 1114111 < n
    · have B : Hid (encodeRune n = badL) := Lib.hid (by rw [encodeRune, encodeRuneZ_bad (.inr (.inr h1))]; rfl)
      go_enter Tryz.func30, Tryz.ntmps30
      go_wp2
      go_ret
      exact ⟨ret_str (by rw [B.out]; rfl), rfl⟩
    · have g0 : 0 ≤ n := by omega
      have g1 : n ≤ 1114111 := by omega
      go_enter Tryz.func30, Tryz.ntmps30
      go_wp2
      go_ret
      exact ⟨ret_str E.out, rfl⟩

end Go.Proofs.YtbcmfcddkegcoaaGreatDoor
