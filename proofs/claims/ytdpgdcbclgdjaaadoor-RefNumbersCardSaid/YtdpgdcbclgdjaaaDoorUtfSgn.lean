/-
  The sign of a number: the program's answer and the document's, for every number. (Without the texts of decoding: for programs that have no Decode.)
-/
import Derived.Test.YtdpgdcbclgdjaaaDoorSmall
import Derived.Test.YtdpgdcbclgdjaaaDoorUtfMathB
import Derived.Test.YtdpgdcbclgdjaaaDoorProg
import Derived.WalkKit
import Derived.Below
namespace Go.Proofs.YtdpgdcbclgdjaaaDoor
open Go.RowKit Go.Lib

theorem ofNat_eqs (a : Nat) (x : Int) (h : x.toNat = a) : UInt8.ofNat a = x.toNat.toUInt8 := by rw [h]
/-- the model's bytes of a rune's sign are the plain ones -/
theorem encode_eqs (n : Int) : Utf8.encode n = ⟨(encodeRune n).toArray⟩ := by
  by_cases h : 0 ≤ n ∧ IsSign n.toNat
  · obtain ⟨hn, hs⟩ := h
    obtain ⟨r, rfl⟩ := Int.eq_ofNat_of_zero_le hn
    unfold IsSign at hs
    rw [Int.toNat_natCast] at hs
    have v : Utf8.valid (r : Int) = true := by
      unfold Utf8.valid
      simp
      omega
    unfold Utf8.encode encodeRune
    simp only [v, if_true, Int.toNat_natCast]
    by_cases h1 : r ≤ 127
    · rw [if_pos (by omega), encodeRuneZ_one (by omega) (by omega)]
      simp only [List.map_cons, List.map_nil]
      rw [ofNat_eqs r (r : Int) (by omega)]
    by_cases h2 : r ≤ 2047
    · rw [if_neg (by omega), if_pos (by omega), encodeRuneZ_two (by omega) (by omega)]
      simp only [List.map_cons, List.map_nil]
      rw [ofNat_eqs _ (192 + (r : Int) / 64) (by omega), ofNat_eqs _ (128 + (r : Int) % 64) (by omega)]
    by_cases h3 : r ≤ 65535
    · rw [if_neg (by omega), if_neg (by omega), if_pos (by omega), encodeRuneZ_three (by omega)]
      simp only [List.map_cons, List.map_nil]
      rw [ofNat_eqs _ (224 + (r : Int) / 4096) (by omega), ofNat_eqs _ (128 + (r : Int) / 64 % 64) (by omega), ofNat_eqs _ (128 + (r : Int) % 64) (by omega)]
    · rw [if_neg (by omega), if_neg (by omega), if_neg (by omega), encodeRuneZ_four (by omega) (by omega)]
      simp only [List.map_cons, List.map_nil]
      rw [ofNat_eqs _ (240 + (r : Int) / 262144) (by omega), ofNat_eqs _ (128 + (r : Int) / 4096 % 64) (by omega), ofNat_eqs _ (128 + (r : Int) / 64 % 64) (by omega), ofNat_eqs _ (128 + (r : Int) % 64) (by omega)]
  · unfold IsSign at h
    have v : Utf8.valid n = false := by
      unfold Utf8.valid
      simp
      omega
    unfold Utf8.encode encodeRune
    simp only [v, Bool.false_eq_true, if_false, Utf8.runeError]
    rw [encodeRuneZ_bad (by omega), if_neg (by omega), if_neg (by omega), if_pos (by omega)]
    rfl

set_option maxRecDepth 100000 in
/-- Sign: a number's sign; api.Bad, if there is none. -/
theorem sgn_any (n : Int) (w : World) :
    Calls Tryd.prog 36 #[.int .i64 n] w fun e w' => e = .returned (.string ⟨(encodeRune n).toArray⟩) ∧ w = w' := by
  have E := Lib.hid (encode_eqs n)
  by_cases h0 : n < 0
  · have B : Hid (encodeRune n = badL) := Lib.hid (by rw [encodeRune, encodeRuneZ_bad (.inl h0)]; rfl)
    go_enter Tryd.func36, Tryd.ntmps36
    go_wp2
    go_ret
    exact ⟨ret_str (by rw [B.out]; rfl), rfl⟩
  · by_cases h1 : 1114111 < n
    · have B : Hid (encodeRune n = badL) := Lib.hid (by rw [encodeRune, encodeRuneZ_bad (.inr (.inr h1))]; rfl)
      go_enter Tryd.func36, Tryd.ntmps36
      go_wp2
      go_ret
      exact ⟨ret_str (by rw [B.out]; rfl), rfl⟩
    · have g0 : 0 ≤ n := by omega
      have g1 : n ≤ 1114111 := by omega
      go_enter Tryd.func36, Tryd.ntmps36
      go_wp2
      go_ret
      exact ⟨ret_str E.out, rfl⟩

theorem sgn_conv (n : Int) (k : Nat) (C : Array Value) (hz : (encodeRuneZ n).map (Value.int .u8) = C.toList) (hk : (encodeRuneZ n).length = k) (w : World) :
    (convert 30 9 (.slice (some ⟨w.heap.size, 0, none⟩) k k)).run Tryd.prog (w.alloc (.cells C 5)) = .ok (.string ⟨(encodeRune n).toArray⟩) (w.alloc (.cells C 5)) := by
  have hl : (encodeRune n).length = k := by rw [← hk]; simp [encodeRune]
  subst hl
  refine run_convert_bytes_back (P := Tryd.prog) (w.alloc (.cells C 5)) 30 9 5 ⟨w.heap.size, 0, none⟩ (encodeRune n).length (encodeRune n) Tryd.underlying30 Tryd.underlying5 Tryd.underlying9 ?_
  intro i hi
  have e : (⟨w.heap.size, 0, none⟩ : Addr).add i = ⟨w.heap.size, i, none⟩ := by simp [Addr.add]; omega
  rw [e, World.cell?_alloc_mark, ← Array.getElem?_toList, ← hz, ← runeCells, ← byteCells_encodeRune, byteCells, List.getElem?_map, List.getElem?_eq_getElem hi]
  rfl

set_option maxRecDepth 100000 in
set_option maxHeartbeats 4000000 in
theorem refSgn_any (n : Int) (w : World) :
    Calls Tryd.prog 35 #[.int .i64 n] w fun e w' => e = .returned (.string ⟨(encodeRune n).toArray⟩) ∧ Below w.heap.size w w' := by
  by_cases hb : n < 0 ∨ 1114111 < n ∨ (55296 ≤ n ∧ n ≤ 57343)
  · have B : Hid (encodeRune n = badL) := Lib.hid (by rw [encodeRune, encodeRuneZ_bad (by omega)]; rfl)
    rcases hb with h | h | ⟨h1, h2⟩
    · go_enter Tryd.func35, Tryd.ntmps35
      go_wp2
      go_ret
      exact ⟨ret_str (by rw [B.out]; rfl), Below.refl _ _⟩
    · go_enter Tryd.func35, Tryd.ntmps35
      go_wp2
      go_ret
      exact ⟨ret_str (by rw [B.out]; rfl), Below.refl _ _⟩
    · go_enter Tryd.func35, Tryd.ntmps35
      go_wp2
      go_ret
      exact ⟨ret_str (by rw [B.out]; rfl), Below.refl _ _⟩
  · have h0 : 0 ≤ n := by omega
    have hm : n ≤ 1114111 := by omega
    by_cases h1 : n < 128
    · have hs : n < 55296 := by omega
      have hcv := sgn_conv n 1 #[.int .u8 n] (by rw [encodeRuneZ_one (by omega) (by omega)]; rfl) (by rw [encodeRuneZ_one (by omega) (by omega)]; rfl)
      go_enter Tryd.func35, Tryd.ntmps35
      go_wp2
      go_ret
      exact ⟨rfl, (Below.refl _ w).alloc (Nat.le_refl _) _⟩
    by_cases h2 : n < 2048
    · have hs : n < 55296 := by omega
      have hcv := sgn_conv n 2 #[.int .u8 (192 + n / 64), .int .u8 (128 + n % 64)] (by rw [encodeRuneZ_two (by omega) (by omega)]; rfl) (by rw [encodeRuneZ_two (by omega) (by omega)]; rfl)
      go_enter Tryd.func35, Tryd.ntmps35
      go_wp2
      go_ret
      exact ⟨rfl, (Below.refl _ w).alloc (Nat.le_refl _) _⟩
    by_cases h3 : n < 65536
    · by_cases hs : n < 55296
      · have hcv := sgn_conv n 3 #[.int .u8 (224 + n / 4096), .int .u8 (128 + n / 64 % 64), .int .u8 (128 + n % 64)] (by rw [encodeRuneZ_three (by omega)]; rfl) (by rw [encodeRuneZ_three (by omega)]; rfl)
        go_enter Tryd.func35, Tryd.ntmps35
        go_wp2
        go_ret
        exact ⟨rfl, (Below.refl _ w).alloc (Nat.le_refl _) _⟩
      · have hs2 : 57343 < n := by omega
        have hcv := sgn_conv n 3 #[.int .u8 (224 + n / 4096), .int .u8 (128 + n / 64 % 64), .int .u8 (128 + n % 64)] (by rw [encodeRuneZ_three (by omega)]; rfl) (by rw [encodeRuneZ_three (by omega)]; rfl)
        go_enter Tryd.func35, Tryd.ntmps35
        go_wp2
        go_ret
        exact ⟨rfl, (Below.refl _ w).alloc (Nat.le_refl _) _⟩
    · have hs2 : 57343 < n := by omega
      have hcv := sgn_conv n 4 #[.int .u8 (240 + n / 262144), .int .u8 (128 + n / 4096 % 64), .int .u8 (128 + n / 64 % 64), .int .u8 (128 + n % 64)] (by rw [encodeRuneZ_four (by omega) (by omega)]; rfl) (by rw [encodeRuneZ_four (by omega) (by omega)]; rfl)
      go_enter Tryd.func35, Tryd.ntmps35
      go_wp2
      go_ret
      exact ⟨rfl, (Below.refl _ w).alloc (Nat.le_refl _) _⟩

end Go.Proofs.YtdpgdcbclgdjaaaDoor
