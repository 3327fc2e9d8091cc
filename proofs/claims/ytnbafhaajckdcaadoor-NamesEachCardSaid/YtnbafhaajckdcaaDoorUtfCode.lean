/-
  What package utf's functions answer, for every argument: told by the plain functions of UtfMath.
-/
import Derived.Test.YtnbafhaajckdcaaDoorBuilder
import Derived.Test.YtnbafhaajckdcaaDoorUtfBits
import Derived.WalkSpells
import Derived.WalkLawsBesides
import Derived.Lib.Hide
namespace Go.Proofs.YtnbafhaajckdcaaDoor
open Go.RowKit Go.Lib

theorem ret_str {a b : ByteArray} (h : a = b) : Ending.returned (.string a) = .returned (.string b) := by rw [h]
theorem ret_int {k : IntKind} {a b : Int} (h : a = b) : Ending.returned (.int k a) = .returned (.int k b) := by rw [h]
theorem ret_bool {a b : Bool} (h : a = b) : Ending.returned (.bool a) = .returned (.bool b) := by rw [h]

theorem ofNat_eq (a : Nat) (x : Int) (h : x.toNat = a) : UInt8.ofNat a = x.toNat.toUInt8 := by rw [h]
/-- the model's bytes of a rune's sign are the plain ones -/
theorem encode_eq (n : Int) : Utf8.encode n = ⟨(encodeRune n).toArray⟩ := by
  by_cases h : 0 ≤ n ∧ IsSign n.toNat
  · obtain ⟨hn, hs⟩ := h
    obtain ⟨r, rfl⟩ := Int.eq_ofNat_of_zero_le hn
    unfold IsSign at hs
    rw [Int.toNat_natCast] at hs
    have v : Utf8.valid (r : Int) = true := by
      unfold Utf8.valid
      simp
      omega
    unfold Utf8.encode encodeRune
    simp only [v, if_true, Int.toNat_natCast]
    by_cases h1 : r ≤ 127
    · rw [if_pos (by omega), encodeRuneZ_one (by omega) (by omega)]
      simp only [List.map_cons, List.map_nil]
      rw [ofNat_eq r (r : Int) (by omega)]
    by_cases h2 : r ≤ 2047
    · rw [if_neg (by omega), if_pos (by omega), encodeRuneZ_two (by omega) (by omega)]
      simp only [List.map_cons, List.map_nil]
      rw [ofNat_eq _ (192 + (r : Int) / 64) (by omega), ofNat_eq _ (128 + (r : Int) % 64) (by omega)]
    by_cases h3 : r ≤ 65535
    · rw [if_neg (by omega), if_neg (by omega), if_pos (by omega), encodeRuneZ_three (by omega)]
      simp only [List.map_cons, List.map_nil]
      rw [ofNat_eq _ (224 + (r : Int) / 4096) (by omega), ofNat_eq _ (128 + (r : Int) / 64 % 64) (by omega), ofNat_eq _ (128 + (r : Int) % 64) (by omega)]
    · rw [if_neg (by omega), if_neg (by omega), if_neg (by omega), encodeRuneZ_four (by omega) (by omega)]
      simp only [List.map_cons, List.map_nil]
      rw [ofNat_eq _ (240 + (r : Int) / 262144) (by omega), ofNat_eq _ (128 + (r : Int) / 4096 % 64) (by omega), ofNat_eq _ (128 + (r : Int) / 64 % 64) (by omega), ofNat_eq _ (128 + (r : Int) % 64) (by omega)]
  · unfold IsSign at h
    have v : Utf8.valid n = false := by
      unfold Utf8.valid
      simp
      omega
    unfold Utf8.encode encodeRune
    simp only [v, Bool.false_eq_true, if_false, Utf8.runeError]
    rw [encodeRuneZ_bad (by omega), if_neg (by omega), if_neg (by omega), if_pos (by omega)]
    rfl

set_option maxRecDepth 100000 in
/-- Sign: a number's sign; api.Bad, if there is none. -/
theorem sign_any (n : Int) (w : World) :
    Calls Tryd.prog 26 #[.int .i64 n] w fun e w' => e = .returned (.string ⟨(encodeRune n).toArray⟩) ∧ w = w' := by
  have E := Lib.hid (encode_eq n)
  by_cases h0 : n < 0
  · have B : Hid (encodeRune n = badL) := Lib.hid (by rw [encodeRune, encodeRuneZ_bad (.inl h0)]; rfl)
    go_enter Tryd.func26, Tryd.ntmps26
    go_wp2
    go_ret
    exact ⟨ret_str (by rw [B.out]; rfl), rfl⟩
  · by_cases h1 : 1114111 < n
    · have B : Hid (encodeRune n = badL) := Lib.hid (by rw [encodeRune, encodeRuneZ_bad (.inr (.inr h1))]; rfl)
      go_enter Tryd.func26, Tryd.ntmps26
      go_wp2
      go_ret
      exact ⟨ret_str (by rw [B.out]; rfl), rfl⟩
    · have g0 : 0 ≤ n := by omega
      have g1 : n ≤ 1114111 := by omega
      go_enter Tryd.func26, Tryd.ntmps26
      go_wp2
      go_ret
      exact ⟨ret_str E.out, rfl⟩

end Go.Proofs.YtnbafhaajckdcaaDoor
