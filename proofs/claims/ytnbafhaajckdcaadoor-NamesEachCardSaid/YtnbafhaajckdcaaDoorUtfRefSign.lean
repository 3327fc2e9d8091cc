/-
  What the document's answer for a number's sign is, for every number.
-/
import Derived.Test.YtnbafhaajckdcaaDoorUtfAwake
namespace Go.Proofs.YtnbafhaajckdcaaDoor
open Go.RowKit Go.Lib

theorem enc_conv (n : Int) (k : Nat) (C : Array Value) (hz : (encodeRuneZ n).map (Value.int .u8) = C.toList) (hk : (encodeRuneZ n).length = k) (w : World) :
    (convert 49 9 (.slice (some ⟨w.heap.size, 0, none⟩) k k)).run Tryd.prog (w.alloc (.cells C 5)) = .ok (.string ⟨(encodeRune n).toArray⟩) (w.alloc (.cells C 5)) := by
  have h4 := enc_len n
  have hl : (encodeRune n).length = k := by rw [← hk]; simp [encodeRune]
  have := (isBytes_new w C 5 (encodeRune n) (by rw [byteCells_encodeRune, runeCells, hz]) (by unfold maxLen; omega)).conv
  rwa [hl] at this

set_option maxRecDepth 100000 in
set_option maxHeartbeats 4000000 in
theorem refSign_any (n : Int) (w : World) :
    Calls Tryd.prog 18 #[.int .i64 n] w fun e w' => e = .returned (.string ⟨(encodeRune n).toArray⟩) ∧ Below w.heap.size w w' := by
  by_cases hb : n < 0 ∨ 1114111 < n ∨ (55296 ≤ n ∧ n ≤ 57343)
  · have B : Hid (encodeRune n = badL) := Lib.hid (by rw [encodeRune, encodeRuneZ_bad (by omega)]; rfl)
    rcases hb with h | h | ⟨h1, h2⟩
    · go_enter Tryd.func18, Tryd.ntmps18
      go_wp2
      go_ret
      exact ⟨ret_str (by rw [B.out]; rfl), Below.refl _ _⟩
    · go_enter Tryd.func18, Tryd.ntmps18
      go_wp2
      go_ret
      exact ⟨ret_str (by rw [B.out]; rfl), Below.refl _ _⟩
    · go_enter Tryd.func18, Tryd.ntmps18
      go_wp2
      go_ret
      exact ⟨ret_str (by rw [B.out]; rfl), Below.refl _ _⟩
  · have h0 : 0 ≤ n := by omega
    have hm : n ≤ 1114111 := by omega
    by_cases h1 : n < 128
    · have hs : n < 55296 := by omega
      have hcv := enc_conv n 1 #[.int .u8 n] (by rw [encodeRuneZ_one (by omega) (by omega)]; rfl) (by rw [encodeRuneZ_one (by omega) (by omega)]; rfl)
      go_enter Tryd.func18, Tryd.ntmps18
      go_wp2
      go_ret
      exact ⟨rfl, (Below.refl _ w).alloc (Nat.le_refl _) _⟩
    by_cases h2 : n < 2048
    · have hs : n < 55296 := by omega
      have hcv := enc_conv n 2 #[.int .u8 (192 + n / 64), .int .u8 (128 + n % 64)] (by rw [encodeRuneZ_two (by omega) (by omega)]; rfl) (by rw [encodeRuneZ_two (by omega) (by omega)]; rfl)
      go_enter Tryd.func18, Tryd.ntmps18
      go_wp2
      go_ret
      exact ⟨rfl, (Below.refl _ w).alloc (Nat.le_refl _) _⟩
    by_cases h3 : n < 65536
    · by_cases hs : n < 55296
      · have hcv := enc_conv n 3 #[.int .u8 (224 + n / 4096), .int .u8 (128 + n / 64 % 64), .int .u8 (128 + n % 64)] (by rw [encodeRuneZ_three (by omega)]; rfl) (by rw [encodeRuneZ_three (by omega)]; rfl)
        go_enter Tryd.func18, Tryd.ntmps18
        go_wp2
        go_ret
        exact ⟨rfl, (Below.refl _ w).alloc (Nat.le_refl _) _⟩
      · have hs2 : 57343 < n := by omega
        have hcv := enc_conv n 3 #[.int .u8 (224 + n / 4096), .int .u8 (128 + n / 64 % 64), .int .u8 (128 + n % 64)] (by rw [encodeRuneZ_three (by omega)]; rfl) (by rw [encodeRuneZ_three (by omega)]; rfl)
        go_enter Tryd.func18, Tryd.ntmps18
        go_wp2
        go_ret
        exact ⟨rfl, (Below.refl _ w).alloc (Nat.le_refl _) _⟩
    · have hs2 : 57343 < n := by omega
      have hcv := enc_conv n 4 #[.int .u8 (240 + n / 262144), .int .u8 (128 + n / 4096 % 64), .int .u8 (128 + n / 64 % 64), .int .u8 (128 + n % 64)] (by rw [encodeRuneZ_four (by omega) (by omega)]; rfl) (by rw [encodeRuneZ_four (by omega) (by omega)]; rfl)
      go_enter Tryd.func18, Tryd.ntmps18
      go_wp2
      go_ret
      exact ⟨rfl, (Below.refl _ w).alloc (Nat.le_refl _) _⟩

end Go.Proofs.YtnbafhaajckdcaaDoor
