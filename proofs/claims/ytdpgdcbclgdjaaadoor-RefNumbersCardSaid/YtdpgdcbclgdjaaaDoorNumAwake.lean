/-
  The document's Read for any place; the chapter's examples of layer 4; numbers written with ten digits.
-/
import Derived.Test.YtdpgdcbclgdjaaaDoorNumRefB
namespace Go.Proofs.YtdpgdcbclgdjaaaDoor
open Go.RowKit Go.Lib

theorem below_drewN4 (B : Nat) (w : World) (n : Nat) : Below B w (w.drewN n) := ⟨rfl, rfl, rfl, Nat.le_refl _, fun _ _ => rfl⟩

set_option maxRecDepth 100000 in
set_option maxHeartbeats 1000000 in
theorem refRead (s : ByteArray) (a : Int) (w : World) (hs : s.size ≤ 1099511627776) (ha : -9223372036854775808 ≤ a) (hb : a ≤ 9223372036854775807) :
    Calls Tryd.prog 26 #[.string s, .int .i64 a] w fun e w' => e = .returned (.tuple #[.string (txtR s.data.toList a), .int .i64 (nxtR s.data.toList a), .bool (isRef s.data.toList a)]) ∧ Below w.heap.size w w' := by
  by_cases hq : 0 ≤ a ∧ s.data.toList.getD a.toNat 0 = 35
  · obtain ⟨h0, h35⟩ := hq
    obtain ⟨k, rfl⟩ : ∃ k : Nat, a = k := ⟨a.toNat, by omega⟩
    rw [show ((k : Nat) : Int).toNat = k by omega] at h35
    exact refRead_at s k w hs h35
  · have hr : isRef s.data.toList a = false := by
      unfold isRef
      rw [decide_eq_false_iff_not]
      exact fun h => hq ⟨h.1, h.2.1⟩
    rw [txtR_no hr, nxtR_no hr, hr]
    clear hr
    by_cases h0 : a < 0
    · clear hq
      go_enter Tryd.func26, Tryd.ntmps26
      go_wp2
      go_ret3
      exact ⟨rfl, Below.refl _ _⟩
    · obtain ⟨k, rfl⟩ : ∃ k : Nat, a = k := ⟨a.toNat, by omega⟩
      by_cases h1 : k < s.size
      · have b35 : (((s[k].toNat : Nat) : Int) != 35) = true := by
          rw [bne_iff_ne]
          intro h
          refine hq ⟨by omega, ?_⟩
          rw [show ((k : Nat) : Int).toNat = k by omega, getD_is s k h1]
          exact u8_eq _ 35 (by decide) h
        clear hq
        go_enter Tryd.func26, Tryd.ntmps26
        go_wp2
        go_ret3
        exact ⟨rfl, Below.refl _ _⟩
      · have h2 : (s.size : Int) ≤ (k : Int) := by omega
        clear hq
        go_enter Tryd.func26, Tryd.ntmps26
        go_wp2
        go_ret3
        exact ⟨rfl, Below.refl _ _⟩

theorem ex1 : txtR [35, 54, 53, 59] 0 = ⟨#[65]⟩ ∧ nxtR [35, 54, 53, 59] 0 = 4 ∧ isRef [35, 54, 53, 59] 0 = true := by decide +kernel
theorem ex2 : txtR [35, 120, 52, 49] 0 = ⟨#[65]⟩ ∧ nxtR [35, 120, 52, 49] 0 = 4 ∧ isRef [35, 120, 52, 49] 0 = true := by decide +kernel
theorem ex3 : isRef [35, 59] 0 = false := by decide +kernel
theorem ex4 : fixS 128 = ⟨#[226, 130, 172]⟩ := by decide +kernel
theorem ex5 : fixS 55296 = ⟨#[239, 191, 189]⟩ := by decide +kernel
theorem ex6 : valI true [49, 48] = 16 := by decide +kernel

theorem readB (s : ByteArray) (a : Int) (w : World) (hs : s.size ≤ 1099511627776) (ha : -9223372036854775808 ≤ a) (hb : a ≤ 9223372036854775807) (hT : TabAt w) :
    Calls Tryd.prog 19 #[.string s, .int .i64 a] w fun e w' => e = .returned (.tuple #[.string (txtR s.data.toList a), .int .i64 (nxtR s.data.toList a), .bool (isRef s.data.toList a)]) ∧ Below w.heap.size w w' := by
  refine (read s a w hs ha hb hT).mono ?_
  rintro e w1 ⟨rfl, n1, rfl⟩
  exact ⟨rfl, below_drewN4 _ _ _⟩

end Go.Proofs.YtdpgdcbclgdjaaaDoor
