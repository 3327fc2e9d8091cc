/-
  What the document's Few of layer 18 tells of things that are done.
-/
import Derived.Test.YtddikahfenjnaaaFloActs
import Derived.Test.YtddikahfenjnaaaFloRef
namespace Go.Proofs.Ytddikahfenjnaaa
open Go.RowKit Go.Lib

set_option maxRecDepth 100000 in
set_option maxHeartbeats 4000000 in
theorem refFew18_any (a : Option Addr) (len cap : Nat) (L : List ActP) (w : World) (hL : IsActs w a len cap L) :
    Calls Try.prog 10 #[.slice a len cap] w fun e w' => (∃ b, e = .returned (.bool b) ∧ (b = true → len ≤ 60 ∧ ∀ t ∈ L, t.s.length ≤ 100)) ∧ Below w.heap.size w w' := by
  have hll := hL.1
  have HL := Lib.hid hL
  have hm := hL.2.2.1
  have hlc := hL.2.1
  unfold maxLen at hm
  clear hL
  by_cases h60 : 60 < len
  · go_enter Try.func10, Try.ntmps10
    go_wp2
    go_ret
    exact ⟨⟨false, rfl, fun h => by cases h⟩, Below.refl _ _⟩
  · have d0 : decide ((60 : Int) < (len : Int)) = false := decide_eq_false (by omega)
    go_enter Try.func10, Try.ntmps10
    go_wp2
    clear d0
    go_loopw [3] (fun v wr => ∃ i : Nat, v = .int .i64 (i : Int) ∧ w = wr ∧ i ≤ len ∧ Hid (∀ j (h : j < L.length), j < i → L[j].s.length ≤ 100)) (fun v _ => len - (intOf v).toNat)
    case atStart => exact ⟨0, rfl, rfl, Nat.zero_le _, Lib.hid fun j _ h => absurd h (by omega)⟩
    case round =>
      obtain ⟨i, rfl, rfl, hi, HI⟩ := hrel
      by_cases hlt : i < len
      · obtain ⟨x, rfl, xc, -⟩ := HL.out.2.2.2 i (by omega)
        obtain ⟨x0, x1, x2, x3⟩ := xc.asked
        have hiL : i < L.length := by omega
        have hXl : (⟨(L[i]'hiL).s.toArray⟩ : ByteArray).size = (L[i]'hiL).s.length := by rw [Lib.size_eq, List.toList_toArray]
        have HXl := Lib.hid hXl
        obtain ⟨X, hX⟩ : ∃ X : ByteArray, (⟨(L[i]'hiL).s.toArray⟩ : ByteArray) = X := ⟨_, rfl⟩
        have HX := Lib.hid hX
        rw [hX] at x1
        clear hXl hX xc x0 x2 x3
        by_cases c2 : 100 < X.size
        · have b2 : decide ((100 : Int) < (X.size : Int)) = true := decide_eq_true (by omega)
          go_wp2
          go_ret
          exact ⟨⟨false, rfl, fun h => by cases h⟩, Below.refl _ _⟩
        have b2 : decide ((100 : Int) < (X.size : Int)) = false := decide_eq_false (by omega)
        have HN := Lib.hid (show ∀ j (h : j < L.length), j < i + 1 → L[j].s.length ≤ 100 from fun j h hj => by
          rcases Nat.lt_or_eq_of_le (Nat.le_of_lt_succ hj) with h1 | rfl
          · exact HI.out j h h1
          · have := HXl.out
            rw [HX.out] at this
            omega)
        go_wp2
        go_roundw
        case rel => exact ⟨i + 1, by go_num, trivial, by omega, HN⟩
        case measure => simp [intOf]; omega
      · go_wp2
        go_ret
        refine ⟨⟨true, rfl, fun _ => ⟨by omega, fun t ht => ?_⟩⟩, Below.refl _ _⟩
        obtain ⟨j, hj, rfl⟩ := List.getElem_of_mem ht
        exact HI.out j hj (by omega)
end Go.Proofs.Ytddikahfenjnaaa
