/-
  What the document's Few and Texts of layer 15 tell of a list of tokens.
-/
import Derived.Test.YtappdjhhaohejaaToks
namespace Go.Proofs.Ytappdjhhaohejaa
open Go.RowKit Go.Lib

/-- just a text, if it is one -/
def JustT (t : TokP) : Prop := t.kind = 0 → t.name = [] ∧ t.attrs = [] ∧ t.self = false
theorem str_none (X : Txt) (h : (⟨X.toArray⟩ : ByteArray).size = 0) : X = [] := by
  rw [Lib.size_eq, List.toList_toArray] at h
  exact List.eq_nil_of_length_eq_zero h

set_option maxRecDepth 100000 in
set_option maxHeartbeats 4000000 in
theorem refFew15_any (a : Option Addr) (len cap : Nat) (L : List TokP) (w : World) (hL : IsToks w a len cap L) :
    Calls Try.prog 10 #[.slice a len cap] w fun e w' => (∃ b, e = .returned (.bool b) ∧ (b = true → len ≤ 60 ∧ ∀ t ∈ L, t.text.length ≤ 200)) ∧ Below w.heap.size w w' := by
  have hll := hL.1
  have HL := Lib.hid hL
  have hm := hL.2.2.1
  have hlc := hL.2.1
  unfold maxLen at hm
  clear hL
  by_cases h60 : 60 < len
  · go_enter Try.func10, Try.ntmps10
    go_wp2
    go_ret
    exact ⟨⟨false, rfl, fun h => by cases h⟩, Below.refl _ _⟩
  · have d0 : decide ((60 : Int) < (len : Int)) = false := decide_eq_false (by omega)
    go_enter Try.func10, Try.ntmps10
    go_wp2
    clear d0
    go_loopw [3] (fun v wr => ∃ i : Nat, v = .int .i64 (i : Int) ∧ w = wr ∧ i ≤ len ∧ Hid (∀ j (h : j < L.length), j < i → L[j].text.length ≤ 200)) (fun v _ => len - (intOf v).toNat)
    case atStart => exact ⟨0, rfl, rfl, Nat.zero_le _, Lib.hid fun j _ h => absurd h (by omega)⟩
    case round =>
      obtain ⟨i, rfl, rfl, hi, HI⟩ := hrel
      by_cases hlt : i < len
      · obtain ⟨x, ad, ln, cp, rfl, xc, xr⟩ := HL.out.2.2.2 i (by omega)
        obtain ⟨x0, x1, x2, x3, x4⟩ := xc.asked
        simp only at x0 x1 x2 x3 x4
        have hiL : i < L.length := by omega
        have hXl : (⟨(L[i]'hiL).text.toArray⟩ : ByteArray).size = (L[i]'hiL).text.length := by rw [Lib.size_eq, List.toList_toArray]
        have HXl := Lib.hid hXl
        generalize (⟨(L[i]'hiL).name.toArray⟩ : ByteArray) = N at x1
        obtain ⟨X, hX⟩ : ∃ X : ByteArray, (⟨(L[i]'hiL).text.toArray⟩ : ByteArray) = X := ⟨_, rfl⟩
        have HX := Lib.hid hX
        rw [hX] at x2
        clear hXl hX xc xr
        by_cases c1 : 60 < N.size
        · have b1 : decide ((60 : Int) < (N.size : Int)) = true := decide_eq_true (by omega)
          go_wp2
          go_ret
          exact ⟨⟨false, rfl, fun h => by cases h⟩, Below.refl _ _⟩
        have b1 : decide ((60 : Int) < (N.size : Int)) = false := decide_eq_false (by omega)
        by_cases c2 : 200 < X.size
        · have b2 : decide ((200 : Int) < (X.size : Int)) = true := decide_eq_true (by omega)
          go_wp2
          go_ret
          exact ⟨⟨false, rfl, fun h => by cases h⟩, Below.refl _ _⟩
        have b2 : decide ((200 : Int) < (X.size : Int)) = false := decide_eq_false (by omega)
        by_cases c3 : 10 < ln
        · have b3 : decide ((10 : Int) < (ln : Int)) = true := decide_eq_true (by omega)
          go_wp2
          go_ret
          exact ⟨⟨false, rfl, fun h => by cases h⟩, Below.refl _ _⟩
        have b3 : decide ((10 : Int) < (ln : Int)) = false := decide_eq_false (by omega)
        have HN := Lib.hid (show ∀ j (h : j < L.length), j < i + 1 → L[j].text.length ≤ 200 from fun j h hj => by
          rcases Nat.lt_or_eq_of_le (Nat.le_of_lt_succ hj) with h1 | rfl
          · exact HI.out j h h1
          · have := HXl.out
            rw [HX.out] at this
            omega)
        go_wp2
        go_roundw
        case rel => exact ⟨i + 1, by go_num, trivial, by omega, HN⟩
        case measure => simp [intOf]; omega
      · go_wp2
        go_ret
        refine ⟨⟨true, rfl, fun _ => ⟨by omega, fun t ht => ?_⟩⟩, Below.refl _ _⟩
        obtain ⟨j, hj, rfl⟩ := List.getElem_of_mem ht
        exact HI.out j hj (by omega)

end Go.Proofs.Ytappdjhhaohejaa
