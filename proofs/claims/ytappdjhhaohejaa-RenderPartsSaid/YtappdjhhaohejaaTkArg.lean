/-
  A slice of tokens that came in reads as a list of tokens.
-/
import Derived.Test.YtappdjhhaohejaaToks
import Derived.Deep.SlicePairs
import Derived.ChangeArms
import Derived.ProofKit
namespace Go.Proofs.Ytappdjhhaohejaa
open Go.ChangeShapes Go.WideShapes Go.ChangeAt Go.RowKit

theorem cellsOfTok : Try.prog.cellsOf 29 = 5 := by kernel_rfl
theorem cellsOfStr : Try.prog.cellsOf 9 = 1 := by kernel_rfl
theorem cellsOfInt : Try.prog.cellsOf 3 = 1 := by kernel_rfl
theorem cellsOfBool : Try.prog.cellsOf 4 = 1 := by kernel_rfl
theorem cellsOfAttrs : Try.prog.cellsOf 27 = 1 := by kernel_rfl
/-- a slice of attributes -/
theorem isRows_arg {H : Type} {enc : TypeId × Value → H} {w : World} {base : Nat} {spare : Nat → Bool} {held : Bool} {fuel : Nat} {v : Value} {x : DataW H × List MemPlace}
    (h : DataW.trod enc Try.prog w base spare held fuel 27 [v] = some x) : ∃ a len cap l, v = .slice a len cap ∧ IsRows w a len cap l := by
  rcases Go.Deep.open_slice_pairs Try.underlying27 Try.underlying33 (by kernel_rfl) rfl rfl (by kernel_rfl) (by kernel_rfl) h with ⟨hcs, _⟩ | ⟨x, l, c, m, n, V0, V1, D0, D1, P0, P1, hcs, _, hl, hm, hmm, _, hx⟩
  · have : v = .slice none 0 0 := by simpa using hcs
    exact ⟨none, 0, 0, [], this, isRows_none _⟩
  · have : v = .slice (some x) l c := by simpa using hcs
    obtain ⟨L, hL⟩ := isRows_mk hl hm fun i hi => by
      have him : i < m := by rw [hmm]; split <;> omega
      obtain ⟨c0, c1, t0, t1⟩ := hx i him
      obtain ⟨s0, e0, _, _⟩ := DataW.trod_string Try.underlying9 t0
      obtain ⟨s1, e1, _, _⟩ := DataW.trod_string Try.underlying9 t1
      rw [List.cons.injEq] at e0 e1
      rw [e0.1] at c0
      rw [e1.1] at c1
      exact ⟨s0, s1, c0, c1⟩
    exact ⟨some x, l, c, L, this, hL⟩
theorem list5 {α : Type} (l : List α) (h : l.length = 5) : ∃ a b c d e, l = [a, b, c, d, e] := by
  match l, h with
  | [a, b, c, d, e], _ => exact ⟨a, b, c, d, e, rfl⟩
theorem struct5 {H : Type} {enc : TypeId × Value → H} {P : Program} {w : World} {base : Nat} {spare : Nat → Bool} {held : Bool} {n : Nat} {e : TypeId} {f0 f1 f2 f3 f4 : Field} {v0 v1 v2 v3 v4 : Value} {z : DataW H × List MemPlace} (he : P.underlying e = some (.struct #[f0, f1, f2, f3, f4]))
    (o0 : f0.offset = 0) (o1 : f1.offset = 1) (o2 : f2.offset = 2) (o3 : f3.offset = 3) (o4 : f4.offset = 4) (c0 : P.cellsOf f0.type = 1) (c1 : P.cellsOf f1.type = 1) (c2 : P.cellsOf f2.type = 1) (c3 : P.cellsOf f3.type = 1) (c4 : P.cellsOf f4.type = 1)
    (h : DataW.trod enc P w base spare held n e [v0, v1, v2, v3, v4] = some z) :
    ∃ k y0 y1 y2 y3 y4, DataW.trod enc P w base spare held k f0.type [v0] = some y0 ∧ DataW.trod enc P w base spare held k f1.type [v1] = some y1 ∧ DataW.trod enc P w base spare held k f2.type [v2] = some y2 ∧ DataW.trod enc P w base spare held k f3.type [v3] = some y3 ∧ DataW.trod enc P w base spare held k f4.type [v4] = some y4 := by
  obtain ⟨xs, k, hk, hxy, _, hxl, hf⟩ := DataW.trod_struct he h
  obtain ⟨y0, y1, y2, y3, y4, rfl⟩ := list5 xs hxl
  have g0 := hf 0 f0 rfl
  have g1 := hf 1 f1 rfl
  have g2 := hf 2 f2 rfl
  have g3 := hf 3 f3 rfl
  have g4 := hf 4 f4 rfl
  simp [o0, o1, o2, o3, o4, c0, c1, c2, c3, c4] at g0 g1 g2 g3 g4
  exact ⟨k, y0, y1, y2, y3, y4, g0, g1, g2, g3, g4⟩
theorem isToks_arg {H : Type} {enc : TypeId × Value → H} {w : World} {base : Nat} {spare : Nat → Bool} {held : Bool} {fuel : Nat} {a : Option Addr} {len cap : Nat} {cs : List Value} {x : DataW H × List MemPlace} (hc : cs = [.slice a len cap])
    (h : DataW.trod enc Try.prog w base spare held fuel 22 cs = some x) : ∃ L, IsToks w a len cap L := by
  rcases Go.Deep.open_slice Try.underlying22 h with ⟨hcs, _⟩ | ⟨y, l, c, m, n, D, Pl, hcs, _, hl, hm, hmm, _, hx⟩
  · rw [hcs] at hc
    simp only [List.cons.injEq, Value.slice.injEq, and_true] at hc
    obtain ⟨rfl, rfl, rfl⟩ := hc
    exact ⟨[], isToks_none _⟩
  · rw [hcs] at hc
    simp only [List.cons.injEq, Value.slice.injEq, and_true] at hc
    obtain ⟨rfl, rfl, rfl⟩ := hc
    have each : ∀ i, ∃ q : TkV, i < l → TokCells w y i q ∧ IsRows w q.ad q.len q.cap q.t.attrs := by
      intro i
      by_cases hi : i < l
      · have him : i < m := by rw [hmm]; split <;> omega
        obtain ⟨cs', h1, h2⟩ := hx i him
        rw [cellsOfTok] at h1
        obtain ⟨_, hlen, hcell⟩ := World.cells?_some h1
        obtain ⟨v0, v1, v2, v3, v4, rfl⟩ := list5 cs' hlen
        obtain ⟨k, y0, y1, y2, y3, y4, g0, g1, g2, g3, g4⟩ := struct5 Try.underlying29 rfl rfl rfl rfl rfl cellsOfInt cellsOfStr cellsOfStr cellsOfAttrs cellsOfBool h2
        have e0 := hcell 0 (by omega)
        have e1 := hcell 1 (by omega)
        have e2 := hcell 2 (by omega)
        have e3 := hcell 3 (by omega)
        have e4 := hcell 4 (by omega)
        rw [Go.Deep.add_add] at e0 e1 e2 e3 e4
        obtain ⟨k0, q0, -, -⟩ := DataW.trod_int Try.underlying3 g0
        obtain ⟨s1, q1, -, -⟩ := DataW.trod_string Try.underlying9 g1
        obtain ⟨s2, q2, -, -⟩ := DataW.trod_string Try.underlying9 g2
        obtain ⟨ad, ln, cp, l3, q3, hr⟩ := isRows_arg g3
        obtain ⟨b4, q4, -⟩ := DataW.trod_bool Try.underlying4 g4
        rw [List.cons.injEq] at q0 q1 q2 q4
        obtain ⟨rfl, -⟩ := q0
        obtain ⟨rfl, -⟩ := q1
        obtain ⟨rfl, -⟩ := q2
        obtain ⟨rfl, -⟩ := q4
        subst q3
        exact ⟨⟨⟨k0, s1.data.toList, s2.data.toList, l3, b4⟩, ad, ln, cp⟩, fun _ => ⟨⟨by simpa using e0, by simpa using e1, by simpa using e2, by simpa using e3, by simpa using e4⟩, hr⟩⟩
      · exact ⟨⟨zeroT, none, 0, 0⟩, fun h => absurd h hi⟩
    obtain ⟨f, hf⟩ : ∃ f : Nat → TkV, ∀ i, i < l → TokCells w y i (f i) ∧ IsRows w (f i).ad (f i).len (f i).cap (f i).t.attrs := ⟨fun i => Classical.choose (each i), fun i => Classical.choose_spec (each i)⟩
    refine ⟨(List.range l).map fun i => (f i).t, by simp, hl, hm, fun i hi => ?_⟩
    have hi' : i < l := by simpa using hi
    obtain ⟨h1, h2⟩ := hf i hi'
    rw [List.getElem_map, List.getElem_range]
    exact ⟨y, (f i).ad, (f i).len, (f i).cap, rfl, h1, h2⟩
end Go.Proofs.Ytappdjhhaohejaa
