/-
  A slice of things that are done (layer 18), as it came in, reads as a list of them.
-/
import Derived.Test.YtddikahfenjnaaaProg
import Derived.KernelRfl
import Derived.Test.YtddikahfenjnaaaFloMath
import Derived.Deep.SlicePairs
import Derived.ChangeArms
import Derived.ProofKit
namespace Go.Proofs.Ytddikahfenjnaaa
open Go.ChangeShapes Go.WideShapes Go.ChangeAt Go.RowKit

/-- the four cells of thing i behind an address -/
structure ActCells (w : World) (x : Addr) (i : Nat) (a : ActP) : Prop where
  c0 : w.cell? (x.add (i * 4)) = some (.int .i64 a.kind)
  c1 : w.cell? (x.add (i * 4 + 1)) = some (.string ⟨a.s.toArray⟩)
  c2 : w.cell? (x.add (i * 4 + 2)) = some (.bool a.keep)
  c3 : w.cell? (x.add (i * 4 + 3)) = some (.int .i64 a.n)
theorem ActCells.below {w w' : World} {B : Nat} {x : Addr} {i : Nat} {a : ActP} (h : ActCells w x i a) (hb : Below B w w') (hB : w.heap.size ≤ B) : ActCells w' x i a := by
  have k : ∀ {a v}, w.cell? a = some v → w'.cell? a = some v := fun {a v} ha => (hb.cell (by have := block_lt_of_cell ha; omega)).trans ha
  exact ⟨k h.c0, k h.c1, k h.c2, k h.c3⟩
theorem add_moreA (x : Addr) (n k : Nat) : x.add (n + (k + 1)) = ⟨(x.add n).block, (x.add n).off + (k + 1), none⟩ := by
  unfold Addr.add
  by_cases h : n = 0
  · subst h; simp
  · rw [if_neg h, if_neg (by omega)]; simp; omega
/-- as the walk asks them -/
theorem ActCells.asked {w : World} {x : Addr} {i : Nat} {a : ActP} (h : ActCells w x i a) :
    w.cell? (x.add (i * 4)) = some (.int .i64 a.kind) ∧ w.cell? ⟨(x.add (i * 4)).block, (x.add (i * 4)).off + 1, none⟩ = some (.string ⟨a.s.toArray⟩) ∧ w.cell? ⟨(x.add (i * 4)).block, (x.add (i * 4)).off + 2, none⟩ = some (.bool a.keep) ∧
    w.cell? ⟨(x.add (i * 4)).block, (x.add (i * 4)).off + 3, none⟩ = some (.int .i64 a.n) :=
  ⟨h.c0, by rw [← add_moreA x _ 0]; exact h.c1, by rw [← add_moreA x _ 1]; exact h.c2, by rw [← add_moreA x _ 2]; exact h.c3⟩
/-- a slice that reads as a list of things that are done -/
def IsActs (w : World) (a : Option Addr) (len cap : Nat) (L : List ActP) : Prop :=
  L.length = len ∧ len ≤ cap ∧ cap ≤ maxLen ∧ ∀ i (h : i < L.length), ∃ x, a = some x ∧ ActCells w x i L[i] ∧ ActOk L[i]
theorem IsActs.below {w w' : World} {B : Nat} {a : Option Addr} {len cap : Nat} {L : List ActP} (h : IsActs w a len cap L) (hb : Below B w w') (hB : w.heap.size ≤ B) : IsActs w' a len cap L := by
  refine ⟨h.1, h.2.1, h.2.2.1, fun i hi => ?_⟩
  obtain ⟨x, hx, h1, h2⟩ := h.2.2.2 i hi
  exact ⟨x, hx, h1.below hb hB, h2⟩
theorem isActs_none (w : World) : IsActs w none 0 0 [] := ⟨rfl, Nat.le_refl _, by simp [maxLen], fun i h => by cases h⟩

theorem cellsOfAct : Try.prog.cellsOf 32 = 4 := by kernel_rfl
theorem cellsOfStrA : Try.prog.cellsOf 9 = 1 := by kernel_rfl
theorem cellsOfIntA : Try.prog.cellsOf 3 = 1 := by kernel_rfl
theorem cellsOfBoolA : Try.prog.cellsOf 4 = 1 := by kernel_rfl
theorem list4 {α : Type} (l : List α) (h : l.length = 4) : ∃ a b c d, l = [a, b, c, d] := by
  match l, h with
  | [a, b, c, d], _ => exact ⟨a, b, c, d, rfl⟩
theorem struct4 {H : Type} {enc : TypeId × Value → H} {P : Program} {w : World} {base : Nat} {spare : Nat → Bool} {held : Bool} {n : Nat} {e : TypeId} {f0 f1 f2 f3 : Field} {v0 v1 v2 v3 : Value} {z : DataW H × List MemPlace} (he : P.underlying e = some (.struct #[f0, f1, f2, f3]))
    (o0 : f0.offset = 0) (o1 : f1.offset = 1) (o2 : f2.offset = 2) (o3 : f3.offset = 3) (c0 : P.cellsOf f0.type = 1) (c1 : P.cellsOf f1.type = 1) (c2 : P.cellsOf f2.type = 1) (c3 : P.cellsOf f3.type = 1)
    (h : DataW.trod enc P w base spare held n e [v0, v1, v2, v3] = some z) :
    ∃ k y0 y1 y2 y3, DataW.trod enc P w base spare held k f0.type [v0] = some y0 ∧ DataW.trod enc P w base spare held k f1.type [v1] = some y1 ∧ DataW.trod enc P w base spare held k f2.type [v2] = some y2 ∧ DataW.trod enc P w base spare held k f3.type [v3] = some y3 := by
  obtain ⟨xs, k, hk, hxy, _, hxl, hf⟩ := DataW.trod_struct he h
  obtain ⟨y0, y1, y2, y3, rfl⟩ := list4 xs hxl
  have g0 := hf 0 f0 rfl
  have g1 := hf 1 f1 rfl
  have g2 := hf 2 f2 rfl
  have g3 := hf 3 f3 rfl
  simp [o0, o1, o2, o3, c0, c1, c2, c3] at g0 g1 g2 g3
  exact ⟨k, y0, y1, y2, y3, g0, g1, g2, g3⟩
theorem isActs_arg {H : Type} {enc : TypeId × Value → H} {w : World} {base : Nat} {spare : Nat → Bool} {held : Bool} {fuel : Nat} {a : Option Addr} {len cap : Nat} {cs : List Value} {x : DataW H × List MemPlace} (hc : cs = [.slice a len cap])
    (h : DataW.trod enc Try.prog w base spare held fuel 22 cs = some x) : ∃ L, IsActs w a len cap L := by
  rcases Go.Deep.open_slice Try.underlying22 h with ⟨hcs, _⟩ | ⟨y, l, c, m, n, D, Pl, hcs, _, hl, hm, hmm, _, hx⟩
  · rw [hcs] at hc
    simp only [List.cons.injEq, Value.slice.injEq, and_true] at hc
    obtain ⟨rfl, rfl, rfl⟩ := hc
    exact ⟨[], isActs_none _⟩
  · rw [hcs] at hc
    simp only [List.cons.injEq, Value.slice.injEq, and_true] at hc
    obtain ⟨rfl, rfl, rfl⟩ := hc
    have each : ∀ i, ∃ q : ActP, i < l → ActCells w y i q ∧ ActOk q := by
      intro i
      by_cases hi : i < l
      · have him : i < m := by rw [hmm]; split <;> omega
        obtain ⟨cs', h1, h2⟩ := hx i him
        rw [cellsOfAct] at h1
        obtain ⟨_, hlen, hcell⟩ := World.cells?_some h1
        obtain ⟨v0, v1, v2, v3, rfl⟩ := list4 cs' hlen
        obtain ⟨k, y0, y1, y2, y3, g0, g1, g2, g3⟩ := struct4 Try.underlying32 rfl rfl rfl rfl cellsOfIntA cellsOfStrA cellsOfBoolA cellsOfIntA h2
        have e0 := hcell 0 (by omega)
        have e1 := hcell 1 (by omega)
        have e2 := hcell 2 (by omega)
        have e3 := hcell 3 (by omega)
        rw [Go.Deep.add_add] at e0 e1 e2 e3
        obtain ⟨k0, q0, -, -⟩ := DataW.trod_int Try.underlying3 g0
        obtain ⟨s1, q1, -, -⟩ := DataW.trod_string Try.underlying9 g1
        obtain ⟨b2, q2, -⟩ := DataW.trod_bool Try.underlying4 g2
        obtain ⟨k3, q3, -, hw3⟩ := DataW.trod_int Try.underlying3 g3
        rw [List.cons.injEq] at q0 q1 q2 q3
        obtain ⟨rfl, -⟩ := q0
        obtain ⟨rfl, -⟩ := q1
        obtain ⟨rfl, -⟩ := q2
        obtain ⟨rfl, -⟩ := q3
        exact ⟨⟨k0, s1.data.toList, b2, k3⟩, fun _ => ⟨⟨by simpa using e0, by simpa using e1, by simpa using e2, by simpa using e3⟩, by simpa [ActOk, Lit.wf, IntKind.min, IntKind.max, IntKind.signed, IntKind.bits] using hw3⟩⟩
      · exact ⟨⟨0, [], false, 0⟩, fun h => absurd h hi⟩
    obtain ⟨f, hf⟩ : ∃ f : Nat → ActP, ∀ i, i < l → ActCells w y i (f i) ∧ ActOk (f i) := ⟨fun i => Classical.choose (each i), fun i => Classical.choose_spec (each i)⟩
    refine ⟨(List.range l).map fun i => f i, by simp, hl, hm, fun i hi => ?_⟩
    have hi' : i < l := by simpa using hi
    rw [List.getElem_map, List.getElem_range]
    exact ⟨y, rfl, hf i hi'⟩
end Go.Proofs.Ytddikahfenjnaaa
