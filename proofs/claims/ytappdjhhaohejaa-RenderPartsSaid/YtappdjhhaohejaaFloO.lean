/-
  The document's flow as an object of its own.
-/
import Derived.Test.YtappdjhhaohejaaFloDo
import Derived.Test.YtappdjhhaohejaaObjs
namespace Go.Proofs.Ytappdjhhaohejaa
open Go.RowKit Go.Lib

/-- the document's flow as an object -/
def RefO (g : Nat) (f : FloP) : Own := fun w F => FloIs 54 w g f ∧ ∀ k, F k ↔ k = g
theorem refO_lies (g : Nat) (f : FloP) : Lies (RefO g f) := by
  refine ⟨?_, ?_⟩
  · rintro w F ⟨h, hF⟩ k hk
    rw [(hF k).1 hk]; exact FloAt.lt h
  · rintro w w' F ⟨h, hF⟩ hk
    exact ⟨(hk g ((hF g).2 rfl)).trans h, hF⟩
def aggA (a : ActP) : Value := .agg #[.int .i64 a.kind, .string ⟨a.s.toArray⟩, .bool a.keep, .int .i64 a.n]
theorem refDoM_any (w0 w : World) (g : Nat) (f : FloP) (R : Own) (hR : Lies R) (h : Made w0 w (Sep (RefO g f) R)) (a : ActP) (hs : f.size + a.s.length ≤ 1073741824) (ha : ActOk a) :
    Calls Try.prog 24 #[.pointer (some ⟨g, 0, none⟩), aggA a] w fun e w' => e = .returned (.tuple #[]) ∧ Made w0 w' (Sep (RefO g (actF f a)) R) := by
  refine Made.call h hR fun F hF => ?_
  obtain ⟨h1, h2⟩ := hF
  have hsz : (⟨a.s.toArray⟩ : ByteArray).size = a.s.length := by rw [Lib.size_eq, List.toList_toArray]
  refine (refDo_any g f a.kind ⟨a.s.toArray⟩ a.keep a.n w h1 (by omega) ha).mono ?_
  rintro e w' ⟨rfl, h3, hg⟩
  rw [show (⟨a.s.toArray⟩ : ByteArray).data.toList = a.s by rw [List.toList_toArray]] at h3
  exact ⟨rfl, F, ⟨h3, h2⟩, Moves.of_grown hg ((h2 g).2 rfl)⟩
/-- a flow's block that was just made -/
theorem refO_made {w0 w : World} {R : Own} (h : Made w0 w R) (hR : Lies R) : Made w0 (w.alloc (.cells #[.string ⟨#[]⟩, .int .i64 0, .string ⟨#[]⟩] 54)) (Sep (RefO w.heap.size flo0) R) :=
  h.more hR ((Below.refl w.heap.size w).alloc (Nat.le_refl _) _) (S := RefO w.heap.size flo0) (F := fun k => k = w.heap.size) ⟨heap_alloc_new w _, fun _ => Iff.rfl⟩ (fun k hk => by omega)
theorem refO_told {w0 w : World} {g : Nat} {f : FloP} {R : Own} (h : Made w0 w (Sep (RefO g f) R)) : w.cell? ⟨g, 0, none⟩ = some (.string ⟨f.told.toArray⟩) := by
  obtain ⟨F, hF, -, -⟩ := h.first
  exact (floAt_cells hF.1).1
/-- a block that is only read -/
def CellO (b : Nat) (o : Obj) : Own := fun w F => w.heap[b]? = some o ∧ ∀ k, F k ↔ k = b
theorem cellO_lies (b : Nat) (o : Obj) : Lies (CellO b o) := by
  refine ⟨?_, ?_⟩
  · rintro w F ⟨h, hF⟩ k hk
    rw [(hF k).1 hk]; exact (Array.getElem?_eq_some_iff.1 h).1
  · rintro w w' F ⟨h, hF⟩ hk
    exact ⟨(hk b ((hF b).2 rfl)).trans h, hF⟩
theorem cellO_made {w0 w : World} {R : Own} (h : Made w0 w R) (hR : Lies R) (o : Obj) : Made w0 (w.alloc o) (Sep (CellO w.heap.size o) R) :=
  h.more hR ((Below.refl w.heap.size w).alloc (Nat.le_refl _) _) (S := CellO w.heap.size o) (F := fun k => k = w.heap.size) ⟨heap_alloc_new w _, fun _ => Iff.rfl⟩ (fun k hk => by omega)
theorem cellO_is {w0 w : World} {b : Nat} {o : Obj} {R : Own} (h : Made w0 w (Sep (CellO b o) R)) : w.heap[b]? = some o := by
  obtain ⟨F, hF, -, -⟩ := h.first
  exact hF.1
end Go.Proofs.Ytappdjhhaohejaa
