/-
  What the document's Read of layer 9 answers.
-/
import Derived.Test.YtdgebenkhcaijaaDoorTagRef
namespace Go.Proofs.YtdgebenkhcaijaaDoor
open Go.RowKit Go.Lib

theorem name_yes (s : ByteArray) (i : Nat) (h : i < s.size) (N : ByteArray) (nm : Txt) (hp : tagB s[i] = true) (hN : N.data.toList ++ (s.data.toList.drop i).takeWhile tagB = nm) : (N ++ s.extract i (i + 1)).data.toList ++ (s.data.toList.drop (i + 1)).takeWhile tagB = nm := by
  rw [drop_at s i h, tw_yes hp] at hN
  rw [ByteArray.data_append, Array.toList_append, extract_one s i h, List.append_assoc]; exact hN
theorem name_no (s : ByteArray) (i : Nat) (h : i < s.size) (N : ByteArray) (nm : Txt) (hp : tagB s[i] = false) (hN : N.data.toList ++ (s.data.toList.drop i).takeWhile tagB = nm) : N.data.toList = nm := by
  rw [drop_at s i h, tw_no hp, List.append_nil] at hN; exact hN
theorem name_end (s : ByteArray) (N : ByteArray) (nm : Txt) (hN : N.data.toList ++ (s.data.toList.drop s.size).takeWhile tagB = nm) : N.data.toList = nm := by
  rw [List.drop_eq_nil_of_le (by rw [← Lib.size_eq]; exact Nat.le_refl _), List.takeWhile_nil, List.append_nil] at hN; exact hN
/-- what follows of what stands behind the name -/
theorem read_rest (s : Txt) (k i : Nat) (hb : begT (s.drop k) ≠ 0) (hi : i = k + begT (s.drop k) + (tgN (s.drop k)).length) (hl : i ≤ s.length) :
    (attrsV s (i : Int) = ([], false, (s.length : Int), false) ∧ tagV s (k : Int) = (zeroT, (s.length : Int), false)) ∨
    ∃ (al : List Ln) (self : Bool) (m : Nat), attrsV s (i : Int) = (al, self, (m : Int), true) ∧ tagV s (k : Int) = (tokT (begT (s.drop k)) (tgN (s.drop k)) al self, (m : Int), true) := by
  have hd : (s.drop k).drop (begT (s.drop k) + (tgN (s.drop k)).length) = s.drop i := by rw [List.drop_drop, hi, Nat.add_assoc]
  cases hr : runA (.s0 []) (s.drop i) with
  | none =>
    refine .inl ⟨attrs_none s i hl (by unfold runI; rw [hr]; rfl), tag_none s k hb ?_⟩
    unfold tagR; rw [hd, hr]; rfl
  | some r =>
    obtain ⟨al, self, m⟩ := r
    refine .inr ⟨al, self, m + i, ?_, ?_⟩
    · exact attrs_some s i hl al self (m + i) (by unfold runI; rw [hr]; rfl)
    · rw [tag_some s k hb (tokT (begT (s.drop k)) (tgN (s.drop k)) al self) (begT (s.drop k) + (tgN (s.drop k)).length + m) (by unfold tagR; rw [hd, hr]; rfl)]
      rw [show k + (begT (s.drop k) + (tgN (s.drop k)).length + m) = m + i by omega]
/-- a block of five cells that is written anew -/
theorem tok_put (w : World) (g : Nat) (c0 c1 c2 c3 c4 : Value) (T : TypeId) (hg : w.heap[g]? = some (.cells #[c0, c1, c2, c3, c4] T (0, 0))) (t : TokP) (a : Option Addr) (len cap : Nat) :
    TokAt (((((w.setCell ⟨g, 0, none⟩ (.int .i64 t.kind)).setCell ⟨g, 1, none⟩ (.string ⟨t.name.toArray⟩)).setCell ⟨g, 2, none⟩ (.string ⟨t.text.toArray⟩)).setCell ⟨g, 3, none⟩ (.slice a len cap)).setCell ⟨g, 4, none⟩ (.bool t.self)) g t a len cap := by
  have h0 := Go.heap_setCell_same w g 0 _ T (.int .i64 t.kind) hg
  have h1 := Go.heap_setCell_same _ g 1 _ T (.string ⟨t.name.toArray⟩) h0
  have h2 := Go.heap_setCell_same _ g 2 _ T (.string ⟨t.text.toArray⟩) h1
  have h3 := Go.heap_setCell_same _ g 3 _ T (.slice a len cap) h2
  have h4 := Go.heap_setCell_same _ g 4 _ T (.bool t.self) h3
  refine ⟨?_, ?_, ?_, ?_, ?_⟩ <;> (rw [cell_of_row _ _ _ _ _ _ h4]; rfl)
theorem isRows_set {w : World} {ad : Option Addr} {len cap : Nat} {l : List Ln} (h : IsRows w ad len cap l) (g j : Nat) (hne : ∀ k, (Value.slice ad len cap).ownBlock = some k → k ≠ g) (v : Value) : IsRows (w.setCell ⟨g, j, none⟩ v) ad len cap l := by
  refine ⟨h.1, h.2.1, h.2.2.1, fun i hi => ?_⟩
  obtain ⟨x, rfl, h1, h2⟩ := h.2.2.2 i hi
  have hx : x.block ≠ g := hne x.block rfl
  have hc : ∀ n, (w.setCell ⟨g, j, none⟩ v).cell? (x.add n) = w.cell? (x.add n) := fun n =>
    World.cell?_of_block (Below.heap_setCell w ⟨g, j, none⟩ v _ (by rw [show (x.add n).block = x.block by unfold Addr.add; split <;> rfl]; exact hx))
  exact ⟨x, rfl, by rw [hc]; exact h1, by rw [hc]; exact h2⟩
theorem isRows_put5 {w : World} {ad : Option Addr} {len cap : Nat} {l : List Ln} (h : IsRows w ad len cap l) (g : Nat) (hne : ∀ k, (Value.slice ad len cap).ownBlock = some k → k ≠ g) (v0 v1 v2 v3 v4 : Value) :
    IsRows (((((w.setCell ⟨g, 0, none⟩ v0).setCell ⟨g, 1, none⟩ v1).setCell ⟨g, 2, none⟩ v2).setCell ⟨g, 3, none⟩ v3).setCell ⟨g, 4, none⟩ v4) ad len cap l :=
  isRows_set (isRows_set (isRows_set (isRows_set (isRows_set h g 0 hne v0) g 1 hne v1) g 2 hne v2) g 3 hne v3) g 4 hne v4
theorem below_put {B : Nat} {w w' : World} (h : Below B w w') (g : Nat) (hg : B ≤ g) (v0 v1 v2 v3 v4 : Value) :
    Below B w (((((w'.setCell ⟨g, 0, none⟩ v0).setCell ⟨g, 1, none⟩ v1).setCell ⟨g, 2, none⟩ v2).setCell ⟨g, 3, none⟩ v3).setCell ⟨g, 4, none⟩ v4) :=
  ((((h.setCell (p := ⟨g, 0, none⟩) hg v0).setCell (p := ⟨g, 1, none⟩) hg v1).setCell (p := ⟨g, 2, none⟩) hg v2).setCell (p := ⟨g, 3, none⟩) hg v3).setCell (p := ⟨g, 4, none⟩) hg v4

end Go.Proofs.YtdgebenkhcaijaaDoor
