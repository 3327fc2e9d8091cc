/-
  Texts laid together: TagRef, TagRefB, ComRef, ComRefB.
-/
import Derived.Test.YtbcmfcddkegcoaaGreatDoorQA
import Derived.Test.YtbcmfcddkegcoaaGreatDoorP7
import Derived.Test.YtbcmfcddkegcoaaGreatDoorP1
import Derived.Test.YtbcmfcddkegcoaaGreatDoorP4
/-! What the document's answers of layer 9 are. -/
namespace Go.Proofs.YtbcmfcddkegcoaaGreatDoor
open Go.RowKit Go.Lib

theorem beg_a (t : Txt) (h : t.head? ≠ some 60) : begT t = 0 := by unfold begT; rw [if_neg h]
theorem beg_b (t : Txt) (h : t.length = 1) : begT t = 0 := by
  match t, h with
  | [c], _ => unfold begT; simp
theorem beg_e (c d : UInt8) : begT [c, d] = if c = 60 ∧ d ≠ 47 ∧ letB d = true then 1 else 0 := by
  unfold begT
  by_cases h : c = 60
  · subst h
    by_cases h1 : d = 47
    · subst h1; simp
    · simp [h1]
  · simp [h]

end Go.Proofs.YtbcmfcddkegcoaaGreatDoor

/-! What the document's Read of layer 9 answers. -/
namespace Go.Proofs.YtbcmfcddkegcoaaGreatDoor
open Go.RowKit Go.Lib

/-- what follows of what stands behind the name -/
theorem read_rest (s : Txt) (k i : Nat) (hb : begT (s.drop k) ≠ 0) (hi : i = k + begT (s.drop k) + (tgN (s.drop k)).length) (hl : i ≤ s.length) :
    (attrsV s (i : Int) = ([], false, (s.length : Int), false) ∧ tagV s (k : Int) = (zeroT, (s.length : Int), false)) ∨
    ∃ (al : List Ln) (self : Bool) (m : Nat), attrsV s (i : Int) = (al, self, (m : Int), true) ∧ tagV s (k : Int) = (tokT (begT (s.drop k)) (tgN (s.drop k)) al self, (m : Int), true) := by
  have hd : (s.drop k).drop (begT (s.drop k) + (tgN (s.drop k)).length) = s.drop i := by rw [List.drop_drop, hi, Nat.add_assoc]
  cases hr : runA (.s0 []) (s.drop i) with
  | none =>
    refine .inl ⟨attrs_none s i hl (by unfold runI; rw [hr]; rfl), tag_none s k hb ?_⟩
    unfold tagR; rw [hd, hr]; rfl
  | some r =>
    obtain ⟨al, self, m⟩ := r
    refine .inr ⟨al, self, m + i, ?_, ?_⟩
    · exact attrs_some s i hl al self (m + i) (by unfold runI; rw [hr]; rfl)
    · rw [tag_some s k hb (tokT (begT (s.drop k)) (tgN (s.drop k)) al self) (begT (s.drop k) + (tgN (s.drop k)).length + m) (by unfold tagR; rw [hd, hr]; rfl)]
      rw [show k + (begT (s.drop k) + (tgN (s.drop k)).length + m) = m + i by omega]
theorem isRows_set {w : World} {ad : Option Addr} {len cap : Nat} {l : List Ln} (h : IsRows w ad len cap l) (g j : Nat) (hne : ∀ k, (Value.slice ad len cap).ownBlock = some k → k ≠ g) (v : Value) : IsRows (w.setCell ⟨g, j, none⟩ v) ad len cap l := by
  refine ⟨h.1, h.2.1, h.2.2.1, fun i hi => ?_⟩
  obtain ⟨x, rfl, h1, h2⟩ := h.2.2.2 i hi
  have hx : x.block ≠ g := hne x.block rfl
  have hc : ∀ n, (w.setCell ⟨g, j, none⟩ v).cell? (x.add n) = w.cell? (x.add n) := fun n =>
    World.cell?_of_block (Below.heap_setCell w ⟨g, j, none⟩ v _ (by rw [show (x.add n).block = x.block by unfold Addr.add; split <;> rfl]; exact hx))
  exact ⟨x, rfl, by rw [hc]; exact h1, by rw [hc]; exact h2⟩
end Go.Proofs.YtbcmfcddkegcoaaGreatDoor

/-! What the document's answers of layer 10 are. -/
namespace Go.Proofs.YtbcmfcddkegcoaaGreatDoor
open Go.RowKit Go.Lib

theorem begC_two (c d : UInt8) (t : Txt) : begC (c :: d :: t) = (c == 60 && (if d = 33 then !(dtL.isPrefixOf (lowL t)) else if d = 63 then true else if d = 47 then t.head?.any (fun e => !(e == 62) && !(letterI (e.toNat : Int))) else false)) := by
  by_cases hc : c = 60
  · subst hc
    by_cases h1 : d = 33
    · subst h1; rfl
    · by_cases h2 : d = 63
      · subst h2; rfl
      · by_cases h3 : d = 47
        · subst h3
          cases t with
          | nil => rfl
          | cons e t => rfl
        · rw [if_neg h1, if_neg h2, if_neg h3, Bool.and_false]
          unfold begC
          split <;> simp_all
  · rw [show (c == 60) = false from beq_eq_false_iff_ne.2 hc, Bool.false_and]
    unfold begC
    split <;> simp_all
theorem begC_short (t : Txt) (h : t.length < 2) : begC t = false := by
  match t, h with
  | [], _ => rfl
  | [c], _ =>
    unfold begC
    split <;> simp_all
theorem scan_hit (l : Txt) : ([45, 45, 62].isPrefixOf l = true → scanC l = some ([], 3)) ∧ ([45, 45, 62].isPrefixOf l = false → [45, 45, 33, 62].isPrefixOf l = true → scanC l = some ([], 4)) := by
  cases l with
  | nil => exact ⟨fun h => by simp [List.isPrefixOf] at h, fun _ h => by simp [List.isPrefixOf] at h⟩
  | cons c t => exact ⟨fun h => by rw [scanC, if_pos h], fun h1 h2 => by rw [scanC, h1, if_neg Bool.false_ne_true, if_pos h2]⟩
theorem drop_text (s : ByteArray) (i : Nat) : (s.extract i s.size).data.toList = s.data.toList.drop i := by
  rw [Lib.extract_data, List.take_of_length_le (by rw [List.length_drop, ← Lib.size_eq]; exact Nat.le_refl _)]
theorem take_text (s : ByteArray) (i : Nat) : (s.extract 0 i).data.toList = s.data.toList.take i := by
  rw [Lib.extract_data, List.drop_zero, Nat.sub_zero]

end Go.Proofs.YtbcmfcddkegcoaaGreatDoor

/-! What the document's Read of layer 10 answers. -/
namespace Go.Proofs.YtbcmfcddkegcoaaGreatDoor
open Go.RowKit Go.Lib

/-- where the next bracket stands, or the end -/
def bogE (l : Txt) (f : Nat) : Nat := f + ((l.drop f).takeWhile (· != 62)).length
theorem bog_at (s : ByteArray) (f : Nat) (hf : f ≤ s.size) : f ≤ bogE s.data.toList f ∧ bogE s.data.toList f ≤ s.size ∧ (bogC (s.data.toList.drop f)).1 = (s.extract f (bogE s.data.toList f)).data.toList ∧
    f + (bogC (s.data.toList.drop f)).2 = if bogE s.data.toList f < s.size then bogE s.data.toList f + 1 else s.size := by
  have h1 : (List.takeWhile (· != 62) (s.data.toList.drop f)).length + (List.dropWhile (· != 62) (s.data.toList.drop f)).length = s.size - f := by
    rw [← List.length_append, List.takeWhile_append_dropWhile, List.length_drop, ← Lib.size_eq]
  have h2 := List.length_tail (l := List.dropWhile (· != 62) (s.data.toList.drop f))
  have e1 : bogE s.data.toList f = f + (List.takeWhile (· != 62) (s.data.toList.drop f)).length := rfl
  refine ⟨by omega, by omega, ?_, ?_⟩
  · rw [Lib.extract_data, e1, Nat.add_sub_cancel_left]
    unfold bogC
    conv => rhs; arg 2; rw [← List.takeWhile_append_dropWhile (p := (· != 62)) (l := s.data.toList.drop f)]
    rw [List.take_left]
  · unfold bogC
    simp only [List.length_drop, ← Lib.size_eq, h2]
    split <;> omega

end Go.Proofs.YtbcmfcddkegcoaaGreatDoor
