/-
  Texts laid together: Rec, DtRef, TxtRef, TxtRefB, RawRef, RawRefT, ScrRef.
-/
import Derived.Test.YtbcmfcddkegcoaaGreatDoorP1
import Derived.Below
import Derived.Deep.QuietTactic
import Derived.Test.YtbcmfcddkegcoaaGreatDoorQA
import Derived.Test.YtbcmfcddkegcoaaGreatDoorP4
import Derived.Test.YtbcmfcddkegcoaaGreatDoorQC
import Derived.Test.YtbcmfcddkegcoaaGreatDoorP6
/-! A struct of one-cell fields in a block of its own: stored whole, loaded whole, a field stored: laws at the operations. -/
namespace Go.Proofs.YtbcmfcddkegcoaaGreatDoor
open Go.RowKit Go.Lib

section
variable {P : Program} {ops : Array Oper} {rest : List Oper} {o : Oper} {a : Act} {w : World} {Q : Exit → Act → World → Prop}
theorem wpList_store_rec (hg : o.guard = none) (ty : TypeId) (x y : Operand) (ho : o.op = .store ty x y) (g : Nat) (cells : Array Value) (T : TypeId)
    (hx : a.eval x = .pointer (some ⟨g, 0, none⟩)) (hy : a.eval y = .agg cells) (old : Array Value) (hb : w.heap[g]? = some (.cells old T (0, 0))) (hi : (P.info? ty).map (·.size) = some cells.size) (h5 : old.size = cells.size) (h1 : cells.all (·.oneCell') = true)
    (hK : ∀ w', w'.heap[g]? = some (.cells cells T (0, 0)) → w.grownBy w' (some g) → wpList P ops Q rest (a.put o.dst undef) w') :
    wpList P ops Q (o :: rest) a w :=
  wpList_plain hg fun K' hK' => wp_store_row ty x y ho g cells hx hy T old hb hi h5 h1 (hK' _ _ (hK _ (setRow_heap w g old _ _ _ hb) ⟨rfl, rfl, rfl, by simp, fun k _ hk => setRow_other w g k _ (fun e => hk (by rw [e]))⟩))
theorem run_storeVar_one (g i : Nat) (cur : Array Value) (T ty : TypeId) (v : Value) (hb : w.heap[g]? = some (.cells cur T (0, 0))) (hi : i < cur.size) (hs : (P.info? ty).map (·.size) = some 1) (h1 : v.oneCell' = true) (hc : v.cells = #[v]) :
    (storeVar ty ⟨g, i, none⟩ v).run P w = .ok () (w.setCell ⟨g, i, none⟩ v) := by
  have hadd : (⟨g, i, none⟩ : Addr).add 0 = ⟨g, i, none⟩ := by unfold Addr.add; split <;> simp_all
  have hcell : w.cell? ⟨g, i, none⟩ = some cur[i] := by simp [World.cell?, hb, hi]
  have hfro : w.frozen? ⟨g, i, none⟩ = false := by simp [World.frozen?, hb]
  have hst : (store ⟨g, i, none⟩ v).run P w = .ok () (w.setCell ⟨g, i, none⟩ v) := by
    rw [run_store P w _ v _ h1, hcell]
    simp [hfro]
  cases hq : P.info? ty with
  | none => simp [hq] at hs
  | some z =>
    have hz : z.size = 1 := by simpa [hq] using hs
    simp [storeVar, sizeOf, typeInfo, hq, hc, hz, storeCells, hadd, Sem.run_bind, hst]
theorem wpList_store_one (hg : o.guard = none) (ty : TypeId) (x y : Operand) (ho : o.op = .store ty x y) (g i : Nat) (v : Value) (T : TypeId)
    (hx : a.eval x = .pointer (some ⟨g, i, none⟩)) (hy : a.eval y = v) (cur : Array Value) (hb : w.heap[g]? = some (.cells cur T (0, 0))) (hi : i < cur.size) (hs : (P.info? ty).map (·.size) = some 1) (h1 : v.oneCell' = true) (hc : v.cells = #[v])
    (hK : ∀ w', w'.heap[g]? = some (.cells (cur.setIfInBounds i v) T (0, 0)) → w.grownBy w' (some g) → wpList P ops Q rest (a.put o.dst undef) w') :
    wpList P ops Q (o :: rest) a w := by
  refine wpList_plain hg fun K' hK' => ?_
  unfold Oper.wp execOp
  simp only [ho, hx, hy, Instr.storeAt, Instr.sureAddr, Sem.run_bind, Sem.run_pure, Result.andThen_ok, run_storeVar_one g i cur T ty v hb hi hs h1 hc]
  refine hK' _ _ (hK _ (Go.heap_setCell_same w g i cur T v hb) ⟨rfl, rfl, rfl, by simp, fun k _ hk => ?_⟩)
  exact Below.heap_setCell w ⟨g, i, none⟩ v _ (fun e => hk (congrArg some e))
end
end Go.Proofs.YtbcmfcddkegcoaaGreatDoor

/-! What the document's answers of layer 11 are, but for Parse. -/
namespace Go.Proofs.YtbcmfcddkegcoaaGreatDoor
open Go.RowKit Go.Lib

end Go.Proofs.YtbcmfcddkegcoaaGreatDoor

/-! What the document's answers of layer 14 are. -/
namespace Go.Proofs.YtbcmfcddkegcoaaGreatDoor
open Go.RowKit Go.Lib

end Go.Proofs.YtbcmfcddkegcoaaGreatDoor

/-! What the document's Next and Read of layer 14 answer. -/
namespace Go.Proofs.YtbcmfcddkegcoaaGreatDoor
open Go.RowKit Go.Lib

end Go.Proofs.YtbcmfcddkegcoaaGreatDoor

/-! What the document's answers of layer 12 are. -/
namespace Go.Proofs.YtbcmfcddkegcoaaGreatDoor
open Go.RowKit Go.Lib

end Go.Proofs.YtbcmfcddkegcoaaGreatDoor

/-! What the document's Text of layer 12 answers. -/
namespace Go.Proofs.YtbcmfcddkegcoaaGreatDoor
open Go.RowKit Go.Lib

end Go.Proofs.YtbcmfcddkegcoaaGreatDoor

/-! What the document's answers of layer 13 are. -/
namespace Go.Proofs.YtbcmfcddkegcoaaGreatDoor
open Go.RowKit Go.Lib

theorem begScr_at (s : ByteArray) (k : Nat) (low : ByteArray) (h : k ≤ s.size) : begS s (k : Int) low = low.data.toList.isPrefixOf (lowL (s.data.toList.drop k)) := by
  unfold begS
  rw [decide_eq_true (show 0 ≤ (k : Int) ∧ (k : Int) ≤ (s.size : Int) by omega), Bool.true_and, show ((k : Nat) : Int).toNat = k by omega]
/-- steps -/
theorem st_0e (k : Nat) (l : Txt) (h : endR scL l = true) : stepS 0 k l = none := by unfold stepS; rw [if_pos rfl, if_pos h]
theorem st_0c (k : Nat) (l : Txt) (h : endR scL l = false) (c : comL.isPrefixOf (lowL l) = true) : stepS 0 k l = some (4, 1, 2) := by
  unfold stepS; rw [if_pos rfl, if_neg (by rw [h]; simp), if_pos c]
theorem st_0n (k : Nat) (l : Txt) (h : endR scL l = false) (c : comL.isPrefixOf (lowL l) = false) : stepS 0 k l = some (1, 0, 0) := by
  unfold stepS; rw [if_pos rfl, if_neg (by rw [h]; simp), if_neg (by rw [c]; simp)]
theorem st_45 (st k : Nat) (l : Txt) (h0 : st ≠ 0) (h : l.head? = some 45) : stepS st k l = some (1, st, k + 1) := by
  unfold stepS; rw [if_neg h0, if_pos h]
theorem st_62 (st k : Nat) (l : Txt) (h0 : st ≠ 0) (h1 : l.head? ≠ some 45) (h : l.head? = some 62 ∧ 2 ≤ k) : stepS st k l = some (1, 0, 0) := by
  unfold stepS; rw [if_neg h0, if_neg h1, if_pos h]
theorem st_1e (k : Nat) (l : Txt) (h1 : l.head? ≠ some 45) (h : ¬ (l.head? = some 62 ∧ 2 ≤ k)) (e : endR scL l = true) : stepS 1 k l = none := by
  unfold stepS; rw [if_neg (by decide), if_neg h1, if_neg h, if_pos ⟨rfl, e⟩]
theorem st_1w (k : Nat) (l : Txt) (h1 : l.head? ≠ some 45) (h : ¬ (l.head? = some 62 ∧ 2 ≤ k)) (e : endR scL l = false) (o : wordR [60] l = true) : stepS 1 k l = some (8, 2, 0) := by
  unfold stepS; rw [if_neg (by decide), if_neg h1, if_neg h, if_neg (by rw [e]; simp), if_pos ⟨rfl, o⟩]
theorem st_1n (k : Nat) (l : Txt) (h1 : l.head? ≠ some 45) (h : ¬ (l.head? = some 62 ∧ 2 ≤ k)) (e : endR scL l = false) (o : wordR [60] l = false) : stepS 1 k l = some (1, 1, 0) := by
  unfold stepS; rw [if_neg (by decide), if_neg h1, if_neg h, if_neg (by rw [e]; simp), if_neg (by rw [o]; simp), if_neg (by simp)]
theorem st_2w (k : Nat) (l : Txt) (h1 : l.head? ≠ some 45) (h : ¬ (l.head? = some 62 ∧ 2 ≤ k)) (o : wordR [60, 47] l = true) : stepS 2 k l = some (9, 1, 0) := by
  unfold stepS; rw [if_neg (by decide), if_neg h1, if_neg h, if_neg (by simp), if_neg (by simp), if_pos ⟨rfl, o⟩]
theorem st_2n (k : Nat) (l : Txt) (h1 : l.head? ≠ some 45) (h : ¬ (l.head? = some 62 ∧ 2 ≤ k)) (o : wordR [60, 47] l = false) : stepS 2 k l = some (1, 2, 0) := by
  unfold stepS; rw [if_neg (by decide), if_neg h1, if_neg h, if_neg (by simp), if_neg (by simp), if_neg (by rw [o]; simp)]
theorem drop_ne (l : Txt) (i : Nat) (h : i < l.length) : l.drop i ≠ [] := fun e => by
  have := congrArg List.length e
  rw [List.length_drop, List.length_nil] at this; omega
theorem scr_go (l : Txt) (i st k n st' k' R1 R2 : Nat) (hl : i < l.length) (h : stepS st k (l.drop i) = some (n, st', k')) (hR : i + (scrV st k (l.drop i)).1 = R1 ∧ (scrV st k (l.drop i)).2 = R2) :
    i + n + (scrV st' k' (l.drop (i + n))).1 = R1 ∧ (scrV st' k' (l.drop (i + n))).2 = R2 := by
  rw [scr_step st k _ (drop_ne l i hl) n st' k' h, List.drop_drop] at hR
  exact ⟨by rw [← hR.1]; simp only; omega, hR.2⟩
theorem scr_halt (l : Txt) (i st k R1 R2 : Nat) (hl : i < l.length) (h : stepS st k (l.drop i) = none) (hR : i + (scrV st k (l.drop i)).1 = R1 ∧ (scrV st k (l.drop i)).2 = R2) : R1 = i ∧ R2 = st := by
  rw [scr_end st k _ (drop_ne l i hl) h] at hR
  exact ⟨hR.1.symm, hR.2.symm⟩
theorem scr_done (l : Txt) (i st k R1 R2 : Nat) (hl : i = l.length) (hR : i + (scrV st k (l.drop i)).1 = R1 ∧ (scrV st k (l.drop i)).2 = R2) : R1 = i ∧ R2 = st := by
  rw [List.drop_eq_nil_of_le (by omega), scr_nil] at hR
  exact ⟨hR.1.symm, hR.2.symm⟩
theorem ret_two {a b m n : Int} (h1 : a = b) (h2 : m = n) : Ending.returned (.tuple #[.int .i64 a, .int .i64 m]) = .returned (.tuple #[.int .i64 b, .int .i64 n]) := by rw [h1, h2]
theorem head_at (s : ByteArray) (i : Nat) (h : i < s.size) (c : UInt8) : ((s.data.toList.drop i).head? = some c) ↔ ((s[i].toNat : Nat) : Int) = (c.toNat : Int) := by
  rw [drop_at s i h, List.head?_cons, Option.some.injEq, ← UInt8.toNat_inj]
  omega

end Go.Proofs.YtbcmfcddkegcoaaGreatDoor
