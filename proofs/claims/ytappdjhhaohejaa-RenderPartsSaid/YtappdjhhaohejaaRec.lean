/-
  A struct of one-cell fields in a block of its own: stored whole, loaded whole, a field stored: laws at the operations.
-/
import Derived.Test.YtappdjhhaohejaaP1
import Derived.Below
import Derived.Deep.QuietTactic
namespace Go.Proofs.Ytappdjhhaohejaa
open Go.RowKit Go.Lib

section
variable {P : Program} {ops : Array Oper} {rest : List Oper} {o : Oper} {a : Act} {w : World} {Q : Exit → Act → World → Prop}
theorem wpList_store_rec (hg : o.guard = none) (ty : TypeId) (x y : Operand) (ho : o.op = .store ty x y) (g : Nat) (cells : Array Value) (T : TypeId)
    (hx : a.eval x = .pointer (some ⟨g, 0, none⟩)) (hy : a.eval y = .agg cells) (old : Array Value) (hb : w.heap[g]? = some (.cells old T (0, 0))) (hi : (P.info? ty).map (·.size) = some cells.size) (h5 : old.size = cells.size) (h1 : cells.all (·.oneCell') = true)
    (hK : ∀ w', w'.heap[g]? = some (.cells cells T (0, 0)) → w.grownBy w' (some g) → wpList P ops Q rest (a.put o.dst undef) w') :
    wpList P ops Q (o :: rest) a w :=
  wpList_plain hg fun K' hK' => wp_store_row ty x y ho g cells hx hy T old hb hi h5 h1 (hK' _ _ (hK _ (setRow_heap w g old _ _ _ hb) ⟨rfl, rfl, rfl, by simp, fun k _ hk => setRow_other w g k _ (fun e => hk (by rw [e]))⟩))
theorem run_storeVar_one (g i : Nat) (cur : Array Value) (T ty : TypeId) (v : Value) (hb : w.heap[g]? = some (.cells cur T (0, 0))) (hi : i < cur.size) (hs : (P.info? ty).map (·.size) = some 1) (h1 : v.oneCell' = true) (hc : v.cells = #[v]) :
    (storeVar ty ⟨g, i, none⟩ v).run P w = .ok () (w.setCell ⟨g, i, none⟩ v) := by
  have hadd : (⟨g, i, none⟩ : Addr).add 0 = ⟨g, i, none⟩ := by unfold Addr.add; split <;> simp_all
  have hcell : w.cell? ⟨g, i, none⟩ = some cur[i] := by simp [World.cell?, hb, hi]
  have hfro : w.frozen? ⟨g, i, none⟩ = false := by simp [World.frozen?, hb]
  have hst : (store ⟨g, i, none⟩ v).run P w = .ok () (w.setCell ⟨g, i, none⟩ v) := by
    rw [run_store P w _ v _ h1, hcell]
    simp [hfro]
  cases hq : P.info? ty with
  | none => simp [hq] at hs
  | some z =>
    have hz : z.size = 1 := by simpa [hq] using hs
    simp [storeVar, sizeOf, typeInfo, hq, hc, hz, storeCells, hadd, Sem.run_bind, hst]
theorem wpList_store_one (hg : o.guard = none) (ty : TypeId) (x y : Operand) (ho : o.op = .store ty x y) (g i : Nat) (v : Value) (T : TypeId)
    (hx : a.eval x = .pointer (some ⟨g, i, none⟩)) (hy : a.eval y = v) (cur : Array Value) (hb : w.heap[g]? = some (.cells cur T (0, 0))) (hi : i < cur.size) (hs : (P.info? ty).map (·.size) = some 1) (h1 : v.oneCell' = true) (hc : v.cells = #[v])
    (hK : ∀ w', w'.heap[g]? = some (.cells (cur.setIfInBounds i v) T (0, 0)) → w.grownBy w' (some g) → wpList P ops Q rest (a.put o.dst undef) w') :
    wpList P ops Q (o :: rest) a w := by
  refine wpList_plain hg fun K' hK' => ?_
  unfold Oper.wp execOp
  simp only [ho, hx, hy, Instr.storeAt, Instr.sureAddr, Sem.run_bind, Sem.run_pure, Result.andThen_ok, run_storeVar_one g i cur T ty v hb hi hs h1 hc]
  refine hK' _ _ (hK _ (Go.heap_setCell_same w g i cur T v hb) ⟨rfl, rfl, rfl, by simp, fun k _ hk => ?_⟩)
  exact Below.heap_setCell w ⟨g, i, none⟩ v _ (fun e => hk (congrArg some e))
theorem wpList_load_rec (hg : o.guard = none) (ty : TypeId) (x : Operand) (ho : o.op = .load ty x) (g : Nat) (T : TypeId) (cells : Array Value) (d : TypeDesc)
    (hx : a.eval x = .pointer (some ⟨g, 0, none⟩)) (hb : w.heap[g]? = some (.cells cells T (0, 0))) (hu : P.underlying ty = some d) (hd : (match d with | .struct _ | .array _ _ => true | _ => false) = true) (hs : (P.info? ty).map (·.size) = some cells.size)
    (hK : wpList P ops Q rest (a.put o.dst (.agg cells)) w) :
    wpList P ops Q (o :: rest) a w := by
  refine wpList_plain hg fun K' hK' => ?_
  unfold Oper.wp
  simp [execOp, ho, hx, Instr.loadAt, Instr.sureAddr, run_loadVar_row w g T ty cells (0, 0) d hb hu hd hs, Result.andThen]
  exact hK' _ _ hK
end
end Go.Proofs.Ytappdjhhaohejaa
