/-
  append, from whatever source, onto a row of bytes of which the head may be frozen (what a Builder's String leaves): where the new row lies.
-/
import Derived.Deep.AppendSrc
import Derived.Lib.FrozenHead2
import Derived.Lib.UnsafeStr
import Derived.Laws.IdiomCopy
import Derived.Lib.OthersKept
import Derived.Below
import Derived.OwnWalk
namespace Go.Proofs.Ytappdjhhaohejaa
open Go.RowKit

/-- the block behind some stores side by side -/
theorem setCells_row (g : Nat) (t : TypeId) (fz : Nat × Nat) : ∀ (vs : List Value) (o : Nat) (cur : Array Value) (w : World), w.heap[g]? = some (.cells cur t fz) → o + vs.length ≤ cur.size →
    (w.setCells g o vs).heap[g]? = some (.cells (cur.toList.take o ++ vs ++ cur.toList.drop (o + vs.length)).toArray t fz)
  | [], o, cur, w, hg, _ => by
    show w.heap[g]? = _
    rw [hg]
    simp only [List.append_nil, List.length_nil, Nat.add_zero, List.take_append_drop, Array.toArray_toList]
  | v :: rest, o, cur, w, hg, hl => by
    simp only [List.length_cons] at hl
    have h1 : (w.setCell ⟨g, o, none⟩ v).heap[g]? = some (.cells (cur.setIfInBounds o v) t fz) := by
      rw [setCell_eq_setRow w g o cur t fz v hg]
      exact setRow_heap w g cur _ t fz hg
    have ih := setCells_row g t fz rest (o + 1) (cur.setIfInBounds o v) (w.setCell ⟨g, o, none⟩ v) h1 (by simp; omega)
    show ((w.setCell ⟨g, o, none⟩ v).setCells g (o + 1) rest).heap[g]? = _
    rw [ih]
    have e := list_seg_step cur.toList o v rest (by simp; omega)
    simp only [Array.toList_setIfInBounds, List.length_cons]
    rw [e]
theorem setCells_else (g : Nat) : ∀ (vs : List Value) (o : Nat) (w : World), w.grownBy (w.setCells g o vs) (some g)
  | [], _, w => World.grownBy.refl w _
  | v :: rest, o, w => by
    have ih := setCells_else g rest (o + 1) (w.setCell ⟨g, o, none⟩ v)
    refine ⟨ih.os, ih.tape, ih.output, ?_, fun k hk hne => ?_⟩
    · have hs : (w.setCell ⟨g, o, none⟩ v).heap.size = w.heap.size := by simp [World.setCell]
      have := ih.size
      rw [hs] at this
      exact this
    · rw [show (w.setCells g o (v :: rest)) = (w.setCell ⟨g, o, none⟩ v).setCells g (o + 1) rest from rfl,
        ih.block k (by simpa [World.setCell] using hk) hne]
      exact heap_setCell_other w ⟨g, o, none⟩ k v (fun e => hne (by rw [e]))
section
variable {P : Program} (w : World)
theorem run_append_H (t tx ty e : TypeId) (i : TypeInfo) (z : Value) (ht : P.underlying t = some (.slice e)) (hi : P.info? e = some i) (hz : i.zero = some z)
    (hsize : i.size = 1) (hby : i.bytes = 1) (hzs : z.cells.size = 1)
    (v : Value) (n : Nat) (xs : List Value) (hown : w.ownsRowF 0 e 1 v n xs) (x : Value) (m : Nat) (news : List Value) (hs : Src P 1 tx x m news w)
    (h63 : n + m ≤ 140737488355328) :
    ∃ v' w', (Builtin.append_ #[t, tx] ty #[v, x]).run P w = .ok v' w' ∧ w'.ownsRowF 0 e 1 v' (n + m) (xs ++ news) ∧ w.grownBy w' v.ownBlock ∧ (v'.ownBlock = v.ownBlock ∨ v'.ownBlock = some w.heap.size) := by
  have hml : n + m ≤ maxLen := by unfold maxLen; omega
  have hsmall : ((n + m : Nat) : Int) ≤ 9223372036854775807 := by omega
  have hlen : (xs ++ news).length = (n + m) * 1 := by rw [List.length_append, hown.1, hs.newsLen, Nat.add_mul]
  have hs' : Src P i.size tx x m news w := by rw [hsize]; exact hs
  rcases hown.2 with ⟨rfl, rfl⟩ | ⟨g, cap, cur, fz, rfl, hbg, hg, hfz, hnc, hcm, hcs, htake⟩
  · have hx0 : xs = [] := List.eq_nil_of_length_eq_zero (by rw [hown.1])
    subst hx0
    by_cases hm : m = 0
    · subst hm
      have hn0 : news = [] := List.eq_nil_of_length_eq_zero (by rw [hs.newsLen])
      subst hn0
      refine ⟨.slice none 0 0, w, ?_, ⟨by simp, .inl ⟨rfl, rfl⟩⟩, World.grownBy.refl w _, .inl rfl⟩
      have hc := hs'.cells
      rcases hs.kind with ⟨e', hk⟩ | hk <;>
        simp [Builtin.append_, run_underlying ht, run_underlying hk, sizeOf, typeInfo, hi, hs.len, hc]
    · have hr := run_append_grow_src (P := P) w t tx ty e i z ht hi hz none 0 0 [] (run_firstCells_none w.drew i.size 0 0 0) x m news hs' (by omega) hsmall (growslice_fits (by omega) (by rw [hby]; omega))
      have hg2 := grownCap_ge w (0 + m) 0 e
      have hm2 : grownCap w (0 + m) 0 e ≤ maxLen := grownCap_le_maxLen w (0 + m) 0 e hml
      refine ⟨_, _, hr, ⟨hlen, .inr ⟨w.heap.size, _, _, (0, 0), rfl, Nat.zero_le _, heap_alloc_new w.drew _, Nat.zero_le _, hg2, hm2, ?_, ?_⟩⟩, ⟨rfl, rfl, rfl, by simp, fun k hk _ => Below.heap_alloc w.drew _ k hk⟩, .inr rfl⟩
      · simp only [Array.size_append, List.size_toArray, size_zeroCells, hzs, hlen]
        omega
      · simp only [Array.toList_append, List.append_assoc]
        rw [← List.append_assoc, ← hlen]
        exact List.take_left
  · by_cases hroom : n + m ≤ cap
    · have hfit : n * i.size + news.length ≤ cur.size := by (rw [hs.newsLen, hcs, hsize]; (try omega))
      have hr := run_append_room_src (P := P) w t tx ty e i ht hi g 0 n cap x m news hs' hroom
        (fun j hj => by
          simp only [World.cell?, hg, Nat.zero_add]
          rw [Array.getElem?_eq_getElem (by omega)]
          rfl)
        (fun j hj => by
          obtain ⟨lo, hi'⟩ := fz
          simp only [World.frozen?, hg, Nat.zero_add, Bool.and_eq_false_iff, decide_eq_false_iff_not]
          simp only at hfz
          rw [hsize]
          omega)
      rw [Nat.zero_add, hsize] at hr
      rw [hsize] at hfit
      have hh := setCells_row g e fz news (n * 1) cur w hg hfit
      refine ⟨_, _, hr, ⟨hlen, .inr ⟨g, cap, _, fz, rfl, hbg, hh, by omega, hroom, hcm, ?_, ?_⟩⟩, setCells_else g news (n * 1) w, .inl rfl⟩
      · simp only [List.size_toArray, List.length_append, List.length_take, List.length_drop, Array.length_toList]
        omega
      · rw [htake, ← hlen]
        exact List.take_left
    · have holds := hown.cells (g := g) rfl
      have hr := run_append_grow_src (P := P) w t tx ty e i z ht hi hz (some ⟨g, 0, none⟩) n cap xs (run_firstCells_some w.drew i.size n ⟨g, 0, none⟩ n cap xs (by rw [hsize]; exact hown.1) (by simpa using holds)) x m news hs' (by omega) hsmall (growslice_fits (by omega) (by rw [hby]; omega))
      have hg2 := grownCap_ge w (n + m) cap e
      have hm2 : grownCap w (n + m) cap e ≤ maxLen := grownCap_le_maxLen w (n + m) cap e hml
      refine ⟨_, _, hr, ⟨hlen, .inr ⟨w.heap.size, _, _, (0, 0), rfl, Nat.zero_le _, heap_alloc_new w.drew _, Nat.zero_le _, hg2, hm2, ?_, ?_⟩⟩, ⟨rfl, rfl, rfl, by simp, fun k hk _ => Below.heap_alloc w.drew _ k hk⟩, .inr rfl⟩
      · simp only [Array.size_append, List.size_toArray, size_zeroCells, hzs, hlen]
        omega
      · simp only [Array.toList_append, List.append_assoc]
        rw [← List.append_assoc, ← hlen]
        exact List.take_left
/-- the same, for the walk -/
theorem wpList_append_H {ops : Array Oper} {rest : List Oper} {o : Oper} {a : Act} {Q : Exit → Act → World → Prop} (hgd : o.guard = none) (sl x : Operand) (t tx : TypeId)
    (ho : o.op = .call { callee := .builtin .append, args := #[sl, x], argTypes := #[t, tx] })
    (e : TypeId) (i : TypeInfo) (z : Value) (ht : P.underlying t = some (.slice e)) (hi : P.info? e = some i) (hz : i.zero = some z)
    (hsize : i.size = 1) (hby : i.bytes = 1) (hzs : z.cells.size = 1)
    (v : Value) (n : Nat) (xs : List Value) (hv : a.eval sl = v) (hown : w.ownsRowF 0 e 1 v n xs) (xv : Value) (m : Nat) (news : List Value) (hx : a.eval x = xv) (hs : Src P 1 tx xv m news w)
    (h63 : n + m ≤ 140737488355328)
    (h : ∀ v' w', w'.ownsRowF 0 e 1 v' (n + m) (xs ++ news) → w.grownBy w' v.ownBlock → (v'.ownBlock = v.ownBlock ∨ v'.ownBlock = some w.heap.size) → wpList P ops Q rest (a.put o.dst v') w') : wpList P ops Q (o :: rest) a w := by
  refine wpList_plain hgd fun K hK => ?_
  obtain ⟨v', w', hr, h2, h3, h4⟩ := run_append_H (P := P) w t tx o.type e i z ht hi hz hsize hby hzs v n xs hown xv m news hs h63
  unfold Oper.wp execOp
  simp only [ho, resolve, invoke, builtin, Sem.run_bind, Sem.run_pure, Result.andThen_ok, List.map_toArray, List.map_cons, List.map_nil, hv, hx, hr]
  exact hK _ _ (h v' w' h2 h3 h4)
end
end Go.Proofs.Ytappdjhhaohejaa
