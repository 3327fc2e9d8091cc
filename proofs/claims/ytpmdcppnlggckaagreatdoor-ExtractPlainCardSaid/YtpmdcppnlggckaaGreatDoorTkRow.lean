/-
  A row of tokens that is rewritten in its place: one token stored over another, the places behind cleared.
-/
import Derived.Test.YtpmdcppnlggckaaGreatDoorQB
import Derived.Test.YtpmdcppnlggckaaGreatDoorQI
import Derived.Laws.CopyRow
import Derived.Deep.QuietTactic
namespace Go.Proofs.YtpmdcppnlggckaaGreatDoor
open Go.RowKit Go.Lib

/-- a token's attributes lie, and not in block g -/
def AttG (w : World) (g : Nat) (q : TkV) : Prop :=
  IsRows w q.ad q.len q.cap q.t.attrs ∧ (q.t.attrs = [] ∨ ∀ k, (Value.slice q.ad q.len q.cap).ownBlock = some k → k ≠ g)
theorem AttG.kept {w w' : World} {g : Nat} {q : TkV} (h : AttG w g q) (hg : w.grownBy w' (some g)) : AttG w' g q := by
  refine ⟨?_, h.2⟩
  rcases h.2 with h0 | h0
  · have h1 := h.1
    rw [h0] at h1 ⊢
    exact ⟨h1.1, h1.2.1, h1.2.2.1, fun i hi => by cases hi⟩
  · exact isRows_grown h.1 hg h0
/-- a row of tokens in a block, and what lies behind it there -/
structure RowT (w : World) (g cap : Nat) (D : List TkV) (R : List Value) : Prop where
  heap : w.heap[g]? = some (.cells (cellsT D ++ R).toArray 54 (0, 0))
  size : (cellsT D ++ R).length = cap * 5
  fits : D.length ≤ cap
  most : cap ≤ maxLen
  atts : ∀ q ∈ D, AttG w g q
theorem RowT.lt {w : World} {g cap : Nat} {D : List TkV} {R : List Value} (h : RowT w g cap D R) : g < w.heap.size := (Array.getElem?_eq_some_iff.1 h.heap).1
theorem RowT.below {w w' : World} {B g cap : Nat} {D : List TkV} {R : List Value} (h : RowT w g cap D R) (hb : Below B w w') (hB : w.heap.size ≤ B) : RowT w' g cap D R :=
  ⟨(hb.block g (by have := h.lt; omega)).trans h.heap, h.size, h.fits, h.most, fun q hq => ⟨(h.atts q hq).1.below hb hB, (h.atts q hq).2⟩⟩
theorem RowT.cells {w : World} {g cap : Nat} {D : List TkV} {R : List Value} (h : RowT w g cap D R) (i : Nat) (hi : i < D.length) : TokCells w ⟨g, 0, none⟩ i D[i] := by
  obtain ⟨e0, e1, e2, e3, e4⟩ := cellsT_at D i hi
  have hl := cellsT_len D
  have hc : ∀ j u, (cellsT D)[j]? = some u → w.cell? ((⟨g, 0, none⟩ : Addr).add j) = some u := by
    intro j u hj
    have ea : (⟨g, 0, none⟩ : Addr).add j = ⟨g, j, none⟩ := by simp [Addr.add]; omega
    have hjl : j < (cellsT D).length := (List.getElem?_eq_some_iff.1 hj).1
    rw [ea, cell_of_row _ _ _ _ _ _ h.heap]
    simp only [List.getElem?_toArray]
    rw [List.getElem?_append_left hjl]; exact hj
  exact ⟨hc _ _ e0, hc _ _ e1, hc _ _ e2, hc _ _ e3, hc _ _ e4⟩
/-- as the walk asks them: block and place written out -/
theorem RowT.asked {w : World} {g cap : Nat} {D : List TkV} {R : List Value} (h : RowT w g cap D R) (i : Nat) (hi : i < D.length) :
    w.cell? ⟨g, i * 5, none⟩ = some (.int .i64 D[i].t.kind) ∧ w.cell? ⟨g, i * 5 + 1, none⟩ = some (.string ⟨D[i].t.name.toArray⟩) ∧ w.cell? ⟨g, i * 5 + 2, none⟩ = some (.string ⟨D[i].t.text.toArray⟩) ∧
    w.cell? ⟨g, i * 5 + 3, none⟩ = some (.slice D[i].ad D[i].len D[i].cap) ∧ w.cell? ⟨g, i * 5 + 4, none⟩ = some (.bool D[i].t.self) := by
  have hx := h.cells i hi
  have ea : ∀ j, (⟨g, 0, none⟩ : Addr).add j = ⟨g, j, none⟩ := fun j => by simp [Addr.add]; omega
  exact ⟨by rw [← ea]; exact hx.c0, by rw [← ea]; exact hx.c1, by rw [← ea]; exact hx.c2, by rw [← ea]; exact hx.c3, by rw [← ea]; exact hx.c4⟩
theorem TkV.five_len (q : TkV) : q.five.length = 5 := rfl
theorem cellsT_set : ∀ (D : List TkV) (i : Nat) (q : TkV) (_ : i < D.length), cellsT (D.set i q) = (cellsT D).take (i * 5) ++ q.five ++ (cellsT D).drop (i * 5 + 5)
  | d :: D, 0, q, _ => by
    show q.five ++ cellsT D = (d.five ++ cellsT D).take (0 * 5) ++ q.five ++ (d.five ++ cellsT D).drop (0 * 5 + 5)
    rw [Nat.zero_mul, List.take_zero, List.nil_append, Nat.zero_add]
    rfl
  | d :: D, i + 1, q, h => by
    have ih := cellsT_set D i q (by simpa using h)
    show d.five ++ cellsT (D.set i q) = (d.five ++ cellsT D).take ((i + 1) * 5) ++ q.five ++ (d.five ++ cellsT D).drop ((i + 1) * 5 + 5)
    have h1 : (d.five ++ cellsT D).take ((i + 1) * 5) = d.five ++ (cellsT D).take (i * 5) := by
      rw [List.take_append, List.take_of_length_le (by rw [TkV.five_len]; omega), TkV.five_len, show (i + 1) * 5 - 5 = i * 5 by omega]
    have h2 : (d.five ++ cellsT D).drop ((i + 1) * 5 + 5) = (cellsT D).drop (i * 5 + 5) := by
      rw [List.drop_append, List.drop_eq_nil_of_le (by rw [TkV.five_len]; omega), TkV.five_len, show (i + 1) * 5 + 5 - 5 = i * 5 + 5 by omega, List.nil_append]
    rw [ih, h1, h2]
    simp only [List.append_assoc]
theorem cellsT_take (D : List TkV) (i : Nat) (h : i ≤ D.length) : (cellsT D).take (i * 5) = cellsT (D.take i) := by
  have e : cellsT D = cellsT (D.take i) ++ cellsT (D.drop i) := by rw [cellsT_add, List.take_append_drop]
  rw [e, List.take_append_of_le_length (by rw [cellsT_len, List.length_take]; omega), List.take_of_length_le (by rw [cellsT_len, List.length_take]; omega)]
theorem set_row (D : List TkV) (R : List Value) (i : Nat) (q : TkV) (h : i < D.length) :
    (cellsT D ++ R).take (i * 5) ++ q.five ++ (cellsT D ++ R).drop (i * 5 + 5) = cellsT (D.set i q) ++ R := by
  have hl := cellsT_len D
  rw [cellsT_set D i q h, List.take_append_of_le_length (by omega), List.drop_append_of_le_length (by omega)]
  simp only [List.append_assoc]
theorem zero_set (D Z : List TkV) (R : List Value) (i : Nat) (h : i ≤ D.length) (hz : Z.length = D.length - i) :
    (cellsT D ++ R).take (i * 5) ++ cellsT Z ++ (cellsT D ++ R).drop (i * 5 + (cellsT Z).length) = cellsT (D.take i ++ Z) ++ R := by
  have hl := cellsT_len D
  have hzl := cellsT_len Z
  rw [List.take_append_of_le_length (by omega), cellsT_take D i h, ← cellsT_add, hzl, hz, List.drop_append, List.drop_eq_nil_of_le (by omega), hl, show i * 5 + (D.length - i) * 5 - D.length * 5 = 0 by omega]
  simp
theorem range_five (z : Array Value) (q : TkV) (hz : z.toList = q.five) : ∀ n : Nat, (Builtin.zeroCells z n).toList = cellsT (List.replicate n q)
  | 0 => by simp [cellsT, Builtin.zeroCells]
  | n + 1 => by
    have ih := range_five z q hz n
    unfold Builtin.zeroCells at ih ⊢
    have hs : z.size = 5 := by rw [← Array.length_toList, hz]; rfl
    rw [hs] at ih ⊢
    rw [show List.replicate (n + 1) q = List.replicate n q ++ [q] from List.replicate_succ', ← cellsT_add, ← ih]
    have hq : ∀ j (h : j < 5), z[j]! = q.five[j]'(by rw [TkV.five_len]; exact h) := fun j h => by
      rw [getElem!_pos z j (by omega)]
      simp only [← hz, Array.getElem_toList]
    have hm : ∀ j, j < 5 → (n * 5 + j) % 5 = j := fun j h => by omega
    simp only [Array.toList_map, Array.toList_range]
    rw [show (n + 1) * 5 = n * 5 + 5 by omega, List.range_add]
    simp only [List.map_append, List.map_map]
    congr 1
    simp only [show List.range 5 = [0, 1, 2, 3, 4] from rfl, List.map_cons, List.map_nil, Function.comp, hm _ (by decide : 0 < 5), hm 1 (by decide), hm 2 (by decide), hm 3 (by decide), hm 4 (by decide), hq 0 (by decide), hq 1 (by decide), hq 2 (by decide), hq 3 (by decide), hq 4 (by decide)]
    simp [cellsT, TkV.five]
theorem grown_setRow (w : World) (g : Nat) (cs : Array Value) : w.grownBy (w.setRow g cs) (some g) :=
  ⟨rfl, rfl, rfl, by simp [World.setRow], fun k _ hk => setRow_other w g k cs (fun e => hk (by rw [e]))⟩

/-- one token stored over another -/
theorem store_tokAt {w : World} {g cap : Nat} {D : List TkV} {R : List Value} (h : RowT w g cap D R) (i : Nat) (hi : i < D.length) (q : TkV) (hq : AttG w g q) :
    ∃ w', (storeVar 54 ⟨g, i * 5, none⟩ (tokA q.t q.ad q.len q.cap)).run Tryz.prog w = .ok () w' ∧ RowT w' g cap (D.set i q) R ∧ w.grownBy w' (some g) := by
  have hl := cellsT_len D
  have hst := run_storeCells_at (P := Tryz.prog) g (i * 5) 54 q.five 0 _ w h.heap (by rw [List.size_toArray, List.length_append, TkV.five_len]; omega) (fun u hu => five_ones [q] u (by rw [cellsT_one]; exact hu))
  simp only [Nat.add_zero, TkV.five_len] at hst
  rw [set_row D R i q hi] at hst
  have hg := grown_setRow w g (cellsT (D.set i q) ++ R).toArray
  refine ⟨_, ?_, ⟨setRow_heap w g _ _ _ _ h.heap, ?_, by rw [List.length_set]; exact h.fits, h.most, fun u hu => ?_⟩, hg⟩
  · have hs := sizeTok
    cases hi' : Tryz.prog.info? 54 with
    | none => simp [hi'] at hs
    | some j =>
      have hj : j.size = 5 := by simpa [hi'] using hs
      have hcs : (tokA q.t q.ad q.len q.cap).cells = q.five.toArray := rfl
      simp [storeVar, sizeOf, typeInfo, hi', hj, hcs, TkV.five_len, hst]
  · have := h.size
    rw [List.length_append, cellsT_len] at this ⊢
    rw [List.length_set]; exact this
  · rcases List.mem_or_eq_of_mem_set hu with h1 | h1
    · exact (h.atts u h1).kept hg
    · rw [h1]; exact hq.kept hg
def zeroV : TkV := ⟨zeroT, none, 0, 0⟩
theorem zeroAtt (w : World) (g : Nat) : AttG w g zeroV := ⟨isRows_none w, .inl rfl⟩
/-- the places from i on cleared -/
theorem clear_toks {w : World} {g cap : Nat} {D : List TkV} {R : List Value} (h : RowT w g cap D R) (i : Nat) (hi : i ≤ D.length) (t ty : TypeId) (ht : Tryz.prog.underlying t = some (.slice 54)) (n c : Nat) (hn : n = D.length - i) :
    ∃ w', (Builtin.clear_ #[t] ty #[.slice (some ⟨g, i * 5, none⟩) n c]).run Tryz.prog w = .ok (.tuple #[]) w' ∧ RowT w' g cap (D.take i ++ List.replicate n zeroV) R ∧ w.grownBy w' (some g) := by
  subst hn
  have hl := cellsT_len D
  have hzl := cellsT_len (List.replicate (D.length - i) zeroV)
  rw [List.length_replicate] at hzl
  have hst := run_storeCells_at (P := Tryz.prog) g (i * 5) 54 (cellsT (List.replicate (D.length - i) zeroV)) 0 _ w h.heap (by rw [List.size_toArray, List.length_append, hzl]; omega) (five_ones _)
  simp only [Nat.add_zero] at hst
  rw [zero_set D _ R i hi (by rw [List.length_replicate])] at hst
  have hzc : (Builtin.zeroCells (Value.agg #[.int .i64 0, .string ⟨#[]⟩, .string ⟨#[]⟩, .slice none 0 0, .bool false]).cells (D.length - i)).toList = cellsT (List.replicate (D.length - i) zeroV) := range_five _ zeroV rfl _
  by_cases h0 : D.length - i = 0
  · rw [h0]
    refine ⟨w, ?_, ?_, World.grownBy.refl w _⟩
    · simp [Builtin.clear_, run_underlying ht]
    · rw [List.replicate_zero, List.append_nil, List.take_of_length_le (by omega)]; exact h
  · have hg := grown_setRow w g (cellsT (D.take i ++ List.replicate (D.length - i) zeroV) ++ R).toArray
    refine ⟨_, ?_, ⟨setRow_heap w g _ _ _ _ h.heap, ?_, ?_, h.most, fun u hu => ?_⟩, hg⟩
    · obtain ⟨m, hm⟩ : ∃ m, D.length - i = m + 1 := ⟨D.length - i - 1, by omega⟩
      rw [hm] at hzc hst ⊢
      simp [Builtin.clear_, run_underlying ht, hzc, hst]
    · have := h.size
      rw [List.length_append, cellsT_len] at this ⊢
      rw [List.length_append, List.length_take, List.length_replicate]
      have hx : min i D.length + (D.length - i) = D.length := by omega
      rw [hx]; exact this
    · rw [List.length_append, List.length_take, List.length_replicate]
      have := h.fits
      omega
    · rcases List.mem_append.1 hu with h1 | h1
      · exact (h.atts u (List.mem_of_mem_take h1)).kept hg
      · rw [List.eq_of_mem_replicate h1]; exact (zeroAtt w g).kept hg
/-- for the walk -/
theorem wpList_store_tokAt {ops : Array Oper} {rest : List Oper} {o : Oper} {a : Act} {w : World} {Q : Exit → Act → World → Prop} (hgd : o.guard = none) (x y : Operand) (ho : o.op = .store 54 x y) (g i : Nat) (q : TkV) (p : Addr)
    (hx : a.eval x = .pointer (some p)) (hp : p = ⟨g, i * 5, none⟩) (hy : a.eval y = tokA q.t q.ad q.len q.cap) {cap : Nat} {D : List TkV} {R : List Value} (h : RowT w g cap D R) (hi : i < D.length) (hq : AttG w g q)
    (hK : ∀ w', RowT w' g cap (D.set i q) R → w.grownBy w' (some g) → wpList Tryz.prog ops Q rest (a.put o.dst undef) w') : wpList Tryz.prog ops Q (o :: rest) a w := by
  refine wpList_plain hgd fun K hK' => ?_
  obtain ⟨w', hr, h1, h2⟩ := store_tokAt h i hi q hq
  subst hp
  unfold Oper.wp execOp
  simp only [ho, hx, hy, Instr.storeAt, Instr.sureAddr, Sem.run_bind, Sem.run_pure, Result.andThen_ok, hr]
  exact hK' _ _ (hK w' h1 h2)
end Go.Proofs.YtpmdcppnlggckaaGreatDoor
