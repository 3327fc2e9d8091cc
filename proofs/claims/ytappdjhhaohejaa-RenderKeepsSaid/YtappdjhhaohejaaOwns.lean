/-
  Rows that a call owns: a slice made by the call itself, also one that a conversion of a text made; what append puts behind it, from whatever source.
-/
import Derived.Deep.AppendSrc
import Derived.Lib.FrozenHead2
import Derived.Laws.IdiomStrings
import Derived.Laws.IdiomCopy
import Derived.Lib.OthersKept
import Derived.Below
import Derived.OwnWalk
import Derived.Deep.Draws
namespace Go.Proofs.Ytappdjhhaohejaa
open Go.RowKit

theorem grownBy_new (w : World) (o : Obj) (row : Option Nat) : w.grownBy (w.drew.alloc o) row :=
  ⟨rfl, rfl, rfl, by simp, fun k hk _ => Below.heap_alloc w.drew _ k hk⟩

/-- the block behind some stores side by side -/
theorem setCells_heap (g : Nat) (t : TypeId) (fz : Nat × Nat) : ∀ (vs : List Value) (o : Nat) (cur : Array Value) (w : World), w.heap[g]? = some (.cells cur t fz) → o + vs.length ≤ cur.size →
    (w.setCells g o vs).heap[g]? = some (.cells (cur.toList.take o ++ vs ++ cur.toList.drop (o + vs.length)).toArray t fz)
  | [], o, cur, w, hg, _ => by
    show w.heap[g]? = _
    rw [hg]
    simp only [List.append_nil, List.length_nil, Nat.add_zero, List.take_append_drop, Array.toArray_toList]
  | v :: rest, o, cur, w, hg, hl => by
    simp only [List.length_cons] at hl
    have h1 : (w.setCell ⟨g, o, none⟩ v).heap[g]? = some (.cells (cur.setIfInBounds o v) t fz) := by
      rw [setCell_eq_setRow w g o cur t fz v hg]
      exact setRow_heap w g cur _ t fz hg
    have ih := setCells_heap g t fz rest (o + 1) (cur.setIfInBounds o v) (w.setCell ⟨g, o, none⟩ v) h1 (by simp; omega)
    show ((w.setCell ⟨g, o, none⟩ v).setCells g (o + 1) rest).heap[g]? = _
    rw [ih]
    have e := list_seg_step cur.toList o v rest (by simp; omega)
    simp only [Array.toList_setIfInBounds, List.length_cons]
    rw [e]
theorem setCells_grown (g : Nat) : ∀ (vs : List Value) (o : Nat) (w : World), w.grownBy (w.setCells g o vs) (some g)
  | [], _, w => World.grownBy.refl w _
  | v :: rest, o, w => by
    have ih := setCells_grown g rest (o + 1) (w.setCell ⟨g, o, none⟩ v)
    refine ⟨ih.os, ih.tape, ih.output, ?_, fun k hk hne => ?_⟩
    · have hs : (w.setCell ⟨g, o, none⟩ v).heap.size = w.heap.size := by simp [World.setCell]
      have := ih.size
      rw [hs] at this
      exact this
    · rw [show (w.setCells g o (v :: rest)) = (w.setCell ⟨g, o, none⟩ v).setCells g (o + 1) rest from rfl,
        ih.block k (by simpa [World.setCell] using hk) hne]
      exact heap_setCell_other w ⟨g, o, none⟩ k v (fun e => hne (by rw [e]))

/-- A ROW OF THE CALL's OWN, of cells xs: nil; or a block at or above base, of which nothing beyond what is read may be frozen (but a mark behind its last cell). -/
def OwnsG (w : World) (base : Nat) (e : TypeId) (size : Nat) (v : Value) (n : Nat) (xs : List Value) : Prop :=
  xs.length = n * size ∧ ((v = .slice none 0 0 ∧ n = 0) ∨
    ∃ g cap cur fz, v = .slice (some ⟨g, 0, none⟩) n cap ∧ base ≤ g ∧ w.heap[g]? = some (.cells cur e fz) ∧ (fz.2 ≤ n * size ∨ cap * size ≤ fz.1) ∧ n ≤ cap ∧ cap ≤ maxLen ∧ cur.size = cap * size ∧ cur.toList.take (n * size) = xs)

section
variable {w w' : World} {base : Nat} {e : TypeId} {size : Nat} {v : Value} {n : Nat} {xs : List Value}

theorem OwnsG.nil (w : World) (base : Nat) (e : TypeId) (size : Nat) : OwnsG w base e size (.slice none 0 0) 0 [] := ⟨by simp, .inl ⟨rfl, rfl⟩⟩
theorem OwnsG.lt (h : OwnsG w base e size v n xs) : ∀ k, v.ownBlock = some k → base ≤ k ∧ k < w.heap.size := by
  intro k hk
  rcases h.2 with ⟨rfl, _⟩ | ⟨g, cap, cur, fz, rfl, hb, hg, _⟩
  · simp [Value.ownBlock] at hk
  · have : g = k := by simpa [Value.ownBlock] using hk
    subst this
    exact ⟨hb, (Array.getElem?_eq_some_iff.1 hg).1⟩
theorem OwnsG.kept {row : Option Nat} (h : OwnsG w base e size v n xs) (hg : w.grownBy w' row) (hne : v.ownBlock = none ∨ v.ownBlock ≠ row) : OwnsG w' base e size v n xs := by
  refine ⟨h.1, ?_⟩
  rcases h.2 with h | ⟨g, cap, cur, fz, rfl, hb, hh, r⟩
  · exact .inl h
  · refine .inr ⟨g, cap, cur, fz, rfl, hb, ?_, r⟩
    rw [hg.block g (Array.getElem?_eq_some_iff.1 hh).1 (fun e => by rcases hne with h | h <;> simp [Value.ownBlock] at h; exact h e)]
    exact hh
theorem OwnsG.alloc (h : OwnsG w base e size v n xs) (o : Obj) : OwnsG (w.alloc o) base e size v n xs := by
  refine ⟨h.1, ?_⟩
  rcases h.2 with h | ⟨g, cap, cur, fz, rfl, hb, hh, r⟩
  · exact .inl h
  · exact .inr ⟨g, cap, cur, fz, rfl, hb, (Below.heap_alloc w o g (Array.getElem?_eq_some_iff.1 hh).1).trans hh, r⟩
theorem OwnsG.drew (h : OwnsG w base e size v n xs) : OwnsG w.drew base e size v n xs := h
theorem OwnsG.drewN (h : OwnsG w base e size v n xs) (k : Nat) : OwnsG (w.drewN k) base e size v n xs := h
theorem OwnsG.below {B : Nat} (h : OwnsG w base e size v n xs) (hb : Below B w w') (hB : w.heap.size ≤ B) : OwnsG w' base e size v n xs := by
  refine ⟨h.1, ?_⟩
  rcases h.2 with h | ⟨g, cap, cur, fz, rfl, hbg, hh, r⟩
  · exact .inl h
  · exact .inr ⟨g, cap, cur, fz, rfl, hbg, (hb.block g (by have := (Array.getElem?_eq_some_iff.1 hh).1; omega)).trans hh, r⟩
theorem OwnsG.cells (h : OwnsG w base e size v n xs) {g : Nat} (hg : v.ownBlock = some g) : ∀ j u, xs[j]? = some u → w.cell? ((⟨g, 0, none⟩ : Addr).add j) = some u := by
  intro j u hj
  rcases h.2 with ⟨rfl, _⟩ | ⟨g', cap, cur, fz, rfl, hb, hh, _, hnc, _, hcs, htake⟩
  · simp [Value.ownBlock] at hg
  · have : g' = g := by simpa [Value.ownBlock] using hg
    subst this
    have hjl : j < xs.length := (List.getElem?_eq_some_iff.1 hj).1
    rw [h.1] at hjl
    have hns : n * size ≤ cap * size := Nat.mul_le_mul_right _ hnc
    have e1 : (⟨g', 0, none⟩ : Addr).add j = ⟨g', j, none⟩ := by simp [Addr.add]; omega
    rw [e1]
    have : cur.toList[j]? = some u := by
      rw [← htake, List.getElem?_take] at hj
      simpa [hjl] using hj
    simp only [World.cell?, hh]
    simpa using this
theorem OwnsG.form (h : OwnsG w base e size v n xs) : ∃ a cap, v = .slice a n cap ∧ n ≤ cap ∧ cap ≤ maxLen := by
  rcases h.2 with ⟨rfl, rfl⟩ | ⟨g, cap, cur, fz, rfl, hb, hh, _, hnc, hm, _⟩
  · exact ⟨none, 0, rfl, Nat.le_refl _, Nat.zero_le _⟩
  · exact ⟨_, cap, rfl, hnc, hm⟩
/-- a new block -/
theorem OwnsG.new (w : World) (C : Array Value) (fz : Nat × Nat) (base : Nat) (e : TypeId) (size n cap : Nat) (hb : base ≤ w.heap.size) (hz : fz.2 ≤ n * size ∨ cap * size ≤ fz.1) (hn : n ≤ cap) (hm : cap ≤ maxLen) (hc : C.size = cap * size) :
    OwnsG (w.alloc (.cells C e fz)) base e size (.slice (some ⟨w.heap.size, 0, none⟩) n cap) n (C.toList.take (n * size)) := by
  refine ⟨?_, .inr ⟨w.heap.size, cap, C, fz, rfl, hb, heap_alloc_new w _, hz, hn, hm, hc, rfl⟩⟩
  have : n * size ≤ cap * size := Nat.mul_le_mul_right _ hn
  rw [List.length_take, Array.length_toList, hc]
  omega
end

section
variable {P : Program} (w : World)

/-- append, from whatever source, onto a row of the call's own -/
theorem run_append_G (base : Nat) (t tx ty e : TypeId) (i : TypeInfo) (z : Value) (size bytes : Nat) (ht : P.underlying t = some (.slice e)) (hi : P.info? e = some i) (hz : i.zero = some z)
    (hsize : i.size = size) (hby : i.bytes = bytes) (hzs : z.cells.size = size)
    (v : Value) (n : Nat) (xs : List Value) (hown : OwnsG w base e size v n xs) (x : Value) (m : Nat) (news : List Value) (hs : Src P size tx x m news w)
    (h63 : n + m ≤ maxLen) (hbytes : (n + m) * bytes ≤ 140737488355328) (hbase : base ≤ w.heap.size) :
    ∃ v' w', (Builtin.append_ #[t, tx] ty #[v, x]).run P w = .ok v' w' ∧ OwnsG w' base e size v' (n + m) (xs ++ news) ∧ w.grownBy w' v.ownBlock ∧ (v'.ownBlock = v.ownBlock ∨ v'.ownBlock = some w.heap.size) := by
  subst hsize
  subst hby
  have hsmall : ((n + m : Nat) : Int) ≤ 9223372036854775807 := by simp only [maxLen] at h63; omega
  have hlen : (xs ++ news).length = (n + m) * i.size := by rw [List.length_append, hown.1, hs.newsLen, Nat.add_mul]
  have hge := grownCap_ge w (n + m)
  rcases hown.2 with ⟨rfl, rfl⟩ | ⟨g, cap, cur, fz, rfl, hbg, hg, hfz, hnc, hcm, hcs, htake⟩
  · have hx0 : xs = [] := List.eq_nil_of_length_eq_zero (by rw [hown.1]; simp)
    subst hx0
    by_cases hm : m = 0
    · subst hm
      have hn0 : news = [] := List.eq_nil_of_length_eq_zero (by rw [hs.newsLen]; simp)
      subst hn0
      refine ⟨.slice none 0 0, w, ?_, ⟨by simp, .inl ⟨rfl, rfl⟩⟩, World.grownBy.refl w _, .inl rfl⟩
      have hc := hs.cells
      rcases hs.kind with ⟨e', hk⟩ | hk <;>
        simp [Builtin.append_, run_underlying ht, run_underlying hk, sizeOf, typeInfo, hi, hs.len, hc]
    · have hr := run_append_grow_src (P := P) w t tx ty e i z ht hi hz none 0 0 [] (run_firstCells_none w.drew i.size 0 0 0) x m news hs (by omega) hsmall (growslice_fits (by omega) hbytes)
      have hg2 := grownCap_ge w (0 + m) 0 e
      have hm2 : grownCap w (0 + m) 0 e ≤ maxLen := grownCap_le_maxLen w (0 + m) 0 e h63
      refine ⟨_, _, hr, ⟨hlen, .inr ⟨w.heap.size, _, _, (0, 0), rfl, hbase, heap_alloc_new w.drew _, .inl (Nat.zero_le _), hg2, hm2, ?_, ?_⟩⟩, grownBy_new w _ _, .inr rfl⟩
      · simp only [Array.size_append, List.size_toArray, size_zeroCells, hzs, hlen, ← Nat.add_mul]
        congr 1
        omega
      · simp only [Array.toList_append, List.append_assoc]
        rw [← List.append_assoc, ← hlen]
        exact List.take_left
  · by_cases hroom : n + m ≤ cap
    · have hns : n * i.size + m * i.size ≤ cap * i.size := by rw [← Nat.add_mul]; exact Nat.mul_le_mul_right _ hroom
      have hfit : n * i.size + news.length ≤ cur.size := by rw [hs.newsLen, hcs]; exact hns
      have hr := run_append_room_src (P := P) w t tx ty e i ht hi g 0 n cap x m news hs hroom
        (fun j hj => by
          simp only [World.cell?, hg, Nat.zero_add]
          rw [Array.getElem?_eq_getElem (by omega)]
          rfl)
        (fun j hj => by
          obtain ⟨lo, hi'⟩ := fz
          have hjn := hj
          rw [hs.newsLen] at hjn
          simp only [World.frozen?, hg, Nat.zero_add, Bool.and_eq_false_iff, decide_eq_false_iff_not]
          simp only at hfz
          omega)
      rw [Nat.zero_add] at hr
      have hh := setCells_heap g e fz news (n * i.size) cur w hg hfit
      refine ⟨_, _, hr, ⟨hlen, .inr ⟨g, cap, _, fz, rfl, hbg, hh, ?_, hroom, hcm, ?_, ?_⟩⟩, setCells_grown g news (n * i.size) w, .inl rfl⟩
      · rcases hfz with h | h
        · exact .inl (Nat.le_trans h (Nat.mul_le_mul_right _ (Nat.le_add_right n m)))
        · exact .inr h
      · simp only [List.size_toArray, List.length_append, List.length_take, List.length_drop, Array.length_toList]
        omega
      · rw [htake, ← hlen]
        exact List.take_left
    · have holds := hown.cells (g := g) rfl
      have hr := run_append_grow_src (P := P) w t tx ty e i z ht hi hz (some ⟨g, 0, none⟩) n cap xs (run_firstCells_some w.drew i.size n ⟨g, 0, none⟩ n cap xs hown.1 (by simpa using holds)) x m news hs (by omega) hsmall (growslice_fits (by omega) hbytes)
      have hg2 := grownCap_ge w (n + m) cap e
      have hm2 : grownCap w (n + m) cap e ≤ maxLen := grownCap_le_maxLen w (n + m) cap e h63
      refine ⟨_, _, hr, ⟨hlen, .inr ⟨w.heap.size, _, _, (0, 0), rfl, hbase, heap_alloc_new w.drew _, .inl (Nat.zero_le _), hg2, hm2, ?_, ?_⟩⟩, grownBy_new w _ _, .inr rfl⟩
      · simp only [Array.size_append, List.size_toArray, size_zeroCells, hzs, hlen, ← Nat.add_mul]
        congr 1
        omega
      · simp only [Array.toList_append, List.append_assoc]
        rw [← List.append_assoc, ← hlen]
        exact List.take_left

/-- the same, for the walk -/
theorem wpList_append_G {ops : Array Oper} {rest : List Oper} {o : Oper} {a : Act} {Q : Exit → Act → World → Prop} (hgd : o.guard = none) (sl x : Operand) (t tx : TypeId)
    (ho : o.op = .call { callee := .builtin .append, args := #[sl, x], argTypes := #[t, tx] })
    (base : Nat) (e : TypeId) (i : TypeInfo) (z : Value) (size bytes : Nat) (ht : P.underlying t = some (.slice e)) (hi : P.info? e = some i) (hz : i.zero = some z)
    (hsize : i.size = size) (hby : i.bytes = bytes) (hzs : z.cells.size = size)
    (v : Value) (n : Nat) (xs : List Value) (hv : a.eval sl = v) (hown : OwnsG w base e size v n xs) (xv : Value) (m : Nat) (news : List Value) (hx : a.eval x = xv) (hs : Src P size tx xv m news w)
    (h63 : n + m ≤ maxLen) (hbytes : (n + m) * bytes ≤ 140737488355328) (hbase : base ≤ w.heap.size)
    (h : ∀ v' w', OwnsG w' base e size v' (n + m) (xs ++ news) → w.grownBy w' v.ownBlock → (v'.ownBlock = v.ownBlock ∨ v'.ownBlock = some w.heap.size) → wpList P ops Q rest (a.put o.dst v') w') : wpList P ops Q (o :: rest) a w := by
  refine wpList_plain hgd fun K hK => ?_
  obtain ⟨v', w', hr, h2, h3, h4⟩ := run_append_G (P := P) w base t tx o.type e i z size bytes ht hi hz hsize hby hzs v n xs hown xv m news hs h63 hbytes hbase
  unfold Oper.wp execOp
  simp only [ho, resolve, invoke, builtin, Sem.run_bind, Sem.run_pure, Result.andThen_ok, List.map_toArray, List.map_cons, List.map_nil, hv, hx, hr]
  exact hK _ _ (h v' w' h2 h3 h4)
end
end Go.Proofs.Ytappdjhhaohejaa
