/-
  Lists of tokens as laws lay them: literals, lists put together by append; what a list of pieces is answered as.
-/
import Derived.Test.YtappdjhhaohejaaToks
import Derived.Test.YtappdjhhaohejaaOwns
namespace Go.Proofs.Ytappdjhhaohejaa
open Go.RowKit Go.Lib

/-- a slice that reads as a list of tokens, whose attributes lie in new memory -/
def IsToksN (w : World) (B : Nat) (a : Option Addr) (len cap : Nat) (L : List TokP) : Prop :=
  L.length = len ∧ len ≤ cap ∧ cap ≤ maxLen ∧ ∀ i (h : i < L.length), ∃ x ad ln cp, a = some x ∧ TokCells w x i ⟨L[i], ad, ln, cp⟩ ∧ IsRows w ad ln cp L[i].attrs ∧ (L[i].attrs = [] ∨ ∀ k, (Value.slice ad ln cp).ownBlock = some k → B ≤ k)
theorem IsToksN.toks {w : World} {B : Nat} {a : Option Addr} {len cap : Nat} {L : List TokP} (h : IsToksN w B a len cap L) : IsToks w a len cap L :=
  ⟨h.1, h.2.1, h.2.2.1, fun i hi => by
    obtain ⟨x, ad, ln, cp, h1, h2, h3, -⟩ := h.2.2.2 i hi
    exact ⟨x, ad, ln, cp, h1, h2, h3⟩⟩
theorem IsToksN.below {w w' : World} {B C : Nat} {a : Option Addr} {len cap : Nat} {L : List TokP} (h : IsToksN w B a len cap L) (hb : Below C w w') (hC : w.heap.size ≤ C) : IsToksN w' B a len cap L :=
  ⟨h.1, h.2.1, h.2.2.1, fun i hi => by
    obtain ⟨x, ad, ln, cp, h1, h2, h3, h4⟩ := h.2.2.2 i hi
    exact ⟨x, ad, ln, cp, h1, h2.below hb hC, h3.below hb hC, h4⟩⟩
/-- what a call that tells pieces answers -/
def TellS (L : List TokP) (w : World) (e : Ending) (w' : World) : Prop :=
  ∃ ad len cap, e = .returned (.slice ad len cap) ∧ IsToksN w' w.heap.size ad len cap L ∧ Below w.heap.size w w'

def bareQ (L : List TokP) : List TkV := L.map fun t => ⟨t, none, 0, 0⟩
theorem bareQ_t (L : List TokP) : (bareQ L).map TkV.t = L := by unfold bareQ; rw [List.map_map]; exact List.map_id _
/-- a literal of tokens without attributes -/
theorem isToks_put (w : World) (L : List TokP) (h : ∀ t ∈ L, t.attrs = []) (T : TypeId) (g : Nat) (hg : w.heap.size = g) (hl : L.length ≤ 1000) : IsToks (w.alloc (.cells (cellsT (bareQ L)).toArray T)) (some ⟨g, 0, none⟩) L.length L.length L := by
  subst hg
  have hc : ∀ (j : Nat) (u : Value), (cellsT (bareQ L))[j]? = some u → (w.alloc (.cells (cellsT (bareQ L)).toArray T)).cell? ((⟨w.heap.size, 0, none⟩ : Addr).add j) = some u := by
    intro j u hj
    have e1 : (⟨w.heap.size, 0, none⟩ : Addr).add j = ⟨w.heap.size, j, none⟩ := by simp [Addr.add]; omega
    rw [e1, cell_of_row _ _ _ _ _ _ (heap_alloc_new w _)]
    simpa using hj
  refine ⟨rfl, Nat.le_refl _, by simp [maxLen]; omega, fun i hi => ?_⟩
  have hi' : i < (bareQ L).length := by unfold bareQ; rw [List.length_map]; exact hi
  have hq : (bareQ L)[i] = ⟨L[i], none, 0, 0⟩ := by simp [bareQ]
  obtain ⟨e0, e1, e2, e3, e4⟩ := cellsT_at (bareQ L) i hi'
  rw [hq] at e0 e1 e2 e3 e4
  refine ⟨_, none, 0, 0, rfl, ⟨hc _ _ e0, hc _ _ e1, hc _ _ e2, hc _ _ e3, hc _ _ e4⟩, ?_⟩
  rw [h L[i] (List.getElem_mem hi)]
  exact isRows_none _

/-- the placed tokens of a list -/
theorem isToks_src {w : World} {B : Nat} {a : Option Addr} {len cap : Nat} {L : List TokP} (h : IsToksN w B a len cap L) :
    ∃ Q : List TkV, Q.map TkV.t = L ∧ Q.length = len ∧ Src Try.prog 5 22 (.slice a len cap) len (cellsT Q) w ∧ ∀ q ∈ Q, IsRows w q.ad q.len q.cap q.t.attrs ∧ (q.t.attrs = [] ∨ ∀ k, (Value.slice q.ad q.len q.cap).ownBlock = some k → B ≤ k) := by
  have h0 := h.1
  have h2 : ∀ i, ∃ q : TkV, ∀ hi : i < L.length, q.t = L[i] ∧ ∃ x, a = some x ∧ TokCells w x i q ∧ IsRows w q.ad q.len q.cap q.t.attrs ∧ (q.t.attrs = [] ∨ ∀ k, (Value.slice q.ad q.len q.cap).ownBlock = some k → B ≤ k) := by
    intro i
    by_cases hi : i < L.length
    · obtain ⟨x, ad, ln, cp, h1, h2, h3, h4⟩ := h.2.2.2 i hi
      exact ⟨⟨L[i], ad, ln, cp⟩, fun _ => ⟨rfl, x, h1, h2, h3, h4⟩⟩
    · exact ⟨⟨zeroT, none, 0, 0⟩, fun h => absurd h hi⟩
  obtain ⟨f, hf⟩ : ∃ f : Nat → TkV, ∀ i (hi : i < L.length), (f i).t = L[i] ∧ ∃ x, a = some x ∧ TokCells w x i (f i) ∧ IsRows w (f i).ad (f i).len (f i).cap (f i).t.attrs ∧ ((f i).t.attrs = [] ∨ ∀ k, (Value.slice (f i).ad (f i).len (f i).cap).ownBlock = some k → B ≤ k) :=
    ⟨fun i => Classical.choose (h2 i), fun i => Classical.choose_spec (h2 i)⟩
  have hQl : ((List.range len).map f).length = len := by simp
  have hget : ∀ i (hi : i < ((List.range len).map f).length), ((List.range len).map f)[i] = f i := fun i hi => by
    rw [List.getElem_map, List.getElem_range]
  refine ⟨(List.range len).map f, ?_, hQl, ?_, ?_⟩
  · refine List.ext_getElem (by simp [h0]) fun i h1 h3 => ?_
    rw [List.getElem_map, List.getElem_map, List.getElem_range]
    exact (hf i h3).1
  · cases len with
    | zero =>
      cases a with
      | none => exact Src.ofNil _ Try.underlying22 _
      | some x => exact Src.ofSlice _ Try.underlying22 x 0 cap [] rfl (fun j u hj => by cases hj) (fun u hu => by cases hu)
    | succ len =>
      obtain ⟨-, x, hx, -⟩ := hf 0 (by omega)
      subst hx
      refine Src.ofSlice _ Try.underlying22 x (len + 1) cap _ (by rw [cellsT_len, hQl]) ?_ ?_
      · intro j u hj
        have hjl : j < (cellsT ((List.range (len + 1)).map f)).length := (List.getElem?_eq_some_iff.1 hj).1
        rw [cellsT_len, hQl] at hjl
        have hi : j / 5 < ((List.range (len + 1)).map f).length := by rw [hQl]; omega
        obtain ⟨e0, e1, e2, e3, e4⟩ := cellsT_at _ (j / 5) hi
        rw [hget] at e0 e1 e2 e3 e4
        obtain ⟨-, x', hx', hc, -⟩ := hf (j / 5) (by omega)
        obtain rfl := Option.some.inj hx'
        have hm : j = j / 5 * 5 ∨ j = j / 5 * 5 + 1 ∨ j = j / 5 * 5 + 2 ∨ j = j / 5 * 5 + 3 ∨ j = j / 5 * 5 + 4 := by omega
        rcases hm with hm | hm | hm | hm | hm
        · rw [hm, e0] at hj; rw [hm, ← hj]; exact hc.c0
        · rw [hm, e1] at hj; rw [hm, ← hj]; exact hc.c1
        · rw [hm, e2] at hj; rw [hm, ← hj]; exact hc.c2
        · rw [hm, e3] at hj; rw [hm, ← hj]; exact hc.c3
        · rw [hm, e4] at hj; rw [hm, ← hj]; exact hc.c4
      · intro u hu
        unfold cellsT at hu
        obtain ⟨q, -, hq⟩ := List.mem_flatMap.1 hu
        simp [TkV.five] at hq
        rcases hq with rfl | rfl | rfl | rfl | rfl <;> rfl
  · intro q hq
    obtain ⟨i, hi, rfl⟩ := List.mem_map.1 hq
    have hi' : i < L.length := by rw [h0]; exact List.mem_range.1 hi
    obtain ⟨-, x, -, -, h3, h4⟩ := hf i hi'
    exact ⟨h3, h4⟩

/-- a row of tokens that a law puts together -/
def RowTk (w : World) (base : Nat) (v : Value) (Q : List TkV) : Prop :=
  OwnsG w base 29 5 v Q.length (cellsT Q) ∧ ∀ q ∈ Q, AttOk w v q
theorem RowTk.below {w w' : World} {base : Nat} {v : Value} {Q : List TkV} (h : RowTk w base v Q) (hb : Below w.heap.size w w') : RowTk w' base v Q :=
  ⟨h.1.below hb (Nat.le_refl _), fun q hq => ⟨(h.2 q hq).1.below hb (Nat.le_refl _), (h.2 q hq).2⟩⟩
theorem rowTk_empty (w : World) (base : Nat) (g : Nat) (hg : w.heap.size = g) (hb : base ≤ g) : RowTk (w.alloc (.cells #[] 29)) base (.slice (some ⟨g, 0, none⟩) 0 0) [] := by
  subst hg
  exact ⟨OwnsG.new w #[] (0, 0) base 29 5 0 0 hb (.inl (Nat.le_refl _)) (Nat.le_refl _) (by simp [maxLen]) rfl, fun q h => by cases h⟩
theorem RowTk.app {w w' : World} {base : Nat} {v v' : Value} {Q R : List TkV} (h : RowTk w base v Q) (hR : ∀ q ∈ R, AttOk w v q)
    (hown : OwnsG w' base 29 5 v' (Q.length + R.length) (cellsT Q ++ cellsT R)) (hg : w.grownBy w' v.ownBlock) (hw : v'.ownBlock = v.ownBlock ∨ v'.ownBlock = some w.heap.size) : RowTk w' base v' (Q ++ R) := by
  refine ⟨by rw [List.length_append, ← cellsT_add]; exact hown, fun q hq => ?_⟩
  have hq' : AttOk w v q := by
    rcases List.mem_append.1 hq with h1 | h1
    · exact h.2 q h1
    · exact hR q h1
  refine ⟨rows_same hq' hg, ?_⟩
  rcases hq'.2 with h0 | h0
  · exact .inl h0
  · by_cases he : q.t.attrs = []
    · exact .inl he
    · refine .inr fun k hk => ?_
      rcases hw with h1 | h1
      · rw [h1]; exact h0 k hk
      · rw [h1]
        obtain ⟨x, hx, c1, -⟩ := hq'.1.2.2.2 0 (List.length_pos_iff.2 he)
        have hlt := block_lt_of_cell c1
        rw [show (x.add (0 * 2)).block = x.block by unfold Addr.add; split <;> rfl] at hlt
        rw [hx] at hk
        have : x.block = k := by simpa [Value.ownBlock] using hk
        intro e
        have := Option.some.inj e
        omega
theorem rowTk_push {w W w1 : World} {base : Nat} {v v1 : Value} {Q R : List TkV} (h : RowTk W base v Q) (hq : ∀ q ∈ R, AttOk W v q) (hb : Below w.heap.size w W) (hbase : w.heap.size ≤ base)
    (hown : OwnsG w1 base 29 5 v1 (Q.length + R.length) (cellsT Q ++ cellsT R)) (hg : W.grownBy w1 v.ownBlock) (hw : v1.ownBlock = v.ownBlock ∨ v1.ownBlock = some W.heap.size) : RowTk w1 base v1 (Q ++ R) ∧ Below w.heap.size w w1 :=
  ⟨h.app hq hown hg hw, hb.grown hg hb.size (fun k hk => Nat.le_trans hbase (h.1.lt k hk).1)⟩
theorem RowTk.told {w : World} {base : Nat} {v : Value} {Q : List TkV} (h : RowTk w base v Q) : ∃ a cap, v = .slice a Q.length cap ∧ IsToks w a Q.length cap (Q.map TkV.t) := by
  obtain ⟨a, cap, hv, hn, hm⟩ := h.1.form
  refine ⟨a, cap, hv, by simp, hn, hm, fun i hi => ?_⟩
  have hi' : i < Q.length := by simpa using hi
  obtain ⟨e0, e1, e2, e3, e4⟩ := cellsT_at Q i hi'
  have hown0 : ∃ g, v.ownBlock = some g ∧ a = some ⟨g, 0, none⟩ := by
    rcases h.1.2 with ⟨-, h0⟩ | ⟨g, c, cur, fz, hvv, -⟩
    · omega
    · rw [hv] at hvv
      simp only [Value.slice.injEq] at hvv
      exact ⟨g, by rw [hv, hvv.1]; rfl, hvv.1⟩
  obtain ⟨g, hg, ha⟩ := hown0
  have hc := h.1.cells hg
  refine ⟨⟨g, 0, none⟩, Q[i].ad, Q[i].len, Q[i].cap, ha, ⟨?_, ?_, ?_, ?_, ?_⟩, ?_⟩
  all_goals simp only [List.getElem_map]
  · exact hc _ _ e0
  · exact hc _ _ e1
  · exact hc _ _ e2
  · exact hc _ _ e3
  · exact hc _ _ e4
  · exact (h.2 Q[i] (List.getElem_mem hi')).1
/-- the attributes of a token that was just answered don't lie in the row -/
theorem attOk_row {w w1 : World} {base : Nat} {v : Value} {Q : List TkV} {q : TkV} (h : RowTk w base v Q) (hr : IsRows w1 q.ad q.len q.cap q.t.attrs) (hf : q.t.attrs = [] ∨ ∀ k, (Value.slice q.ad q.len q.cap).ownBlock = some k → w.heap.size ≤ k) : AttOk w1 v q := by
  refine ⟨hr, ?_⟩
  rcases hf with h0 | h0
  · exact .inl h0
  · refine .inr fun k hk e => ?_
    have := (h.1.lt k e).2
    have := h0 k hk
    omega
end Go.Proofs.Ytappdjhhaohejaa
