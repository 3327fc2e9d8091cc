/-
  Lists of tokens in memory: a slice that reads as a list of tokens, and rows of the call's own that grow by tokens.
-/
import Derived.Test.YtappdjhhaohejaaPT
import Derived.Maps.AppendAt
import Derived.Below
namespace Go.Proofs.Ytappdjhhaohejaa
open Go.RowKit Go.Lib

/-- a token, and where its attributes lie -/
structure TkV where
  t : TokP
  ad : Option Addr
  len : Nat
  cap : Nat
def TkV.five (q : TkV) : List Value := [.int .i64 q.t.kind, .string ⟨q.t.name.toArray⟩, .string ⟨q.t.text.toArray⟩, .slice q.ad q.len q.cap, .bool q.t.self]
def cellsT (Q : List TkV) : List Value := Q.flatMap TkV.five
theorem cellsT_cons (q : TkV) (Q : List TkV) : cellsT (q :: Q) = .int .i64 q.t.kind :: .string ⟨q.t.name.toArray⟩ :: .string ⟨q.t.text.toArray⟩ :: .slice q.ad q.len q.cap :: .bool q.t.self :: cellsT Q := rfl
theorem cellsT_add (Q R : List TkV) : cellsT Q ++ cellsT R = cellsT (Q ++ R) := by simp [cellsT]
theorem cellsT_one (q : TkV) : cellsT [q] = q.five := by simp [cellsT]
theorem cellsT_len (Q : List TkV) : (cellsT Q).length = Q.length * 5 := by
  induction Q with
  | nil => rfl
  | cons q Q ih => rw [cellsT_cons]; simp only [List.length_cons, ih]; omega
theorem cellsT_at : ∀ (Q : List TkV) (i : Nat) (h : i < Q.length), (cellsT Q)[i * 5]? = some (.int .i64 Q[i].t.kind) ∧ (cellsT Q)[i * 5 + 1]? = some (.string ⟨Q[i].t.name.toArray⟩) ∧ (cellsT Q)[i * 5 + 2]? = some (.string ⟨Q[i].t.text.toArray⟩) ∧
    (cellsT Q)[i * 5 + 3]? = some (.slice Q[i].ad Q[i].len Q[i].cap) ∧ (cellsT Q)[i * 5 + 4]? = some (.bool Q[i].t.self)
  | q :: Q, 0, _ => ⟨rfl, rfl, rfl, rfl, rfl⟩
  | q :: Q, i + 1, h => by
    obtain ⟨a, b, c, d, e⟩ := cellsT_at Q i (by simpa using h)
    rw [cellsT_cons, show (i + 1) * 5 = i * 5 + 1 + 1 + 1 + 1 + 1 by omega]
    simp only [List.getElem_cons_succ]
    refine ⟨?_, ?_, ?_, ?_, ?_⟩
    · simp only [List.getElem?_cons_succ]; exact a
    · rw [show i * 5 + 1 + 1 + 1 + 1 + 1 + 1 = i * 5 + 1 + 1 + 1 + 1 + 1 + 1 from rfl]; simp only [List.getElem?_cons_succ]; exact b
    · rw [show i * 5 + 1 + 1 + 1 + 1 + 1 + 2 = i * 5 + 2 + 1 + 1 + 1 + 1 + 1 by omega]; simp only [List.getElem?_cons_succ]; exact c
    · rw [show i * 5 + 1 + 1 + 1 + 1 + 1 + 3 = i * 5 + 3 + 1 + 1 + 1 + 1 + 1 by omega]; simp only [List.getElem?_cons_succ]; exact d
    · rw [show i * 5 + 1 + 1 + 1 + 1 + 1 + 4 = i * 5 + 4 + 1 + 1 + 1 + 1 + 1 by omega]; simp only [List.getElem?_cons_succ]; exact e

/-- the five cells of token i behind an address -/
structure TokCells (w : World) (x : Addr) (i : Nat) (q : TkV) : Prop where
  c0 : w.cell? (x.add (i * 5)) = some (.int .i64 q.t.kind)
  c1 : w.cell? (x.add (i * 5 + 1)) = some (.string ⟨q.t.name.toArray⟩)
  c2 : w.cell? (x.add (i * 5 + 2)) = some (.string ⟨q.t.text.toArray⟩)
  c3 : w.cell? (x.add (i * 5 + 3)) = some (.slice q.ad q.len q.cap)
  c4 : w.cell? (x.add (i * 5 + 4)) = some (.bool q.t.self)
theorem TokCells.below {w w' : World} {B : Nat} {x : Addr} {i : Nat} {q : TkV} (h : TokCells w x i q) (hb : Below B w w') (hB : w.heap.size ≤ B) : TokCells w' x i q := by
  have k : ∀ {a v}, w.cell? a = some v → w'.cell? a = some v := fun {a v} ha => (hb.cell (by have := block_lt_of_cell ha; omega)).trans ha
  exact ⟨k h.c0, k h.c1, k h.c2, k h.c3, k h.c4⟩
theorem add_more (x : Addr) (n k : Nat) : x.add (n + (k + 1)) = ⟨(x.add n).block, (x.add n).off + (k + 1), none⟩ := by
  unfold Addr.add
  by_cases h : n = 0
  · subst h; simp
  · rw [if_neg h, if_neg (by omega)]; simp; omega
/-- as the walk asks them -/
theorem TokCells.asked {w : World} {x : Addr} {i : Nat} {q : TkV} (h : TokCells w x i q) :
    w.cell? (x.add (i * 5)) = some (.int .i64 q.t.kind) ∧ w.cell? ⟨(x.add (i * 5)).block, (x.add (i * 5)).off + 1, none⟩ = some (.string ⟨q.t.name.toArray⟩) ∧ w.cell? ⟨(x.add (i * 5)).block, (x.add (i * 5)).off + 2, none⟩ = some (.string ⟨q.t.text.toArray⟩) ∧
    w.cell? ⟨(x.add (i * 5)).block, (x.add (i * 5)).off + 3, none⟩ = some (.slice q.ad q.len q.cap) ∧ w.cell? ⟨(x.add (i * 5)).block, (x.add (i * 5)).off + 4, none⟩ = some (.bool q.t.self) :=
  ⟨h.c0, by rw [← add_more x _ 0]; exact h.c1, by rw [← add_more x _ 1]; exact h.c2, by rw [← add_more x _ 2]; exact h.c3, by rw [← add_more x _ 3]; exact h.c4⟩

/-- a slice that reads as a list of tokens -/
def IsToks (w : World) (a : Option Addr) (len cap : Nat) (L : List TokP) : Prop :=
  L.length = len ∧ len ≤ cap ∧ cap ≤ maxLen ∧ ∀ i (h : i < L.length), ∃ x ad ln cp, a = some x ∧ TokCells w x i ⟨L[i], ad, ln, cp⟩ ∧ IsRows w ad ln cp L[i].attrs
theorem IsToks.below {w w' : World} {B : Nat} {a : Option Addr} {len cap : Nat} {L : List TokP} (h : IsToks w a len cap L) (hb : Below B w w') (hB : w.heap.size ≤ B) : IsToks w' a len cap L := by
  refine ⟨h.1, h.2.1, h.2.2.1, fun i hi => ?_⟩
  obtain ⟨x, ad, ln, cp, hx, h1, h2⟩ := h.2.2.2 i hi
  exact ⟨x, ad, ln, cp, hx, h1.below hb hB, h2.below hb hB⟩
theorem isToks_none (w : World) : IsToks w none 0 0 [] := ⟨rfl, Nat.le_refl _, by simp [maxLen], fun i h => by cases h⟩
theorem isToks_empty (w : World) (a : Option Addr) (cap : Nat) (h : cap ≤ maxLen) : IsToks w a 0 cap [] := ⟨rfl, Nat.zero_le _, h, fun i h => by cases h⟩

/-- a token's attributes stay where a row grows -/
def AttOk (w : World) (v : Value) (q : TkV) : Prop :=
  IsRows w q.ad q.len q.cap q.t.attrs ∧ (q.t.attrs = [] ∨ ∀ k, (Value.slice q.ad q.len q.cap).ownBlock = some k → v.ownBlock ≠ some k)
/-- a row of tokens of the call's own -/
def OwnToks (w : World) (base : Nat) (v : Value) (Q : List TkV) : Prop :=
  w.ownsRow base 29 5 v Q.length (cellsT Q) ∧ ∀ q ∈ Q, AttOk w v q
theorem ownToks_nil (w : World) (base : Nat) : OwnToks w base (.slice none 0 0) [] := ⟨World.ownsRow_nil _ _ _ _, fun q h => by cases h⟩
theorem rows_same {w w' : World} {q : TkV} {v : Value} (h : AttOk w v q) (hg : w.grownBy w' v.ownBlock) : IsRows w' q.ad q.len q.cap q.t.attrs := by
  obtain ⟨h1, h2⟩ := h
  rcases h2 with h0 | h2
  · rw [h0] at h1 ⊢
    exact ⟨h1.1, h1.2.1, h1.2.2.1, fun i hi => by cases hi⟩
  refine ⟨h1.1, h1.2.1, h1.2.2.1, fun i hi => ?_⟩
  obtain ⟨x, hx, c1, c2⟩ := h1.2.2.2 i hi
  have hb : ∀ n, (x.add n).block = x.block := fun n => by unfold Addr.add; split <;> rfl
  have hne := h2 x.block (by rw [hx]; rfl)
  have hlt : x.block < w.heap.size := by
    have := block_lt_of_cell c1
    rwa [hb] at this
  have hc : ∀ n, w'.cell? (x.add n) = w.cell? (x.add n) := fun n => World.cell?_of_block (by
    rw [hb]; exact hg.block x.block hlt (fun e => hne e.symm))
  exact ⟨x, hx, by rw [hc]; exact c1, by rw [hc]; exact c2⟩
/-- the row behind one append -/
theorem OwnToks.app {w w' : World} {base : Nat} {v v' : Value} {Q R : List TkV} (h : OwnToks w base v Q) (hR : ∀ q ∈ R, AttOk w v q)
    (hown : w'.ownsRow base 29 5 v' (Q.length + R.length) (cellsT Q ++ cellsT R)) (hg : w.grownBy w' v.ownBlock) (hw : v'.ownBlock = v.ownBlock ∨ v'.ownBlock = some w.heap.size) : OwnToks w' base v' (Q ++ R) := by
  refine ⟨by rw [List.length_append, ← cellsT_add]; exact hown, fun q hq => ?_⟩
  have hq' : AttOk w v q := by
    rcases List.mem_append.1 hq with h1 | h1
    · exact h.2 q h1
    · exact hR q h1
  refine ⟨rows_same hq' hg, ?_⟩
  rcases hq'.2 with h0 | h0
  · exact .inl h0
  · by_cases he : q.t.attrs = []
    · exact .inl he
    · refine .inr fun k hk => ?_
      rcases hw with h1 | h1
      · rw [h1]; exact h0 k hk
      · rw [h1]
        obtain ⟨x, hx, c1, -⟩ := hq'.1.2.2.2 0 (List.length_pos_iff.2 he)
        have hlt := block_lt_of_cell c1
        rw [show (x.add (0 * 2)).block = x.block by unfold Addr.add; split <;> rfl] at hlt
        rw [hx] at hk
        have : x.block = k := by simpa [Value.ownBlock] using hk
        intro e
        have := Option.some.inj e
        omega
theorem OwnToks.below {w w' : World} {base : Nat} {v : Value} {Q : List TkV} (h : OwnToks w base v Q) (hb : Below w.heap.size w w') : OwnToks w' base v Q :=
  ⟨h.1.kept (row := none) ⟨hb.os, hb.tape, hb.output, hb.size, fun k hk _ => hb.block k hk⟩ (Classical.em _), fun q hq => ⟨(h.2 q hq).1.below hb (Nat.le_refl _), (h.2 q hq).2⟩⟩
theorem OwnToks.alloc {w : World} {base : Nat} {v : Value} {Q : List TkV} (h : OwnToks w base v Q) (o : Obj) : OwnToks (w.alloc o) base v Q := h.below ((Below.refl _ w).alloc (Nat.le_refl _) o)
theorem OwnToks.lt {w : World} {base : Nat} {v : Value} {Q : List TkV} (h : OwnToks w base v Q) : ∀ k, v.ownBlock = some k → base ≤ k ∧ k < w.heap.size := h.1.lt
/-- the row told -/
theorem OwnToks.told {w : World} {base : Nat} {v : Value} {Q : List TkV} (h : OwnToks w base v Q) : ∃ a cap, v = .slice a Q.length cap ∧ IsToks w a Q.length cap (Q.map TkV.t) := by
  have hc := fun g hg => h.1.cells (g := g) hg
  rcases h.1.2 with ⟨rfl, h0⟩ | ⟨g, cap, cur, rfl, hb, hg, hn, hm, hs, htake⟩
  · refine ⟨none, 0, by rw [h0], by simp, by omega, by simp [maxLen], fun i hi => ?_⟩
    rw [List.length_map] at hi; omega
  · refine ⟨_, cap, rfl, by simp, hn, hm, fun i hi => ?_⟩
    have hi' : i < Q.length := by simpa using hi
    obtain ⟨e0, e1, e2, e3, e4⟩ := cellsT_at Q i hi'
    refine ⟨_, Q[i].ad, Q[i].len, Q[i].cap, rfl, ⟨?_, ?_, ?_, ?_, ?_⟩, ?_⟩
    all_goals simp only [List.getElem_map]
    · exact hc g rfl _ _ e0
    · exact hc g rfl _ _ e1
    · exact hc g rfl _ _ e2
    · exact hc g rfl _ _ e3
    · exact hc g rfl _ _ e4
    · exact (h.2 Q[i] (List.getElem_mem hi')).1
/-- one token more -/
theorem toks_push {w W w1 : World} {base : Nat} {v v1 : Value} {Q : List TkV} {q : TkV} (h : OwnToks W base v Q) (hq : AttOk W v q) (hb : Below w.heap.size w W) (hbase : w.heap.size ≤ base)
    (hown : w1.ownsRow base 29 5 v1 (Q.length + 1) (cellsT Q ++ cellsT [q])) (hg : W.grownBy w1 v.ownBlock) (hw : v1.ownBlock = v.ownBlock ∨ v1.ownBlock = some W.heap.size) : OwnToks w1 base v1 (Q ++ [q]) ∧ Below w.heap.size w w1 :=
  ⟨h.app (R := [q]) (fun r hr => by
    simp only [List.mem_cons, List.not_mem_nil, or_false] at hr
    subst hr; exact hq) hown hg hw, hb.grown hg hb.size (fun k hk => Nat.le_trans hbase (h.lt k hk).1)⟩
theorem attOk_text (w : World) (v : Value) (x : Txt) : AttOk w v ⟨⟨0, [], x, [], false⟩, none, 0, 0⟩ := ⟨⟨rfl, Nat.le_refl _, by simp [maxLen], fun i hi => by cases hi⟩, .inl rfl⟩
/-- the attributes of a token that was just read don't lie in the row -/
theorem attOk_new {w w1 : World} {base : Nat} {v : Value} {Q : List TkV} {q : TkV} (h : OwnToks w base v Q) (hr : IsRows w1 q.ad q.len q.cap q.t.attrs) (hf : q.t.attrs = [] ∨ ∀ k, (Value.slice q.ad q.len q.cap).ownBlock = some k → w.heap.size ≤ k) : AttOk w1 v q := by
  refine ⟨hr, ?_⟩
  rcases hf with h0 | h0
  · exact .inl h0
  · refine .inr fun k hk e => ?_
    have := (h.lt k e).2
    have := h0 k hk
    omega
theorem AttOk.below {w w' : World} {v : Value} {q : TkV} (h : AttOk w v q) (hb : Below w.heap.size w w') : AttOk w' v q := ⟨h.1.below hb (Nat.le_refl _), h.2⟩
theorem OwnToks.base {w : World} {base base' : Nat} {v : Value} {Q : List TkV} (h : OwnToks w base v Q) (hb : base' ≤ base) : OwnToks w base' v Q := by
  refine ⟨⟨h.1.1, ?_⟩, h.2⟩
  rcases h.1.2 with h0 | ⟨g, cap, cur, h1, h2, h3⟩
  · exact .inl h0
  · exact .inr ⟨g, cap, cur, h1, Nat.le_trans hb h2, h3⟩
theorem info_tok : (Try.prog.info? 29).map (fun i => (i.zero, i.size, i.bytes)) = some (some (.agg #[.int .i64 0, .string ⟨#[]⟩, .string ⟨#[]⟩, .slice none 0 0, .bool false]), 5, 72) := by kernel_rfl
theorem new_five (wr : World) (q : TkV) (e : TypeId) : ∀ (j : Nat) (u : Value), (cellsT [q])[j]? = some u → (wr.alloc (.cells q.five.toArray e)).cell? ((⟨wr.heap.size, 0, none⟩ : Addr).add j) = some u := by
  intro j u hj
  have e1 : (⟨wr.heap.size, 0, none⟩ : Addr).add j = ⟨wr.heap.size, j, none⟩ := by simp [Addr.add]; omega
  rw [e1, cell_of_row _ _ _ _ _ _ (heap_alloc_new wr _), cellsT_one] at *
  simpa using hj
theorem new_five_at (wr : World) (q : TkV) (e : TypeId) (g : Nat) (hg : wr.heap.size = g) : ∀ (j : Nat) (u : Value), (cellsT [q])[j]? = some u → (wr.alloc (.cells q.five.toArray e)).cell? ((⟨g, 0, none⟩ : Addr).add j) = some u := by
  subst hg; exact new_five wr q e
theorem five_one (q : TkV) : ∀ u ∈ cellsT [q], u.oneCell' = true := by
  intro u hu
  rw [cellsT_one] at hu
  simp [TkV.five] at hu
  rcases hu with rfl | rfl | rfl | rfl | rfl <;> rfl
theorem five_ones (Q : List TkV) : ∀ u ∈ cellsT Q, u.oneCell' = true := by
  intro u hu
  unfold cellsT at hu
  obtain ⟨q, -, hq⟩ := List.mem_flatMap.1 hu
  simp [TkV.five] at hq
  rcases hq with rfl | rfl | rfl | rfl | rfl <;> rfl
end Go.Proofs.Ytappdjhhaohejaa
