/-
  Texts laid together: Toks, TkAll, TkMath, TkLaws, TkFew, TkHeads.
-/
import Derived.Test.YtbcmfcddkegcoaaGreatDoorPT
import Derived.Maps.AppendAt
import Derived.Below
import Derived.Deep.RegionHeld3
import Derived.Test.YtbcmfcddkegcoaaGreatDoorQA
import Derived.KernelRfl
/-! Lists of tokens in memory: a slice that reads as a list of tokens, and rows of the call's own that grow by tokens. -/
namespace Go.Proofs.YtbcmfcddkegcoaaGreatDoor
open Go.RowKit Go.Lib

/-- a token, and where its attributes lie -/
structure TkV where
  t : TokP
  ad : Option Addr
  len : Nat
  cap : Nat
def TkV.five (q : TkV) : List Value := [.int .i64 q.t.kind, .string ⟨q.t.name.toArray⟩, .string ⟨q.t.text.toArray⟩, .slice q.ad q.len q.cap, .bool q.t.self]
def cellsT (Q : List TkV) : List Value := Q.flatMap TkV.five
theorem cellsT_cons (q : TkV) (Q : List TkV) : cellsT (q :: Q) = .int .i64 q.t.kind :: .string ⟨q.t.name.toArray⟩ :: .string ⟨q.t.text.toArray⟩ :: .slice q.ad q.len q.cap :: .bool q.t.self :: cellsT Q := rfl
theorem cellsT_add (Q R : List TkV) : cellsT Q ++ cellsT R = cellsT (Q ++ R) := by simp [cellsT]
theorem cellsT_one (q : TkV) : cellsT [q] = q.five := by simp [cellsT]
theorem cellsT_len (Q : List TkV) : (cellsT Q).length = Q.length * 5 := by
  induction Q with
  | nil => rfl
  | cons q Q ih => rw [cellsT_cons]; simp only [List.length_cons, ih]; omega
theorem cellsT_at : ∀ (Q : List TkV) (i : Nat) (h : i < Q.length), (cellsT Q)[i * 5]? = some (.int .i64 Q[i].t.kind) ∧ (cellsT Q)[i * 5 + 1]? = some (.string ⟨Q[i].t.name.toArray⟩) ∧ (cellsT Q)[i * 5 + 2]? = some (.string ⟨Q[i].t.text.toArray⟩) ∧
    (cellsT Q)[i * 5 + 3]? = some (.slice Q[i].ad Q[i].len Q[i].cap) ∧ (cellsT Q)[i * 5 + 4]? = some (.bool Q[i].t.self)
  | q :: Q, 0, _ => ⟨rfl, rfl, rfl, rfl, rfl⟩
  | q :: Q, i + 1, h => by
    obtain ⟨a, b, c, d, e⟩ := cellsT_at Q i (by simpa using h)
    rw [cellsT_cons, show (i + 1) * 5 = i * 5 + 1 + 1 + 1 + 1 + 1 by omega]
    simp only [List.getElem_cons_succ]
    refine ⟨?_, ?_, ?_, ?_, ?_⟩
    · simp only [List.getElem?_cons_succ]; exact a
    · rw [show i * 5 + 1 + 1 + 1 + 1 + 1 + 1 = i * 5 + 1 + 1 + 1 + 1 + 1 + 1 from rfl]; simp only [List.getElem?_cons_succ]; exact b
    · rw [show i * 5 + 1 + 1 + 1 + 1 + 1 + 2 = i * 5 + 2 + 1 + 1 + 1 + 1 + 1 by omega]; simp only [List.getElem?_cons_succ]; exact c
    · rw [show i * 5 + 1 + 1 + 1 + 1 + 1 + 3 = i * 5 + 3 + 1 + 1 + 1 + 1 + 1 by omega]; simp only [List.getElem?_cons_succ]; exact d
    · rw [show i * 5 + 1 + 1 + 1 + 1 + 1 + 4 = i * 5 + 4 + 1 + 1 + 1 + 1 + 1 by omega]; simp only [List.getElem?_cons_succ]; exact e

/-- the five cells of token i behind an address -/
structure TokCells (w : World) (x : Addr) (i : Nat) (q : TkV) : Prop where
  c0 : w.cell? (x.add (i * 5)) = some (.int .i64 q.t.kind)
  c1 : w.cell? (x.add (i * 5 + 1)) = some (.string ⟨q.t.name.toArray⟩)
  c2 : w.cell? (x.add (i * 5 + 2)) = some (.string ⟨q.t.text.toArray⟩)
  c3 : w.cell? (x.add (i * 5 + 3)) = some (.slice q.ad q.len q.cap)
  c4 : w.cell? (x.add (i * 5 + 4)) = some (.bool q.t.self)
theorem TokCells.below {w w' : World} {B : Nat} {x : Addr} {i : Nat} {q : TkV} (h : TokCells w x i q) (hb : Below B w w') (hB : w.heap.size ≤ B) : TokCells w' x i q := by
  have k : ∀ {a v}, w.cell? a = some v → w'.cell? a = some v := fun {a v} ha => (hb.cell (by have := block_lt_of_cell ha; omega)).trans ha
  exact ⟨k h.c0, k h.c1, k h.c2, k h.c3, k h.c4⟩
theorem add_more (x : Addr) (n k : Nat) : x.add (n + (k + 1)) = ⟨(x.add n).block, (x.add n).off + (k + 1), none⟩ := by
  unfold Addr.add
  by_cases h : n = 0
  · subst h; simp
  · rw [if_neg h, if_neg (by omega)]; simp; omega
/-- as the walk asks them -/
theorem TokCells.asked {w : World} {x : Addr} {i : Nat} {q : TkV} (h : TokCells w x i q) :
    w.cell? (x.add (i * 5)) = some (.int .i64 q.t.kind) ∧ w.cell? ⟨(x.add (i * 5)).block, (x.add (i * 5)).off + 1, none⟩ = some (.string ⟨q.t.name.toArray⟩) ∧ w.cell? ⟨(x.add (i * 5)).block, (x.add (i * 5)).off + 2, none⟩ = some (.string ⟨q.t.text.toArray⟩) ∧
    w.cell? ⟨(x.add (i * 5)).block, (x.add (i * 5)).off + 3, none⟩ = some (.slice q.ad q.len q.cap) ∧ w.cell? ⟨(x.add (i * 5)).block, (x.add (i * 5)).off + 4, none⟩ = some (.bool q.t.self) :=
  ⟨h.c0, by rw [← add_more x _ 0]; exact h.c1, by rw [← add_more x _ 1]; exact h.c2, by rw [← add_more x _ 2]; exact h.c3, by rw [← add_more x _ 3]; exact h.c4⟩

/-- a slice that reads as a list of tokens -/
def IsToks (w : World) (a : Option Addr) (len cap : Nat) (L : List TokP) : Prop :=
  L.length = len ∧ len ≤ cap ∧ cap ≤ maxLen ∧ ∀ i (h : i < L.length), ∃ x ad ln cp, a = some x ∧ TokCells w x i ⟨L[i], ad, ln, cp⟩ ∧ IsRows w ad ln cp L[i].attrs
theorem IsToks.below {w w' : World} {B : Nat} {a : Option Addr} {len cap : Nat} {L : List TokP} (h : IsToks w a len cap L) (hb : Below B w w') (hB : w.heap.size ≤ B) : IsToks w' a len cap L := by
  refine ⟨h.1, h.2.1, h.2.2.1, fun i hi => ?_⟩
  obtain ⟨x, ad, ln, cp, hx, h1, h2⟩ := h.2.2.2 i hi
  exact ⟨x, ad, ln, cp, hx, h1.below hb hB, h2.below hb hB⟩
/-- a token's attributes stay where a row grows -/
def AttOk (w : World) (v : Value) (q : TkV) : Prop :=
  IsRows w q.ad q.len q.cap q.t.attrs ∧ (q.t.attrs = [] ∨ ∀ k, (Value.slice q.ad q.len q.cap).ownBlock = some k → v.ownBlock ≠ some k)
/-- a row of tokens of the call's own -/
def OwnToks (w : World) (base : Nat) (v : Value) (Q : List TkV) : Prop :=
  w.ownsRow base 31 5 v Q.length (cellsT Q) ∧ ∀ q ∈ Q, AttOk w v q
theorem ownToks_nil (w : World) (base : Nat) : OwnToks w base (.slice none 0 0) [] := ⟨World.ownsRow_nil _ _ _ _, fun q h => by cases h⟩
theorem rows_same {w w' : World} {q : TkV} {v : Value} (h : AttOk w v q) (hg : w.grownBy w' v.ownBlock) : IsRows w' q.ad q.len q.cap q.t.attrs := by
  obtain ⟨h1, h2⟩ := h
  rcases h2 with h0 | h2
  · rw [h0] at h1 ⊢
    exact ⟨h1.1, h1.2.1, h1.2.2.1, fun i hi => by cases hi⟩
  refine ⟨h1.1, h1.2.1, h1.2.2.1, fun i hi => ?_⟩
  obtain ⟨x, hx, c1, c2⟩ := h1.2.2.2 i hi
  have hb : ∀ n, (x.add n).block = x.block := fun n => by unfold Addr.add; split <;> rfl
  have hne := h2 x.block (by rw [hx]; rfl)
  have hlt : x.block < w.heap.size := by
    have := block_lt_of_cell c1
    rwa [hb] at this
  have hc : ∀ n, w'.cell? (x.add n) = w.cell? (x.add n) := fun n => World.cell?_of_block (by
    rw [hb]; exact hg.block x.block hlt (fun e => hne e.symm))
  exact ⟨x, hx, by rw [hc]; exact c1, by rw [hc]; exact c2⟩
/-- the row behind one append -/
theorem OwnToks.app {w w' : World} {base : Nat} {v v' : Value} {Q R : List TkV} (h : OwnToks w base v Q) (hR : ∀ q ∈ R, AttOk w v q)
    (hown : w'.ownsRow base 31 5 v' (Q.length + R.length) (cellsT Q ++ cellsT R)) (hg : w.grownBy w' v.ownBlock) (hw : v'.ownBlock = v.ownBlock ∨ v'.ownBlock = some w.heap.size) : OwnToks w' base v' (Q ++ R) := by
  refine ⟨by rw [List.length_append, ← cellsT_add]; exact hown, fun q hq => ?_⟩
  have hq' : AttOk w v q := by
    rcases List.mem_append.1 hq with h1 | h1
    · exact h.2 q h1
    · exact hR q h1
  refine ⟨rows_same hq' hg, ?_⟩
  rcases hq'.2 with h0 | h0
  · exact .inl h0
  · by_cases he : q.t.attrs = []
    · exact .inl he
    · refine .inr fun k hk => ?_
      rcases hw with h1 | h1
      · rw [h1]; exact h0 k hk
      · rw [h1]
        obtain ⟨x, hx, c1, -⟩ := hq'.1.2.2.2 0 (List.length_pos_iff.2 he)
        have hlt := block_lt_of_cell c1
        rw [show (x.add (0 * 2)).block = x.block by unfold Addr.add; split <;> rfl] at hlt
        rw [hx] at hk
        have : x.block = k := by simpa [Value.ownBlock] using hk
        intro e
        have := Option.some.inj e
        omega
theorem OwnToks.below {w w' : World} {base : Nat} {v : Value} {Q : List TkV} (h : OwnToks w base v Q) (hb : Below w.heap.size w w') : OwnToks w' base v Q :=
  ⟨h.1.kept (row := none) ⟨hb.os, hb.tape, hb.output, hb.size, fun k hk _ => hb.block k hk⟩ (Classical.em _), fun q hq => ⟨(h.2 q hq).1.below hb (Nat.le_refl _), (h.2 q hq).2⟩⟩
theorem OwnToks.alloc {w : World} {base : Nat} {v : Value} {Q : List TkV} (h : OwnToks w base v Q) (o : Obj) : OwnToks (w.alloc o) base v Q := h.below ((Below.refl _ w).alloc (Nat.le_refl _) o)
theorem OwnToks.lt {w : World} {base : Nat} {v : Value} {Q : List TkV} (h : OwnToks w base v Q) : ∀ k, v.ownBlock = some k → base ≤ k ∧ k < w.heap.size := h.1.lt
/-- the row told -/
theorem OwnToks.told {w : World} {base : Nat} {v : Value} {Q : List TkV} (h : OwnToks w base v Q) : ∃ a cap, v = .slice a Q.length cap ∧ IsToks w a Q.length cap (Q.map TkV.t) := by
  have hc := fun g hg => h.1.cells (g := g) hg
  rcases h.1.2 with ⟨rfl, h0⟩ | ⟨g, cap, cur, rfl, hb, hg, hn, hm, hs, htake⟩
  · refine ⟨none, 0, by rw [h0], by simp, by omega, by simp [maxLen], fun i hi => ?_⟩
    rw [List.length_map] at hi; omega
  · refine ⟨_, cap, rfl, by simp, hn, hm, fun i hi => ?_⟩
    have hi' : i < Q.length := by simpa using hi
    obtain ⟨e0, e1, e2, e3, e4⟩ := cellsT_at Q i hi'
    refine ⟨_, Q[i].ad, Q[i].len, Q[i].cap, rfl, ⟨?_, ?_, ?_, ?_, ?_⟩, ?_⟩
    all_goals simp only [List.getElem_map]
    · exact hc g rfl _ _ e0
    · exact hc g rfl _ _ e1
    · exact hc g rfl _ _ e2
    · exact hc g rfl _ _ e3
    · exact hc g rfl _ _ e4
    · exact (h.2 Q[i] (List.getElem_mem hi')).1
/-- one token more -/
theorem toks_push {w W w1 : World} {base : Nat} {v v1 : Value} {Q : List TkV} {q : TkV} (h : OwnToks W base v Q) (hq : AttOk W v q) (hb : Below w.heap.size w W) (hbase : w.heap.size ≤ base)
    (hown : w1.ownsRow base 31 5 v1 (Q.length + 1) (cellsT Q ++ cellsT [q])) (hg : W.grownBy w1 v.ownBlock) (hw : v1.ownBlock = v.ownBlock ∨ v1.ownBlock = some W.heap.size) : OwnToks w1 base v1 (Q ++ [q]) ∧ Below w.heap.size w w1 :=
  ⟨h.app (R := [q]) (fun r hr => by
    simp only [List.mem_cons, List.not_mem_nil, or_false] at hr
    subst hr; exact hq) hown hg hw, hb.grown hg hb.size (fun k hk => Nat.le_trans hbase (h.lt k hk).1)⟩
theorem attOk_text (w : World) (v : Value) (x : Txt) : AttOk w v ⟨⟨0, [], x, [], false⟩, none, 0, 0⟩ := ⟨⟨rfl, Nat.le_refl _, by simp [maxLen], fun i hi => by cases hi⟩, .inl rfl⟩
/-- the attributes of a token that was just read don't lie in the row -/
theorem attOk_new {w w1 : World} {base : Nat} {v : Value} {Q : List TkV} {q : TkV} (h : OwnToks w base v Q) (hr : IsRows w1 q.ad q.len q.cap q.t.attrs) (hf : q.t.attrs = [] ∨ ∀ k, (Value.slice q.ad q.len q.cap).ownBlock = some k → w.heap.size ≤ k) : AttOk w1 v q := by
  refine ⟨hr, ?_⟩
  rcases hf with h0 | h0
  · exact .inl h0
  · refine .inr fun k hk e => ?_
    have := (h.lt k e).2
    have := h0 k hk
    omega
theorem AttOk.below {w w' : World} {v : Value} {q : TkV} (h : AttOk w v q) (hb : Below w.heap.size w w') : AttOk w' v q := ⟨h.1.below hb (Nat.le_refl _), h.2⟩
theorem OwnToks.base {w : World} {base base' : Nat} {v : Value} {Q : List TkV} (h : OwnToks w base v Q) (hb : base' ≤ base) : OwnToks w base' v Q := by
  refine ⟨⟨h.1.1, ?_⟩, h.2⟩
  rcases h.1.2 with h0 | ⟨g, cap, cur, h1, h2, h3⟩
  · exact .inl h0
  · exact .inr ⟨g, cap, cur, h1, Nat.le_trans hb h2, h3⟩
theorem info_tok : (Tryz.prog.info? 31).map (fun i => (i.zero, i.size, i.bytes)) = some (some (.agg #[.int .i64 0, .string ⟨#[]⟩, .string ⟨#[]⟩, .slice none 0 0, .bool false]), 5, 72) := by kernel_rfl
theorem new_five (wr : World) (q : TkV) (e : TypeId) : ∀ (j : Nat) (u : Value), (cellsT [q])[j]? = some u → (wr.alloc (.cells q.five.toArray e)).cell? ((⟨wr.heap.size, 0, none⟩ : Addr).add j) = some u := by
  intro j u hj
  have e1 : (⟨wr.heap.size, 0, none⟩ : Addr).add j = ⟨wr.heap.size, j, none⟩ := by simp [Addr.add]; omega
  rw [e1, cell_of_row _ _ _ _ _ _ (heap_alloc_new wr _), cellsT_one] at *
  simpa using hj
theorem new_five_at (wr : World) (q : TkV) (e : TypeId) (g : Nat) (hg : wr.heap.size = g) : ∀ (j : Nat) (u : Value), (cellsT [q])[j]? = some u → (wr.alloc (.cells q.five.toArray e)).cell? ((⟨g, 0, none⟩ : Addr).add j) = some u := by
  subst hg; exact new_five wr q e
theorem five_one (q : TkV) : ∀ u ∈ cellsT [q], u.oneCell' = true := by
  intro u hu
  rw [cellsT_one] at hu
  simp [TkV.five] at hu
  rcases hu with rfl | rfl | rfl | rfl | rfl <;> rfl
theorem five_ones (Q : List TkV) : ∀ u ∈ cellsT Q, u.oneCell' = true := by
  intro u hu
  unfold cellsT at hu
  obtain ⟨q, -, hq⟩ := List.mem_flatMap.1 hu
  simp [TkV.five] at hq
  rcases hq with rfl | rfl | rfl | rfl | rfl <;> rfl
end Go.Proofs.YtbcmfcddkegcoaaGreatDoor

/-! What the document's All of layer 9 answers for two lists of tokens. -/
namespace Go.Proofs.YtbcmfcddkegcoaaGreatDoor
open Go.RowKit Go.Lib

end Go.Proofs.YtbcmfcddkegcoaaGreatDoor

/-! A text's pieces: plain mathematics. -/
namespace Go.Proofs.YtbcmfcddkegcoaaGreatDoor
open Go.RowKit Go.Lib

def txtT (x : Txt) : TokP := ⟨0, [], x, [], false⟩
/-- P15.1, of what stands at a place: a piece, how many bytes, whether there is one -/
noncomputable def nx (l : Txt) : TokP × Nat × Bool :=
  if begT l ≠ 0 then (match tagR l with | none => (zeroT, l.length, false) | some (t, n) => (t, n, true))
  else if begC l = true then (comT (comR l).1, (comR l).2, true)
  else if begD l = true then (dctT ((l.drop 9).takeWhile (· != 62)), (if seekP (· != 62) l 9 < l.length then seekP (· != 62) l 9 + 1 else l.length), true)
  else if begE l = true then (zeroT, 3, false)
  else if nextN l = 0 then (zeroT, 0, false)
  else (txtT (ddL false (l.take (nextN l))), nextN l, true)
noncomputable def nxV (s : Txt) (a : Int) : TokP × Int × Bool := ((nx (s.drop (atN s a))).1, ((atN s a + (nx (s.drop (atN s a))).2.1 : Nat) : Int), (nx (s.drop (atN s a))).2.2)
/-- P15.4 -/
def emitT (says : Txt) : List TokP := if says = [] then [] else [txtT says]
def joinA (says : Txt) : List TokP → List TokP
  | [] => emitT says
  | t :: L => if t.kind = 0 then joinA (says ++ t.text) L else emitT says ++ t :: joinA [] L
def joinL (L : List TokP) : List TokP := joinA [] L
/-- P15.2: where a text ends in its state, of what stands at a place; what it says -/
def endN15 (st : Int) (nm l : Txt) : Nat := if st = 1 ∨ st = 2 then findL nm l else if st = 3 then (scrV 0 0 l).1 else l.length
noncomputable def saysR (st : Int) (nm l : Txt) : Txt := rawT (decide (st = 1)) (l.take (endN15 st nm l))
/-- pieces to the tag's end, and how many bytes -/
noncomputable def restK (st : Int) (nm l : Txt) : List TokP × Nat :=
  if 1 ≤ st ∧ st ≤ 4 then
    (if endN15 st nm l = l.length then (emitT (saysR st nm l), l.length)
     else if begT (l.drop (endN15 st nm l)) ≠ 0 then (match tagR (l.drop (endN15 st nm l)) with
       | none => (emitT (saysR st nm l), l.length)
       | some (t, n) => (emitT (saysR st nm l) ++ [t], endN15 st nm l + n))
     else (emitT (saysR st nm l), endN15 st nm l))
  else ([], 0)
noncomputable def restV (st : Int) (nm s : Txt) (a : Int) : List TokP × Nat := ((restK st nm (s.drop (atN s a))).1, atN s a + (restK st nm (s.drop (atN s a))).2)
theorem nx_tag (l : Txt) (h : begT l ≠ 0) : nx l = (match tagR l with | none => (zeroT, l.length, false) | some (t, n) => (t, n, true)) := by
  unfold nx; rw [if_pos h]
/-- the six ways -/
theorem nx_cases (l : Txt) : (begT l ≠ 0 ∧ tagR l = none ∧ nx l = (zeroT, l.length, false)) ∨ (begT l ≠ 0 ∧ ∃ t n, tagR l = some (t, n) ∧ nx l = (t, n, true)) ∨
    (begT l = 0 ∧ begC l = true ∧ nx l = (comT (comR l).1, (comR l).2, true)) ∨
    (begT l = 0 ∧ begC l = false ∧ begD l = true ∧ nx l = (dctT ((l.drop 9).takeWhile (· != 62)), (if seekP (· != 62) l 9 < l.length then seekP (· != 62) l 9 + 1 else l.length), true)) ∨
    (begT l = 0 ∧ begC l = false ∧ begD l = false ∧ begE l = true ∧ nx l = (zeroT, 3, false)) ∨
    (begT l = 0 ∧ begC l = false ∧ begD l = false ∧ begE l = false ∧ mkB l = false ∧ nextN l = 0 ∧ l = [] ∧ nx l = (zeroT, 0, false)) ∨
    (begT l = 0 ∧ begC l = false ∧ begD l = false ∧ begE l = false ∧ mkB l = false ∧ 1 ≤ nextN l ∧ nx l = (txtT (ddL false (l.take (nextN l))), nextN l, true)) := by
  by_cases hT : begT l = 0
  · have e1 : nx l = (if begC l = true then (comT (comR l).1, (comR l).2, true) else if begD l = true then (dctT ((l.drop 9).takeWhile (· != 62)), (if seekP (· != 62) l 9 < l.length then seekP (· != 62) l 9 + 1 else l.length), true) else if begE l = true then (zeroT, 3, false) else if nextN l = 0 then (zeroT, 0, false) else (txtT (ddL false (l.take (nextN l))), nextN l, true)) := by
      unfold nx; rw [if_neg (by rw [hT]; decide)]
    cases hC : begC l
    · rw [hC, if_neg Bool.false_ne_true] at e1
      cases hD : begD l
      · rw [hD, if_neg Bool.false_ne_true] at e1
        cases hE : begE l
        · rw [hE, if_neg Bool.false_ne_true] at e1
          have hm : mkB l = false := by unfold mkB; rw [hC, hD, hE, hT]; rfl
          by_cases hN : nextN l = 0
          · rw [if_pos hN] at e1
            have hl : l = [] := by
              cases l with
              | nil => rfl
              | cons c t => rw [nextN, hm, if_neg Bool.false_ne_true] at hN; omega
            exact .inr (.inr (.inr (.inr (.inr (.inl ⟨hT, rfl, rfl, rfl, hm, hN, hl, e1⟩)))))
          · rw [if_neg hN] at e1
            exact .inr (.inr (.inr (.inr (.inr (.inr ⟨hT, rfl, rfl, rfl, hm, by omega, e1⟩)))))
        · rw [hE, if_pos rfl] at e1
          exact .inr (.inr (.inr (.inr (.inl ⟨hT, rfl, rfl, rfl, e1⟩))))
      · rw [hD, if_pos rfl] at e1
        exact .inr (.inr (.inr (.inl ⟨hT, rfl, rfl, e1⟩)))
    · rw [hC, if_pos rfl] at e1
      exact .inr (.inr (.inl ⟨hT, rfl, e1⟩))
  · have e1 := nx_tag l hT
    cases hr : tagR l with
    | none => rw [hr] at e1; exact .inl ⟨hT, rfl, e1⟩
    | some r => obtain ⟨t, n⟩ := r; rw [hr] at e1; exact .inr (.inl ⟨hT, t, n, rfl, e1⟩)
theorem nx_in (l : Txt) : (nx l).2.1 ≤ l.length ∧ (l ≠ [] → 1 ≤ (nx l).2.1) := by
  have hlen : l ≠ [] → 1 ≤ l.length := fun h => List.length_pos_iff.2 h
  rcases nx_cases l with ⟨h, -, e⟩ | ⟨h, t, n, hr, e⟩ | ⟨-, h, e⟩ | ⟨-, -, h, e⟩ | ⟨-, -, -, h, e⟩ | ⟨-, -, -, -, -, -, h, e⟩ | ⟨-, -, -, -, -, h, e⟩
  all_goals rw [e]; simp only
  · exact ⟨Nat.le_refl _, hlen⟩
  · obtain ⟨h1, h2, -⟩ := tag_ends l t n hr
    exact ⟨h2, fun _ => by omega⟩
  · have := told_rest l [] h
    exact ⟨this.2.1, fun _ => by omega⟩
  · have := begD_len l h
    split
    · exact ⟨by omega, fun _ => by omega⟩
    · exact ⟨Nat.le_refl _, hlen⟩
  · have := (List.isPrefixOf_iff_prefix.1 h).length_le
    exact ⟨this, fun _ => by omega⟩
  · subst h; exact ⟨Nat.zero_le _, fun h => absurd rfl h⟩
  · exact ⟨next_le l, fun _ => h⟩
/-! joined -/
theorem join_mark (t : TokP) (L : List TokP) (h : t.kind ≠ 0) : joinL (t :: L) = t :: joinL L := by
  unfold joinL; rw [joinA, if_neg h]; rfl
/-- no two texts side by side, none that says nothing -/
inductive Parted : List TokP → Prop
  | nil : Parted []
  | mark (t : TokP) (L : List TokP) : t.kind ≠ 0 → Parted L → Parted (t :: L)
  | text (x : Txt) (L : List TokP) : x ≠ [] → Parted L → (∀ t, L.head? = some t → t.kind ≠ 0) → Parted (txtT x :: L)
/-! for any place -/
theorem seek_shift (p : UInt8 → Bool) (s : Txt) (k i : Nat) : seekP p s (k + i) = k + seekP p (s.drop k) i := by
  unfold seekP; rw [List.drop_drop]; omega
theorem nxV_clamp (s : Txt) (a : Int) : nxV s a = nxV s ((atN s a : Nat) : Int) := by
  unfold nxV; rw [atN_in s _ (atN_le s a)]
theorem com_attrs (s : Txt) (a : Int) : (comV s a).1.attrs = [] := by unfold comV; split <;> rfl
theorem dct_attrs (s : Txt) (a : Int) : (dctV s a).1.attrs = [] := by unfold dctV; split <;> rfl
/-- the ways, as they are asked for -/
theorem nx_told (s : Txt) (k : Nat) (hk : k ≤ s.length) :
    (begV s (k : Int) = true ∧ nxV s (k : Int) = tagV s (k : Int)) ∨ (begV s (k : Int) = false ∧ cbegV s (k : Int) = true ∧ nxV s (k : Int) = comV s (k : Int)) ∨
    (begV s (k : Int) = false ∧ cbegV s (k : Int) = false ∧ dbegV s (k : Int) = true ∧ nxV s (k : Int) = dctV s (k : Int)) ∨
    (begV s (k : Int) = false ∧ cbegV s (k : Int) = false ∧ dbegV s (k : Int) = false ∧ ebegV s (k : Int) = true ∧ nxV s (k : Int) = (zeroT, (k : Int) + 3, false)) ∨
    (begV s (k : Int) = false ∧ cbegV s (k : Int) = false ∧ dbegV s (k : Int) = false ∧ ebegV s (k : Int) = false ∧ nextV s (k : Int) = k ∧ nxV s (k : Int) = (zeroT, (k : Int), false)) ∨
    (begV s (k : Int) = false ∧ cbegV s (k : Int) = false ∧ dbegV s (k : Int) = false ∧ ebegV s (k : Int) = false ∧ k < nextV s (k : Int) ∧ nxV s (k : Int) = (txtT (txtV s (k : Int)), (nextV s (k : Int) : Int), true)) := by
  have hn : nxV s (k : Int) = ((nx (s.drop k)).1, ((k + (nx (s.drop k)).2.1 : Nat) : Int), (nx (s.drop k)).2.2) := by
    unfold nxV; rw [atN_in s k hk]
  have he : ebegV s (k : Int) = begE (s.drop k) := by
    unfold ebegV
    rw [show decide (0 ≤ (k : Int)) = true from decide_eq_true (by omega), Bool.true_and, show ((k : Nat) : Int).toNat = k by omega]
  have hx : nextV s (k : Int) = k + nextN (s.drop k) := by unfold nextV; rw [atN_in s k hk]
  have hd : (s.drop k).length = s.length - k := List.length_drop
  rw [beg_in, cbeg_in, dbeg_in, he, hx, hn]
  rcases nx_cases (s.drop k) with ⟨h, hr, e⟩ | ⟨h, t, n, hr, e⟩ | ⟨h0, h, e⟩ | ⟨h0, h1, h, e⟩ | ⟨h0, h1, h2, h, e⟩ | ⟨h0, h1, h2, h3, -, hN, h, e⟩ | ⟨h0, h1, h2, h3, -, h, e⟩
  all_goals rw [e]
  · refine .inl ⟨decide_eq_true h, ?_⟩
    rw [tag_none s k h hr, hd]
    simp only [Prod.mk.injEq, true_and, and_true]; omega
  · exact .inl ⟨decide_eq_true h, by rw [tag_some s k h t n hr]⟩
  · exact .inr (.inl ⟨by rw [h0]; rfl, h, by rw [com_in s k h]⟩)
  · refine .inr (.inr (.inl ⟨by rw [h0]; rfl, h1, h, ?_⟩))
    rw [dct_in s k h, seek_shift, List.drop_drop, hd]
    simp only [Prod.mk.injEq, true_and, and_true]
    split <;> split <;> omega
  · exact .inr (.inr (.inr (.inl ⟨by rw [h0]; rfl, h1, h2, h, by simp only [Prod.mk.injEq, true_and, and_true]; omega⟩)))
  · exact .inr (.inr (.inr (.inr (.inl ⟨by rw [h0]; rfl, h1, h2, h3, by omega, by simp only [Prod.mk.injEq, true_and, and_true]; omega⟩))))
  · refine .inr (.inr (.inr (.inr (.inr ⟨by rw [h0]; rfl, h1, h2, h3, by omega, ?_⟩))))
    unfold txtV
    rw [atN_in s k hk]
/-- no text of a piece is long -/
theorem nx_text (l : Txt) : (nx l).1.text.length ≤ 3 * (l.length + 1) := by
  rcases nx_cases l with ⟨h, -, e⟩ | ⟨h, t, n, hr, e⟩ | ⟨-, h, e⟩ | ⟨-, -, h, e⟩ | ⟨-, -, -, h, e⟩ | ⟨-, -, -, -, -, -, h, e⟩ | ⟨-, -, -, -, -, h, e⟩
  all_goals rw [e]; simp only
  · simp [zeroT]
  · obtain ⟨-, -, -, al, self, ht, -⟩ := tag_ends l t n hr
    rw [ht]; unfold tokT
    split <;> simp
  · have h1 := (told_rest l [] h).2.2.1
    have h2 := (cleanL_len (comR l).1).2
    show (cleanL (comR l).1).length ≤ _
    omega
  · have h1 := (List.takeWhile_sublist (l := l.drop 9) (· != 62)).length_le
    have h2 := (cleanL_len ((l.drop 9).takeWhile (· != 62))).2
    rw [List.length_drop] at h1
    show (cleanL ((l.drop 9).takeWhile (· != 62))).length ≤ _
    omega
  · simp [zeroT]
  · simp [zeroT]
  · have h2 := dd_len false _ (l.take (nextN l)) (Nat.le_refl _)
    rw [List.length_take] at h2
    show (ddL false (l.take (nextN l))).length ≤ _
    omega
theorem says_text (st : Int) (nm l : Txt) : (saysR st nm l).length ≤ 9 * l.length := by
  unfold saysR rawT
  have h1 : (l.take (endN15 st nm l)).length ≤ l.length := by rw [List.length_take]; omega
  split
  · have h2 := (cleanL_len (ddL false (l.take (endN15 st nm l)))).2
    have h3 := dd_len false _ (l.take (endN15 st nm l)) (Nat.le_refl _)
    omega
  · have h2 := (cleanL_len (l.take (endN15 st nm l))).2
    omega
theorem endN_le (st : Int) (nm l : Txt) : endN15 st nm l ≤ l.length := by
  unfold endN15
  split
  · exact (find_is nm l).1
  · split
    · exact (scr_is 0 0 l (by decide)).1
    · exact Nat.le_refl _
/-- what is read to a tag's end, as it is asked for -/
theorem rest_told (st : Int) (nm s : Txt) (k : Nat) (hk : k ≤ s.length) (hst : 1 ≤ st ∧ st ≤ 4) :
    k + endN15 st nm (s.drop k) ≤ s.length ∧
    (k + endN15 st nm (s.drop k) = s.length → restV st nm s (k : Int) = (emitT (saysR st nm (s.drop k)), k + endN15 st nm (s.drop k))) ∧
    (k + endN15 st nm (s.drop k) < s.length → ∀ t n ok, tagV s ((k + endN15 st nm (s.drop k) : Nat) : Int) = (t, n, ok) → (restV st nm s (k : Int)).1 = emitT (saysR st nm (s.drop k)) ++ (if ok = true then [t] else []) ∧ ((restV st nm s (k : Int)).2 : Int) = n) := by
  have hle := endN_le st nm (s.drop k)
  rw [List.length_drop] at hle
  have hd : (s.drop k).length = s.length - k := List.length_drop
  have hr : restV st nm s (k : Int) = ((restK st nm (s.drop k)).1, k + (restK st nm (s.drop k)).2) := by unfold restV; rw [atN_in s k hk]
  rw [hr]
  unfold restK
  rw [if_pos hst]
  refine ⟨by omega, fun h => ?_, fun h t n ok ht => ?_⟩
  · rw [if_pos (by omega)]
    simp only [Prod.mk.injEq, true_and]; omega
  · rw [if_neg (by omega)]
    have hdd : (s.drop k).drop (endN15 st nm (s.drop k)) = s.drop (k + endN15 st nm (s.drop k)) := List.drop_drop
    rw [hdd]
    by_cases hb : begT (s.drop (k + endN15 st nm (s.drop k))) = 0
    · rw [if_neg (by rw [hb]; decide)]
      rw [(tag_out s _ (fun h => by
        rw [show (((k + endN15 st nm (s.drop k) : Nat) : Int)).toNat = k + endN15 st nm (s.drop k) by omega] at h
        exact h.2 hb)).1] at ht
      simp only [Prod.mk.injEq] at ht
      obtain ⟨-, rfl, rfl⟩ := ht
      exact ⟨by simp, rfl⟩
    · rw [if_pos hb]
      cases hx : tagR (s.drop (k + endN15 st nm (s.drop k))) with
      | none =>
        rw [tag_none s _ hb hx] at ht
        simp only [Prod.mk.injEq] at ht
        obtain ⟨-, rfl, rfl⟩ := ht
        exact ⟨by simp, by simp only; omega⟩
      | some r =>
        obtain ⟨u, m⟩ := r
        rw [tag_some s _ hb u m hx] at ht
        simp only [Prod.mk.injEq] at ht
        obtain ⟨rfl, rfl, rfl⟩ := ht
        exact ⟨by simp, by simp only; omega⟩
theorem rest_none (st : Int) (nm s : Txt) (k : Nat) (hk : k ≤ s.length) (hst : ¬ (1 ≤ st ∧ st ≤ 4)) : restV st nm s (k : Int) = ([], k) := by
  unfold restV restK
  rw [atN_in s k hk, if_neg hst]; rfl
theorem restV_clamp (st : Int) (nm s : Txt) (a : Int) : restV st nm s a = restV st nm s ((atN s a : Nat) : Int) := by
  unfold restV; rw [atN_in s _ (atN_le s a)]
theorem emit_text (x : Txt) (t : TokP) (h : t ∈ emitT x) : t.text = x := by
  unfold emitT at h
  split at h
  · cases h
  · simp only [List.mem_cons, List.not_mem_nil, or_false] at h
    rw [h]; rfl
theorem tag_text (l : Txt) (t : TokP) (n : Nat) (hr : tagR l = some (t, n)) : t.text = [] := by
  obtain ⟨-, -, -, al, self, ht, -⟩ := tag_ends l t n hr
  rw [ht]; unfold tokT
  split <;> rfl
theorem rest_in (st : Int) (nm l : Txt) : (restK st nm l).2 ≤ l.length ∧ ∀ t ∈ (restK st nm l).1, t.text.length ≤ 9 * l.length := by
  have h0 := endN_le st nm l
  have hs := says_text st nm l
  have he : ∀ t ∈ emitT (saysR st nm l), t.text.length ≤ 9 * l.length := fun t h => by rw [emit_text _ _ h]; exact hs
  unfold restK
  split
  · split
    · exact ⟨Nat.le_refl _, he⟩
    · split
      · cases hr : tagR (l.drop (endN15 st nm l)) with
        | none => exact ⟨Nat.le_refl _, he⟩
        | some r =>
          obtain ⟨t, n⟩ := r
          obtain ⟨-, h2, -⟩ := tag_ends _ t n hr
          rw [List.length_drop] at h2
          refine ⟨by simp only; omega, fun u hu => ?_⟩
          rcases List.mem_append.1 hu with h3 | h3
          · exact he u h3
          · simp only [List.mem_cons, List.not_mem_nil, or_false] at h3
            rw [h3, tag_text _ _ _ hr]; simp
      · exact ⟨h0, he⟩
  · exact ⟨Nat.zero_le _, fun t h => by cases h⟩
theorem nxV_in (s : Txt) (k : Nat) (hk : k ≤ s.length) : nxV s (k : Int) = ((nx (s.drop k)).1, ((k + (nx (s.drop k)).2.1 : Nat) : Int), (nx (s.drop k)).2.2) := by
  unfold nxV; rw [atN_in s k hk]
end Go.Proofs.YtbcmfcddkegcoaaGreatDoor

/-! What the laws of layer 15 want of pieces: plain mathematics. -/
namespace Go.Proofs.YtbcmfcddkegcoaaGreatDoor
open Go.RowKit Go.Lib

theorem dd_some (l : Txt) (h : l ≠ []) : ddL false l ≠ [] := by
  cases l with
  | nil => exact absurd rfl h
  | cons c l =>
    by_cases hc : c = 38
    · rw [hc, dd_amp]
      intro e
      have := (refT_len l false).1
      rw [(List.append_eq_nil_iff.1 e).1] at this
      simp at this
    · rw [dd_plain false c l hc]; simp
/-- a text ahead of what begins is a piece -/
theorem nx_ahead (a z : Txt) (ha : a ≠ []) (h : 60 ∉ a) (hz : nextN z = 0) : nx (a ++ z) = (txtT (ddL false a), a.length, true) := by
  have hn := next_skip a z h
  rw [hz, Nat.add_zero] at hn
  have hm : mkB (a ++ z) = false := by
    rw [Bool.eq_false_iff]; intro e
    obtain ⟨t, e⟩ := mk_head _ e
    cases a with
    | nil => exact ha rfl
    | cons c a =>
      rw [List.mem_cons, not_or] at h
      exact h.1 (List.cons.inj e).1.symm
  have hlen := List.length_pos_iff.2 ha
  unfold mkB at hm
  simp only [Bool.or_eq_false_iff, decide_eq_false_iff_not, Classical.not_not] at hm
  obtain ⟨⟨⟨h1, h2⟩, h3⟩, h4⟩ := hm
  rcases nx_cases (a ++ z) with ⟨h, -, e⟩ | ⟨h, t, n, hr, e⟩ | ⟨-, h, e⟩ | ⟨-, -, h, e⟩ | ⟨-, -, -, h, e⟩ | ⟨-, -, -, -, -, -, h, e⟩ | ⟨-, -, -, -, -, h, e⟩
  · exact absurd h1 h
  · exact absurd h1 h
  · rw [h2] at h; cases h
  · rw [h3] at h; cases h
  · rw [h4] at h; cases h
  · exact absurd (List.append_eq_nil_iff.1 h).1 ha
  · rw [e, hn, List.take_left]
theorem emit_one (x : Txt) (h : x ≠ []) : emitT x = [txtT x] := by unfold emitT; rw [if_neg h]
/-! what pieces are like -/
structure TokOk (t : TokP) : Prop where
  kinds : t.kind = 0 ∨ t.kind = 1 ∨ t.kind = 2 ∨ t.kind = 3 ∨ t.kind = 4
  text : t.kind = 0 → t.text ≠ [] ∧ t.name = []
  tag : t.kind = 1 ∨ t.kind = 2 → t.text = [] ∧ ∃ d r, t.name = d :: r ∧ 97 ≤ d.toNat ∧ d.toNat ≤ 122
  rest : t.kind = 3 ∨ t.kind = 4 → t.name = [] ∧ t.attrs = []
theorem emit_len (x : Txt) : (emitT x).length ≤ 1 := by
  unfold emitT; split <;> simp
theorem join_lenA : ∀ (L : List TokP) (says : Txt), (joinA says L).length ≤ L.length + (emitT says).length
  | [], says => by unfold joinA; omega
  | t :: L, says => by
    unfold joinA
    split
    · have h1 := join_lenA L (says ++ t.text)
      have h2 := emit_len (says ++ t.text)
      rw [List.length_cons]; omega
    · have h1 := join_lenA L []
      rw [List.length_append, List.length_cons, List.length_cons]
      have h2 : (emitT []).length = 0 := rfl
      omega
theorem join_len (L : List TokP) : (joinL L).length ≤ L.length := by
  have h := join_lenA L []
  have h2 : (emitT []).length = 0 := rfl
  unfold joinL; omega
end Go.Proofs.YtbcmfcddkegcoaaGreatDoor

/-! What the document's Few and Texts of layer 15 tell of a list of tokens. -/
namespace Go.Proofs.YtbcmfcddkegcoaaGreatDoor
open Go.RowKit Go.Lib

/-- just a text, if it is one -/
def JustT (t : TokP) : Prop := t.kind = 0 → t.name = [] ∧ t.attrs = [] ∧ t.self = false
end Go.Proofs.YtbcmfcddkegcoaaGreatDoor

/-! Tokens joined, as the program does it: what says nothing is left out first, then the texts that a list begins with are taken together. Plain mathematics. -/
namespace Go.Proofs.YtbcmfcddkegcoaaGreatDoor
open Go.RowKit Go.Lib

/-- a text that says nothing -/
def silT (t : TokP) : Bool := decide (t.kind = 0) && decide (t.text = [])
/-- the texts that a list begins with: how many, and what they say -/
def heads : List TokP → Nat × Txt
  | [] => (0, [])
  | t :: L => if t.kind = 0 then ((heads L).1 + 1, t.text ++ (heads L).2) else (0, [])
theorem heads_text (t : TokP) (L : List TokP) (h : t.kind = 0) : heads (t :: L) = ((heads L).1 + 1, t.text ++ (heads L).2) := if_pos h
theorem heads_mark (t : TokP) (L : List TokP) (h : t.kind ≠ 0) : heads (t :: L) = (0, []) := if_neg h
theorem heads_le : ∀ L : List TokP, (heads L).1 ≤ L.length
  | [] => Nat.le_refl _
  | t :: L => by
    have := heads_le L
    unfold heads
    split
    · simp only [List.length_cons]; omega
    · exact Nat.zero_le _
theorem join_sil : ∀ (L : List TokP) (says : Txt), joinA says (L.filter fun t => !silT t) = joinA says L
  | [], _ => rfl
  | t :: L, says => by
    cases hs : silT t
    · rw [List.filter_cons_of_pos (by rw [hs]; rfl)]
      unfold joinA
      rw [join_sil L (says ++ t.text), join_sil L []]
    · rw [List.filter_cons_of_neg (by rw [hs]; decide), join_sil L says]
      have h : t.kind = 0 ∧ t.text = [] := by simpa [silT] using hs
      conv => rhs; unfold joinA
      rw [if_pos h.1, h.2, List.append_nil]
theorem join_heads : ∀ (L : List TokP) (says : Txt), joinA says L = emitT (says ++ (heads L).2) ++ joinL (L.drop (heads L).1)
  | [], says => by simp [joinA, heads, joinL, emitT]
  | t :: L, says => by
    by_cases h : t.kind = 0
    · rw [heads_text t L h]
      unfold joinA
      rw [if_pos h, join_heads L (says ++ t.text), List.append_assoc, List.drop_succ_cons]
    · rw [heads_mark t L h, List.append_nil, List.drop_zero, join_mark t L h]
      unfold joinA
      rw [if_neg h]; rfl
/-- what is told of a list's beginning, and how much of it is told -/
theorem join_text1 (t : TokP) (L : List TokP) (h : t.kind = 0) (hs : silT t = false) : joinL (t :: L) = txtT (heads (t :: L)).2 :: joinL ((t :: L).drop (heads (t :: L)).1) := by
  have hx : t.text ≠ [] := fun e => by simp [silT, h, e] at hs
  have h1 := join_heads (t :: L) []
  have h2 : (heads (t :: L)).2 ≠ [] := by
    rw [heads_text t L h]
    exact fun e => hx (List.append_eq_nil_iff.1 e).1
  show joinA [] (t :: L) = _
  rw [h1, List.nil_append]
  unfold emitT
  rw [if_neg h2]; rfl
theorem heads_drop (L : List TokP) (i : Nat) (h : i < L.length) (hk : L[i].kind = 0) : heads (L.drop i) = ((heads (L.drop (i + 1))).1 + 1, L[i].text ++ (heads (L.drop (i + 1))).2) := by
  rw [← List.getElem_cons_drop h]; exact heads_text _ _ hk
theorem heads_stop (L : List TokP) (i : Nat) (h : i < L.length) (hk : L[i].kind ≠ 0) : heads (L.drop i) = (0, []) := by
  rw [← List.getElem_cons_drop h]; exact heads_mark _ _ hk
theorem heads_pos (t : TokP) (L : List TokP) (h : t.kind = 0) : 1 ≤ (heads (t :: L)).1 := by rw [heads_text t L h]; simp

/-! every piece of kind 0 is just a text -/
theorem just_txt (x : Txt) : JustT (txtT x) := fun _ => ⟨rfl, rfl, rfl⟩
theorem just_emit (x : Txt) : ∀ t ∈ emitT x, JustT t := fun t h => by
  unfold emitT at h
  split at h
  · cases h
  · simp only [List.mem_cons, List.not_mem_nil, or_false] at h
    rw [h]; exact just_txt x
theorem just_tag (l : Txt) (t : TokP) (n : Nat) (hr : tagR l = some (t, n)) : JustT t := by
  obtain ⟨-, -, -, al, self, ht, -⟩ := tag_ends l t n hr
  rw [ht]; unfold tokT
  split <;> intro h <;> cases h
theorem just_nx (l : Txt) : JustT (nx l).1 := by
  rcases nx_cases l with ⟨h, -, e⟩ | ⟨h, t, n, hr, e⟩ | ⟨-, h, e⟩ | ⟨-, -, h, e⟩ | ⟨-, -, -, h, e⟩ | ⟨-, -, -, -, -, -, h, e⟩ | ⟨-, -, -, -, -, h, e⟩
  all_goals rw [e]; simp only
  · exact fun _ => ⟨rfl, rfl, rfl⟩
  · exact just_tag l t n hr
  · intro h; cases h
  · intro h; cases h
  · exact fun _ => ⟨rfl, rfl, rfl⟩
  · exact fun _ => ⟨rfl, rfl, rfl⟩
  · exact just_txt _
theorem just_rest (st : Int) (nm l : Txt) : ∀ t ∈ (restK st nm l).1, JustT t := by
  intro t h
  unfold restK at h
  split at h
  · split at h
    · exact just_emit _ t h
    · split at h
      · cases hr : tagR (l.drop (endN15 st nm l)) with
        | none => rw [hr] at h; exact just_emit _ t h
        | some r =>
          obtain ⟨u, n⟩ := r
          rw [hr] at h
          rcases List.mem_append.1 h with h1 | h1
          · exact just_emit _ t h1
          · simp only [List.mem_cons, List.not_mem_nil, or_false] at h1
            rw [h1]; exact just_tag _ u n hr
      · exact just_emit _ t h
  · cases h

/-! what is left out, as the library's function does it: one place after another -/
/-- the row behind the places up to j, of which i are kept -/
structure Kept (L D : List TkV) (j i : Nat) : Prop where
  len : D.length = L.length
  ij : i < j
  jl : j ≤ L.length
  low : D.take i = (L.take j).filter fun q => !silT q.t
  high : D.drop j = L.drop j
theorem Kept.get {L D : List TkV} {j i : Nat} (h : Kept L D j i) (hj : j < L.length) : D[j]'(by rw [h.len]; exact hj) = L[j] := by
  have h1 := congrArg (fun l => l[0]?) h.high
  simp only [List.getElem?_drop, Nat.add_zero] at h1
  rw [List.getElem?_eq_getElem (by rw [h.len]; exact hj), List.getElem?_eq_getElem hj] at h1
  exact Option.some.inj h1
theorem Kept.keep {L D : List TkV} {j i : Nat} (h : Kept L D j i) (hj : j < L.length) (hk : silT L[j].t = false) : Kept L (D.set i L[j]) (j + 1) (i + 1) := by
  have hlen := h.len
  have hij := h.ij
  refine ⟨by rw [List.length_set]; exact h.len, by omega, hj, ?_, ?_⟩
  · rw [List.take_succ_eq_append_getElem (by rw [List.length_set]; omega), List.take_set_of_le (Nat.le_refl _), List.getElem_set_self, h.low, List.take_succ_eq_append_getElem hj, List.filter_append]
    simp [hk]
  · rw [List.drop_set_of_lt (by omega), ← List.drop_drop, h.high, List.drop_drop]
theorem Kept.skip {L D : List TkV} {j i : Nat} (h : Kept L D j i) (hj : j < L.length) (hk : silT L[j].t = true) : Kept L D (j + 1) i := by
  have hij := h.ij
  refine ⟨h.len, by omega, hj, ?_, ?_⟩
  · rw [h.low, List.take_succ_eq_append_getElem hj, List.filter_append]
    simp [hk]
  · rw [← List.drop_drop, h.high, List.drop_drop]
theorem filter_none {L : List TkV} {k : Nat} (h : ∀ j (hj : j < L.length), j < k → silT L[j].t = false) (hk : k ≤ L.length) : (L.take k).filter (fun q => !silT q.t) = L.take k := by
  refine List.filter_eq_self.2 fun q hq => ?_
  obtain ⟨j, hj, rfl⟩ := List.getElem_of_mem hq
  rw [List.length_take] at hj
  rw [List.getElem_take, h j (by omega) (by omega)]; rfl
theorem Kept.start {L : List TkV} {k : Nat} (h : ∀ j (hj : j < L.length), j < k → silT L[j].t = false) (hk : k < L.length) (hs : silT L[k].t = true) : Kept L L (k + 1) k := by
  refine ⟨rfl, by omega, hk, ?_, rfl⟩
  rw [List.take_succ_eq_append_getElem hk, List.filter_append, filter_none h (by omega)]
  simp [hs]
theorem Kept.done {L D : List TkV} {i : Nat} (h : Kept L D L.length i) : D.take i = L.filter fun q => !silT q.t := by
  have := h.low
  rwa [List.take_length] at this
theorem map_kept (L : List TkV) : (L.filter fun q => !silT q.t).map TkV.t = (L.map TkV.t).filter fun t => !silT t := by
  induction L with
  | nil => rfl
  | cons q L ih =>
    rw [List.map_cons]
    by_cases h : silT q.t = true
    · rw [List.filter_cons_of_neg (by rw [h]; decide), List.filter_cons_of_neg (by rw [h]; decide)]; exact ih
    · rw [List.filter_cons_of_pos (by simpa using h), List.filter_cons_of_pos (by simpa using h), List.map_cons, ih]
end Go.Proofs.YtbcmfcddkegcoaaGreatDoor
