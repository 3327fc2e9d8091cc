/-
  Texts laid together: AttSame, Tok.
-/
import Derived.Test.YtbcmfcddkegcoaaGreatDoorP3
import Derived.Deep.QuietTactic
/-! What the document's Same of layer 8 answers for two lists of attributes. -/
namespace Go.Proofs.YtbcmfcddkegcoaaGreatDoor
open Go.RowKit Go.Lib

theorem isRows_none (w : World) : IsRows w none 0 0 [] := ⟨rfl, Nat.le_refl _, by simp [maxLen], fun i h => by cases h⟩
end Go.Proofs.YtbcmfcddkegcoaaGreatDoor

/-! Tokens as values, tokens in a block of their own, and what the document's Same of layer 9 answers for two of them. -/
namespace Go.Proofs.YtbcmfcddkegcoaaGreatDoor
open Go.RowKit Go.Lib

/-- a token -/
structure TokP where
  kind : Int
  name : Txt
  text : Txt
  attrs : List Ln
  self : Bool
def zeroT : TokP := ⟨0, [], [], [], false⟩
/-- a token's value, its attributes where a slice says -/
def tokA (t : TokP) (a : Option Addr) (len cap : Nat) : Value := .agg #[.int .i64 t.kind, .string ⟨t.name.toArray⟩, .string ⟨t.text.toArray⟩, .slice a len cap, .bool t.self]
theorem tok_eq (t u : TokP) : (t = u) ↔ (t.kind = u.kind ∧ t.name = u.name ∧ t.text = u.text ∧ t.attrs = u.attrs ∧ t.self = u.self) := by
  cases t; cases u; simp
instance : DecidableEq TokP := fun t u => decidable_of_iff _ (tok_eq t u).symm

/-- a token that lies in a block of its own -/
def TokAt (w : World) (b : Nat) (t : TokP) (a : Option Addr) (len cap : Nat) : Prop :=
  w.cell? ⟨b, 0, none⟩ = some (.int .i64 t.kind) ∧ w.cell? ⟨b, 1, none⟩ = some (.string ⟨t.name.toArray⟩) ∧ w.cell? ⟨b, 2, none⟩ = some (.string ⟨t.text.toArray⟩) ∧ w.cell? ⟨b, 3, none⟩ = some (.slice a len cap) ∧ w.cell? ⟨b, 4, none⟩ = some (.bool t.self)
theorem TokAt.below {w w' : World} {b : Nat} {t : TokP} {a : Option Addr} {len cap B : Nat} (h : TokAt w b t a len cap) (hb : Below B w w') (hB : b < B) : TokAt w' b t a len cap := by
  obtain ⟨h1, h2, h3, h4, h5⟩ := h
  exact ⟨(hb.cell (p := ⟨b, 0, none⟩) hB).trans h1, (hb.cell (p := ⟨b, 1, none⟩) hB).trans h2, (hb.cell (p := ⟨b, 2, none⟩) hB).trans h3, (hb.cell (p := ⟨b, 3, none⟩) hB).trans h4, (hb.cell (p := ⟨b, 4, none⟩) hB).trans h5⟩
theorem tokAt_new (w : World) (t : TokP) (a : Option Addr) (len cap : Nat) (T : TypeId) : TokAt (w.alloc (.cells #[.int .i64 t.kind, .string ⟨t.name.toArray⟩, .string ⟨t.text.toArray⟩, .slice a len cap, .bool t.self] T)) w.heap.size t a len cap := by
  refine ⟨?_, ?_, ?_, ?_, ?_⟩ <;> (rw [cell_of_row _ _ _ _ _ _ (heap_alloc_new w _)]; rfl)
theorem sizeTok : (Tryz.prog.info? 31).map (·.size) = some 5 := by kernel_rfl
/-- a token's block read as a whole -/
theorem load_tok (w : World) (b : Nat) (t : TokP) (a : Option Addr) (len cap : Nat) (h : TokAt w b t a len cap) : (loadVar 31 ⟨b, 0, none⟩).run Tryz.prog w = .ok (tokA t a len cap) w := by
  obtain ⟨h1, h2, h3, h4, h5⟩ := h
  have hl := run_loadCells_list (P := Tryz.prog) (w := w) ⟨b, 0, none⟩ [.int .i64 t.kind, .string ⟨t.name.toArray⟩, .string ⟨t.text.toArray⟩, .slice a len cap, .bool t.self] (fun j v hv => by
    have hadd : ∀ j, (⟨b, 0, none⟩ : Addr).add j = ⟨b, j, none⟩ := fun j => by unfold Addr.add; split <;> simp_all
    rw [hadd]
    match j, hv with
    | 0, hv => rw [h1]; exact hv
    | 1, hv => rw [h2]; exact hv
    | 2, hv => rw [h3]; exact hv
    | 3, hv => rw [h4]; exact hv
    | 4, hv => rw [h5]; exact hv
    | j + 5, hv => simp at hv)
  have hq := sizeTok
  cases hi : Tryz.prog.info? 31 with
  | none => simp [hi] at hq
  | some i =>
    have hs : i.size = 5 := by simpa [hi] using hq
    have hagg : (isAgg 31).run Tryz.prog w = .ok true w := by
      unfold isAgg
      rw [Sem.run_bind, run_underlying Tryz.underlying31 w]
      rfl
    simp only [List.length_cons, List.length_nil, Nat.reduceAdd] at hl
    simp [loadVar, Sem.run_bind, hagg, sizeOf, typeInfo, hi, hs, hl, tokA]
/-- results of which the first one is a token in a block -/
theorem results_tok {fn : Func} {p u v : Tmp} (h : fn.results = #[.cell p 31, .tmp u, .tmp v]) (tmps : Array Value) (w : World) (b : Nat) (t : TokP) (a : Option Addr) (len cap : Nat)
    (hp : tmps.getD p undef = .pointer (some ⟨b, 0, none⟩)) (hT : TokAt w b t a len cap) :
    (results fn tmps).run Tryz.prog w = .ok (.tuple #[tokA t a len cap, tmps.getD u undef, tmps.getD v undef]) w := by
  have hp' : tmps[p]?.getD undef = .pointer (some ⟨b, 0, none⟩) := by simpa using hp
  simp [results, h, hp', asAddr, load_tok w b t a len cap hT]

/-- a token stored whole into its block; a token loaded out of it -/
theorem wpList_store_tok {ops : Array Oper} {rest : List Oper} {o : Oper} {a : Act} {w : World} {Q : Exit → Act → World → Prop} (hg : o.guard = none) (x y : Operand) (ho : o.op = .store 31 x y) (g : Nat) (t : TokP) (ad : Option Addr) (len cap : Nat)
    (hx : a.eval x = .pointer (some ⟨g, 0, none⟩)) (hy : a.eval y = tokA t ad len cap) (old : Array Value) (hb : w.heap[g]? = some (.cells old 31 (0, 0))) (h5 : old.size = 5)
    (hK : ∀ w', w'.heap[g]? = some (.cells #[.int .i64 t.kind, .string ⟨t.name.toArray⟩, .string ⟨t.text.toArray⟩, .slice ad len cap, .bool t.self] 31 (0, 0)) → w.grownBy w' (some g) → wpList Tryz.prog ops Q rest (a.put o.dst undef) w') :
    wpList Tryz.prog ops Q (o :: rest) a w := by
  refine wpList_plain hg fun K' hK' => wp_store_row 31 x y ho g #[.int .i64 t.kind, .string ⟨t.name.toArray⟩, .string ⟨t.text.toArray⟩, .slice ad len cap, .bool t.self] hx hy 31 old hb sizeTok h5 (by simp [Value.oneCell']) (hK' _ _ (hK _ (setRow_heap w g old _ _ _ hb) ?_))
  exact ⟨rfl, rfl, rfl, by simp, fun k _ hk => setRow_other w g k _ (fun e => hk (by rw [e]))⟩
theorem tokAt_row {w : World} {g : Nat} {t : TokP} {ad : Option Addr} {len cap : Nat} (h : w.heap[g]? = some (.cells #[.int .i64 t.kind, .string ⟨t.name.toArray⟩, .string ⟨t.text.toArray⟩, .slice ad len cap, .bool t.self] 31 (0, 0))) : TokAt w g t ad len cap := by
  refine ⟨?_, ?_, ?_, ?_, ?_⟩ <;> (rw [cell_of_row _ _ _ _ _ _ h]; rfl)
theorem run_loadAt_tok (w : World) (g : Nat) (t : TokP) (ad : Option Addr) (len cap : Nat) (h : TokAt w g t ad len cap) : (Instr.loadAt 31 (.pointer (some ⟨g, 0, none⟩))).run Tryz.prog w = .ok (tokA t ad len cap) w := by
  have := load_tok w g t ad len cap h
  simp [Instr.loadAt, Instr.sureAddr, this]
theorem wpList_load_tok {ops : Array Oper} {rest : List Oper} {o : Oper} {a : Act} {w : World} {Q : Exit → Act → World → Prop} (hg : o.guard = none) (x : Operand) (ho : o.op = .load 31 x) (g : Nat) (t : TokP) (ad : Option Addr) (len cap : Nat)
    (hx : a.eval x = .pointer (some ⟨g, 0, none⟩)) (hT : TokAt w g t ad len cap) (hK : wpList Tryz.prog ops Q rest (a.put o.dst (tokA t ad len cap)) w) :
    wpList Tryz.prog ops Q (o :: rest) a w := by
  refine wpList_plain hg fun K' hK' => ?_
  unfold Oper.wp
  simp [execOp, ho, hx, run_loadAt_tok w g t ad len cap hT, Result.andThen]
  exact hK' _ _ hK
theorem isRows_grown {w w' : World} {ad : Option Addr} {len cap : Nat} {l : List Ln} {g : Nat} (h : IsRows w ad len cap l) (hg : w.grownBy w' (some g)) (hne : ∀ k, (Value.slice ad len cap).ownBlock = some k → k ≠ g) : IsRows w' ad len cap l := by
  refine ⟨h.1, h.2.1, h.2.2.1, fun i hi => ?_⟩
  obtain ⟨x, rfl, h1, h2⟩ := h.2.2.2 i hi
  have hx := hne x.block rfl
  have hlt : x.block < w.heap.size := by
    have := block_lt_of_cell h1
    rwa [show (x.add (i * 2)).block = x.block by unfold Addr.add; split <;> rfl] at this
  have hb := hg.block x.block hlt (fun e => hx (Option.some.inj e))
  have hc : ∀ n, w'.cell? (x.add n) = w.cell? (x.add n) := fun n => by
    refine World.cell?_of_block ?_
    rw [show (x.add n).block = x.block by unfold Addr.add; split <;> rfl]
    exact hb
  exact ⟨x, rfl, by rw [hc]; exact h1, by rw [hc]; exact h2⟩

/-- what a Read of tokens answers: the token, where it ends, whether there is one; V: what the document says -/
def TellG (V : TokP × Int × Bool) (w : World) (e : Ending) (w' : World) : Prop :=
  ∃ t ad len cap n ok, e = .returned (.tuple #[tokA t ad len cap, .int .i64 n, .bool ok]) ∧ IsRows w' ad len cap t.attrs ∧ V = (t, n, ok) ∧ Below w.heap.size w w'
/-- the same, and the attributes, where there are some, lie in new memory -/
def TellH (V : TokP × Int × Bool) (w : World) (e : Ending) (w' : World) : Prop :=
  ∃ t ad len cap n ok, e = .returned (.tuple #[tokA t ad len cap, .int .i64 n, .bool ok]) ∧ IsRows w' ad len cap t.attrs ∧ V = (t, n, ok) ∧ Below w.heap.size w w' ∧ (t.attrs = [] ∨ ∀ k, (Value.slice ad len cap).ownBlock = some k → w.heap.size ≤ k)
theorem TellG.plain {V : TokP × Int × Bool} {w : World} {e : Ending} {w' : World} (h : TellG V w e w') (hV : V.1.attrs = []) : TellH V w e w' := by
  obtain ⟨t, ad, len, cap, n, ok, h1, h2, h3, h4⟩ := h
  rw [h3] at hV
  exact ⟨t, ad, len, cap, n, ok, h1, h2, h3, h4, .inl hV⟩
end Go.Proofs.YtbcmfcddkegcoaaGreatDoor
