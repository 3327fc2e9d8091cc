/-
  A map from texts to bools that the call itself made, told by what a look-up answers.
-/
import Derived.Maps.OwnOps
import Derived.Maps.Views
import Derived.Test.YtpdmnnfbdeiejaaGreatDoorP1
import Derived.ProofKit
import Derived.WalkKit
namespace Go.Proofs.YtpdmnnfbdeiejaaGreatDoor
open Go.RowKit Go.Lib Go.WideMaps Go.Maps

theorem plainBool_inv {H : Type} {P : Program} {e : TypeId} (he : P.underlying e = some .bool) {v : Value} {z : DataW H × List MemPlace} (h : plainElem P e v = some z) : ∃ b, v = .bool b ∧ z = (.lit (.bool b), []) := by
  unfold plainElem at h
  rw [he] at h
  cases v <;> simp at h
  exact ⟨_, rfl, h.symm⟩
/-- the map's block, at most n entries, and what it answers at each text -/
def MapIs (w : World) (P : Program) (k e : TypeId) (b n : Nat) (f : List UInt8 → Bool) : Prop :=
  ∃ D : DataW Unit, w.ownsMap P k (plainElem P e) b n D ∧ IsMap D ∧ ∀ t : List UInt8, D.atKey (.string t) (.lit (.bool false)) = .lit (.bool (f t))
theorem MapIs.kept {w w' : World} {P : Program} {k e : TypeId} {b n : Nat} {f : List UInt8 → Bool} {row : Option Nat} (h : MapIs w P k e b n f) (hg : w.grownBy w' row) (hne : some b ≠ row) : MapIs w' P k e b n f := by
  obtain ⟨D, h1, h2, h3⟩ := h
  exact ⟨D, h1.kept hg hne, h2, h3⟩
theorem MapIs.below {w w' : World} {P : Program} {k e : TypeId} {b n : Nat} {f : List UInt8 → Bool} (h : MapIs w P k e b n f) (hb : Below w.heap.size w w') : MapIs w' P k e b n f :=
  h.kept (row := none) ⟨hb.os, hb.tape, hb.output, hb.size, fun k hk _ => hb.block k hk⟩ (by simp)
theorem MapIs.alloc {w : World} {P : Program} {k e : TypeId} {b n : Nat} {f : List UInt8 → Bool} (h : MapIs w P k e b n f) (o : Obj) : MapIs (w.alloc o) P k e b n f :=
  h.kept (World.grownBy_alloc w o none) (by simp)
theorem MapIs.lt {w : World} {P : Program} {k e : TypeId} {b n : Nat} {f : List UInt8 → Bool} (h : MapIs w P k e b n f) : b < w.heap.size := by
  obtain ⟨D, h1, -⟩ := h
  exact h1.lt
theorem mapIs_made (w : World) (P : Program) (k e : TypeId) : MapIs (w.alloc (.map #[] 0)) P k e w.heap.size 0 (fun _ => false) :=
  ⟨.map [], World.ownsMap_made _ _ _ _, isMap_empty, fun _ => rfl⟩

/-- a look-up at a text -/
theorem wpList_look_bool {P : Program} (w : World) {ops : Array Oper} {rest : List Oper} {o : Oper} {a : Act} {Q : Exit → Act → World → Prop}
    (hg : o.guard = none) (m x : Operand) (t : TypeId) (hop : o.op = Op.lookup t m x false)
    (k e : TypeId) (hk : P.underlying k = some .string) (ht : P.underlying t = some (.map k e)) (he : P.underlying e = some .bool) (hz : (zeroValue e).run P w = .ok (.bool false) w) (b n : Nat) (f : List UInt8 → Bool)
    (hm : a.eval m = .map (some b)) (hown : MapIs w P k e b n f) (s : ByteArray) (hs : s.size ≤ maxLen) (hx : a.eval x = .string s)
    (hK : wpList P ops Q rest (a.put o.dst (.bool (f s.data.toList))) w) :
    wpList P ops Q (o :: rest) a w := by
  refine wpList_plain hg fun K' hK' => ?_
  obtain ⟨D, h1, h2, h3⟩ := hown
  obtain ⟨v, ps, hrun, hv⟩ := h1.lookup (string_keyed hk) ht hz (plainElem_bool he false) (keyOf_string_mk hk hs)
  obtain ⟨c, rfl, hc⟩ := plainBool_inv he hv
  rw [h3] at hc
  simp only [Prod.mk.injEq, DataW.lit.injEq, Lit.bool.injEq] at hc
  rw [← hc.1] at hrun
  unfold Oper.wp
  simp [execOp, hop, hm, hx, hrun, Result.andThen]
  exact hK' _ _ hK
/-- a store at a text -/
theorem wpList_store_bool {P : Program} (w : World) {ops : Array Oper} {rest : List Oper} {o : Oper} {a : Act} {Q : Exit → Act → World → Prop}
    (hg : o.guard = none) (m x v : Operand) (t : TypeId) (hop : o.op = Op.mapUpdate t m x v)
    (k e : TypeId) (hk : P.underlying k = some .string) (ht : P.underlying t = some (.map k e)) (he : P.underlying e = some .bool) (b n : Nat) (f : List UInt8 → Bool)
    (hm : a.eval m = .map (some b)) (hown : MapIs w P k e b n f) (hn : n < maxLen) (s : ByteArray) (hs : s.size ≤ maxLen) (c : Bool) (key val : Value) (hx : a.eval x = key) (hv : a.eval v = val) (hkey : key = .string s) (hval : val = .bool c)
    (hK : ∀ w', MapIs w' P k e b (n + 1) (fun u => if u = s.data.toList then c else f u) → w.grownBy w' (some b) → wpList P ops Q rest (a.put o.dst undef) w') :
    wpList P ops Q (o :: rest) a w := by
  subst hkey; subst hval
  obtain ⟨D, h1, h2, h3⟩ := hown
  refine wpList_mapUpdate_own w hg m x v t hop k e (string_keyed hk) ht (plainElem P e) b n D hm h1 hn (.string s) (.bool c) _ hx hv (keyOf_string_mk hk hs) (.lit (.bool c)) [] (plainElem_bool he c) ?_
  intro w' h1' hgr
  refine hK w' ⟨_, h1', h2.put _ _, fun u => ?_⟩ hgr
  show _ = DataW.lit (Lit.bool (if u = s.data.toList then c else f u))
  by_cases hu : u = s.data.toList
  · rw [if_pos hu, hu]
    exact atKey_put_same h2 (show WideAt.IsKeyLit (.string s.data.toList) from trivial) _ _
  · rw [if_neg hu, atKey_put_other (fun e => hu (by injection e)) _ _, h3]
end Go.Proofs.YtpdmnnfbdeiejaaGreatDoor
