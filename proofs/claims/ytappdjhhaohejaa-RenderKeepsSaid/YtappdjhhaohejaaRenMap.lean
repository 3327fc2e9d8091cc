/-
  A map from texts to how many, and one from numbers to functions, that the call itself made: each told by what a look-up answers.
-/
import Derived.Maps.OwnSet
import Derived.Maps.OwnOps
import Derived.Maps.Views
import Derived.Test.YtappdjhhaohejaaStrO
import Derived.KernelRfl
import Derived.Lib.Hide
namespace Go.Proofs.Ytappdjhhaohejaa
open Go.RowKit Go.Lib Go.WideMaps Go.Maps

/-- the map's block, at most n entries, and what it answers at each text -/
def MapCnt (w : World) (b n : Nat) (f : Txt → Nat) : Prop :=
  ∃ D : DataW Unit, w.ownsMap Try.prog 9 (plainElem Try.prog 3) b n D ∧ IsMap D ∧ ∀ t : Txt, D.atKey (.string t) (.lit (.int .i64 0)) = .lit (.int .i64 (f t : Int))
/-- the same as an object -/
def CntO (b n : Nat) (f : Txt → Nat) : Own := fun w F => MapCnt w b n f ∧ ∀ k, F k ↔ k = b
theorem cntO_lies (b n : Nat) (f : Txt → Nat) : Lies (CntO b n f) := by
  refine ⟨?_, ?_⟩
  · rintro w F ⟨⟨D, h1, -⟩, hF⟩ k hk
    rw [(hF k).1 hk]; exact h1.lt
  · rintro w w' F ⟨⟨D, ⟨es, cl, hb, h4⟩, h2⟩, hF⟩ hk
    exact ⟨⟨D, ⟨es, cl, (hk b ((hF b).2 rfl)).trans hb, h4⟩, h2⟩, hF⟩
theorem cntO_made {w0 w : World} {R : Own} (h : Made w0 w R) (hR : Lies R) : Made w0 (w.alloc (.map #[] 0)) (Sep (CntO w.heap.size 0 (fun _ => 0)) R) :=
  h.more hR ((Below.refl w.heap.size w).alloc (Nat.le_refl _) _) (S := CntO w.heap.size 0 (fun _ => 0)) (F := fun k => k = w.heap.size) ⟨⟨.map [], World.ownsMap_made _ _ _ _, isMap_empty, fun _ => rfl⟩, fun _ => Iff.rfl⟩ (fun k hk => by omega)
theorem cntO_alike {b n : Nat} {f g : Txt → Nat} (h : ∀ t, f t = g t) : Imp (CntO b n f) (CntO b n g) := by
  have : f = g := funext h
  subst this
  exact fun _ _ h => h
/-- a key that no entry can have isn't there -/
theorem look_miss {P : Program} {H : Type} {t k e : TypeId} {d : TypeDesc} {R : Value → Option (DataW H × List MemPlace)} {es : Array MapEntry} {clock b : Nat} {w : World} {z : Value} (c : Bool) (hd : P.underlying k = some d) (hkp : ∀ v, keyOf P k v = mapKey P k v) (ht : P.underlying t = some (.map k e)) (hz : (zeroValue e).run P w = .ok z w)
    (hb : w.heap[b]? = some (.map es clock)) (F : WideElems.Fit P k R es clock) {key : Value} (hkey : MapKept.IsKey d key) (hno : keyOf P k key = none) :
    (Instr.lookup t (.map (some b)) key c).run P w = .ok (if c then .tuple #[z, .bool false] else z) w := by
  have hks : ∀ x ∈ es.toList, MapKept.IsKey d x.key := fun x hx => by
    obtain ⟨l, hl⟩ := F.keys x hx
    rw [hkp] at hl
    obtain ⟨d', hd', h1, -⟩ := WideShapes.mapKey_isKey hl
    rw [hd] at hd'
    cases hd'
    exact h1
  rcases MapKept.findNow_spec hkey es.toList 0 hks with ⟨h1, -⟩ | ⟨j, e0, -, h2, h3⟩
  · simp [Instr.lookup, run_underlying ht, MapKept.run_getObj_map hb, MapKept.run_checkKey hd hkey, MapKept.run_findKey hd h1, hz, Result.andThen]
  · obtain ⟨l, hl⟩ := F.keys e0 (List.mem_of_getElem? h2)
    rw [h3, hno] at hl
    cases hl
theorem at_miss {P : Program} {H : Type} {k : TypeId} {R : Value → Option (DataW H × List MemPlace)} {es : Array MapEntry} {clock : Nat} (K : Keyed P k) (F : WideElems.Fit P k R es clock) (kl : Lit) (hkl : WideAt.IsKeyLit kl) (hno : ∀ v, keyOf P k v ≠ some kl) (zd : DataW H) :
    (DataW.map ((es.toList.map (WideElems.rg P k R)).foldr DataW.insert [])).atKey kl zd = zd := by
  refine (WideShapes.atKey_sorted (es.toList.map (WideElems.rg P k R)) (fit_rising K F) kl hkl).1 (fun p hp e1 => ?_) zd
  obtain ⟨x, hx, rfl⟩ := List.mem_map.1 hp
  obtain ⟨y, hy⟩ := F.reads x hx
  have m1 := WideElems.rd_key hy
  rw [WideElems.rg_of hy] at e1
  rw [e1] at m1
  exact hno _ m1
theorem zero_cnt (w : World) : (zeroValue 3).run Try.prog w = .ok (.int .i64 0) w := by kernel_rfl
section
variable {ops : Array Oper} {rest : List Oper} {o : Oper} {a : Act} {w0 w : World} {Q : Exit → Act → World → Prop} {R : Own} {b n : Nat} {f : Txt → Nat}
/-- a look-up -/
theorem run_look_cnt (hM : Made w0 w (Sep (CntO b n f) R)) (s : ByteArray) : (Instr.lookup 44 (.map (some b)) (.string s) false).run Try.prog w = .ok (.int .i64 (f s.data.toList : Int)) w := by
  obtain ⟨F, ⟨⟨D, h1, h2, h3⟩, -⟩, -, -⟩ := hM.first
  have hkp : ∀ v, keyOf Try.prog 9 v = mapKey Try.prog 9 v := fun v => by simp [keyOf, Try.underlying9]
  by_cases hs : s.size ≤ maxLen
  case neg =>
    obtain ⟨es, cl, hb, hF, hn, rfl⟩ := h1
    have hno : ∀ v, keyOf Try.prog 9 v ≠ some (.string s.data.toList) := fun v hv => by
      rw [hkp] at hv
      unfold mapKey at hv
      rw [Try.underlying9] at hv
      cases v <;> simp at hv
      obtain ⟨h5, h6⟩ := hv
      exact hs (by rw [Lib.size_eq, ← h6, ← Lib.size_eq]; exact h5)
    have h4 := h3 s.data.toList
    rw [at_miss (string_keyed Try.underlying9) hF (.string s.data.toList) trivial hno] at h4
    simp only [DataW.lit.injEq, Lit.int.injEq, true_and] at h4
    rw [← h4]
    exact look_miss false Try.underlying9 hkp Try.underlying44 (zero_cnt w) hb hF trivial (by rw [hkp]; unfold mapKey; rw [Try.underlying9]; simp [hs])
  obtain ⟨c, hr, hc, -⟩ := h1.lookup_int (string_keyed Try.underlying9) Try.underlying44 Try.underlying3 (zero_cnt w) (keyOf_string_mk Try.underlying9 hs)
  rw [h3] at hc
  simp only [DataW.lit.injEq, Lit.int.injEq, true_and] at hc
  rw [hc]; exact hr
theorem wpList_look_cnt (hg : o.guard = none) (m x : Operand) (hop : o.op = Op.lookup 44 m x false) (hM : Made w0 w (Sep (CntO b n f) R)) (hm : a.eval m = .map (some b)) (s : ByteArray) (hx : a.eval x = .string s)
    (hK : wpList Try.prog ops Q rest (a.put o.dst (.int .i64 (f s.data.toList : Int))) w) : wpList Try.prog ops Q (o :: rest) a w := by
  refine wpList_plain hg fun K' hK' => ?_
  unfold Oper.wp
  simp [execOp, hop, hm, hx, run_look_cnt hM s, Result.andThen]
  exact hK' _ _ hK
/-- a store -/
def updN (f : Txt → Nat) (s : Txt) (c : Nat) : Txt → Nat := fun u => if u = s then c else f u
theorem wpList_store_cnt (hg : o.guard = none) (m x v : Operand) (hop : o.op = Op.mapUpdate 44 m x v) (hM : Made w0 w (Sep (CntO b n f) R)) (hR : Lies R) (hn : n ≤ 16777216) (hm : a.eval m = .map (some b)) (s : ByteArray) (hs : s.size ≤ 16777216) (hx : a.eval x = .string s) (q : Int) (hv : a.eval v = .int .i64 q) (c : Nat) (hc : c ≤ 16777216) (hq : q = (c : Int))
    (hK : ∀ w', Made w0 w' (Sep (CntO b (n + 1) (updN f s.data.toList c)) R) → wpList Try.prog ops Q rest (a.put o.dst undef) w') : wpList Try.prog ops Q (o :: rest) a w := by
  subst hq
  obtain ⟨F, ⟨⟨D, h1, h2, h3⟩, hF⟩, -, hk⟩ := hM.first
  have hw : (Lit.int .i64 (c : Int)).wf = true := by
    have e1 : IntKind.i64.min = -9223372036854775808 := by decide
    have e2 : IntKind.i64.max = 9223372036854775807 := by decide
    show (decide (IntKind.i64.min ≤ (c : Int)) && decide ((c : Int) ≤ IntKind.i64.max)) = true
    rw [e1, e2, decide_eq_true (by omega), decide_eq_true (by omega)]; rfl
  refine wpList_mapUpdate_own w hg m x v 44 hop 9 3 (string_keyed Try.underlying9) Try.underlying44 (plainElem Try.prog 3) b n D hm h1 (by unfold maxLen; omega) (.string s) (.int .i64 (c : Int)) _ hx hv (keyOf_string_mk Try.underlying9 (by unfold maxLen; omega)) (.lit (.int .i64 (c : Int))) [] (plainElem_int Try.underlying3 hw) ?_
  intro w' h1' hgr
  refine hK w' (hk w' (CntO b (n + 1) (updN f s.data.toList c)) (fun k => k = b) hR ⟨⟨_, h1', h2.put _ _, fun u => ?_⟩, fun _ => Iff.rfl⟩ ⟨hgr.os, hgr.tape, hgr.output, hgr.size, fun k hkk hFk => hgr.block k hkk (fun e => hFk ((hF k).2 (Option.some.inj e))), fun k hkk => .inl ((hF k).2 hkk)⟩)
  show _ = DataW.lit (Lit.int .i64 ((if u = s.data.toList then c else f u : Nat) : Int))
  by_cases hu : u = s.data.toList
  · rw [if_pos hu, hu]
    exact atKey_put_same h2 (show WideAt.IsKeyLit (.string s.data.toList) from trivial) _ _
  · rw [if_neg hu, atKey_put_other (fun e => hu (by injection e)) _ _, h3]
end

/-! functions by numbers -/
def heldE (v : Value) : Option (DataW Value × List MemPlace) := some (.held v, [])
def MapFn (w : World) (b n : Nat) (z : Value) (f : Int → Option Value) : Prop :=
  ∃ D : DataW Value, w.ownsMap Try.prog 3 heldE b n D ∧ IsMap D ∧ ∀ k : Int, D.atKey (.int .i64 k) (.held z) = .held ((f k).getD z) ∧ Maps.has D (.int .i64 k) = (f k).isSome
theorem mapFn_made (w : World) (z : Value) : MapFn (w.alloc (.map #[] 0)) w.heap.size 0 z (fun _ => none) :=
  ⟨.map [], World.ownsMap_made _ _ _ _, isMap_empty, fun _ => ⟨rfl, rfl⟩⟩
theorem MapFn.lt {w : World} {b n : Nat} {z : Value} {f : Int → Option Value} (h : MapFn w b n z f) : b < w.heap.size := by
  obtain ⟨D, h1, -⟩ := h
  exact h1.lt
theorem MapFn.same {w w' : World} {b n : Nat} {z : Value} {f : Int → Option Value} (h : MapFn w b n z f) (hb : w'.heap[b]? = w.heap[b]?) : MapFn w' b n z f := by
  obtain ⟨D, ⟨es, cl, h1, h4⟩, h2⟩ := h
  exact ⟨D, ⟨es, cl, hb.trans h1, h4⟩, h2⟩
/-- the same as an object -/
def FnO (b n : Nat) (z : Value) (f : Int → Option Value) : Own := fun w F => MapFn w b n z f ∧ ∀ k, F k ↔ k = b
theorem fnO_lies (b n : Nat) (z : Value) (f : Int → Option Value) : Lies (FnO b n z f) := by
  refine ⟨?_, ?_⟩
  · rintro w F ⟨h, hF⟩ k hk
    rw [(hF k).1 hk]; exact h.lt
  · rintro w w' F ⟨h, hF⟩ hk
    exact ⟨h.same (hk b ((hF b).2 rfl)), hF⟩
theorem fnO_made {w0 w : World} {R : Own} (h : Made w0 w R) (hR : Lies R) (z : Value) : Made w0 (w.alloc (.map #[] 0)) (Sep (FnO w.heap.size 0 z (fun _ => none)) R) :=
  h.more hR ((Below.refl w.heap.size w).alloc (Nat.le_refl _) _) (S := FnO w.heap.size 0 z (fun _ => none)) (F := fun k => k = w.heap.size) ⟨mapFn_made w z, fun _ => Iff.rfl⟩ (fun k hk => by omega)
theorem fnO_is {w0 w : World} {b n : Nat} {z : Value} {f : Int → Option Value} {R : Own} (h : Made w0 w (Sep (FnO b n z f) R)) : MapFn w b n z f := by
  obtain ⟨F, hF, -, -⟩ := h.first
  exact hF.1
section
variable {ops : Array Oper} {rest : List Oper} {o : Oper} {a : Act} {w : World} {Q : Exit → Act → World → Prop} {b n : Nat} {z : Value} {f : Int → Option Value}
theorem wpList_insert_fn (hg : o.guard = none) (t e : TypeId) (ht : Try.prog.underlying t = some (.map 3 e)) (m x v : Operand) (hop : o.op = Op.insert t m x v) (hown : MapFn w b n z f) (hn : n ≤ 100) (hm : a.eval m = .map (some b)) (k : Int) (hw : (Lit.int .i64 k).wf = true) (hx : a.eval x = .int .i64 k) (F : Value) (hv : a.eval v = F)
    (hK : ∀ w', MapFn w' b (n + 1) z (fun j => if j = k then some F else f j) → w.grownBy w' (some b) → wpList Try.prog ops Q rest (a.put o.dst undef) w') : wpList Try.prog ops Q (o :: rest) a w := by
  obtain ⟨D, h1, h2, h3⟩ := hown
  obtain ⟨w', hrun, r, g⟩ := h1.update (int_keyed Try.underlying3) ht (by unfold maxLen; omega) (keyOf_int_mk Try.underlying3 hw) (show heldE F = some (.held F, []) from rfl)
  refine wpList_plain hg fun K' hK' => ?_
  unfold Oper.wp
  simp [execOp, hop, hm, hx, hv, hrun, Result.andThen]
  refine hK' _ _ (hK w' ⟨_, r, h2.put _ _, fun j => ?_⟩ g)
  by_cases hu : j = k
  · simp only [if_pos hu]
    rw [hu]
    exact ⟨atKey_put_same h2 (show WideAt.IsKeyLit (.int .i64 k) from trivial) _ _, has_put_same h2 (show WideAt.IsKeyLit (.int .i64 k) from trivial) _⟩
  · simp only [if_neg hu]
    rw [atKey_put_other (fun e => hu (by injection e)) _ _, has_put_other (fun e => hu (by injection e)) _]
    exact h3 j
theorem wpList_look_fn (hg : o.guard = none) (t e : TypeId) (ht : Try.prog.underlying t = some (.map 3 e)) (hz : (zeroValue e).run Try.prog w = .ok z w) (m x : Operand) (hop : o.op = Op.lookup t m x true) (hown : MapFn w b n z f) (hm : a.eval m = .map (some b)) (k : Int) (hx : a.eval x = .int .i64 k)
    (hK : wpList Try.prog ops Q rest (a.put o.dst (.tuple #[(f k).getD z, .bool (f k).isSome])) w) : wpList Try.prog ops Q (o :: rest) a w := by
  obtain ⟨D, h1, h2, h3⟩ := hown
  obtain ⟨e1, e2⟩ := h3 k
  have hkp : ∀ v, keyOf Try.prog 3 v = mapKey Try.prog 3 v := fun v => by simp [keyOf, Try.underlying3]
  by_cases hw : (Lit.int .i64 k).wf = true
  case neg =>
    obtain ⟨es, cl, hb, hF, hn, rfl⟩ := h1
    have hno : ∀ v, keyOf Try.prog 3 v ≠ some (.int .i64 k) := fun v hv => by
      rw [hkp] at hv
      unfold mapKey at hv
      rw [Try.underlying3] at hv
      cases v <;> simp at hv
      obtain ⟨⟨h5, h6⟩, h7⟩ := hv
      subst h5; subst h7
      exact hw h6
    have h4 := at_miss (int_keyed Try.underlying3) hF (.int .i64 k) trivial hno (.held z)
    rw [e1] at h4
    have e3 : (f k).isSome = false := by rw [← e2]; exact has_false_of_atKey (at_miss (int_keyed Try.underlying3) hF (.int .i64 k) trivial hno)
    simp only [DataW.held.injEq] at h4
    rw [h4, e3] at hK
    refine wpList_plain hg fun K' hK' => ?_
    unfold Oper.wp
    simp [execOp, hop, hm, hx, look_miss true Try.underlying3 hkp ht hz hb hF (show MapKept.IsKey (.int .i64) (.int .i64 k) from rfl) (by rw [hkp]; unfold mapKey; rw [Try.underlying3]; simp [hw]), Result.andThen]
    exact hK' _ _ hK
  refine wpList_lookup_own_ok w hg m x t hop 3 e (int_keyed Try.underlying3) ht heldE hz (.held z) [] rfl b n D hm h1 _ _ hx (keyOf_int_mk Try.underlying3 hw) ?_
  intro v ps hv
  unfold heldE at hv
  rw [e1] at hv
  simp only [Option.some.injEq, Prod.mk.injEq, DataW.held.injEq] at hv
  rw [hv.1, e2]
  exact hK
def insK (f : Int → Option Value) (k : Int) (F : Value) : Int → Option Value := fun j => if j = k then some F else f j
theorem wpList_insert_fnO {w0 : World} {R : Own} (hg : o.guard = none) (t e : TypeId) (ht : Try.prog.underlying t = some (.map 3 e)) (m x v : Operand) (hop : o.op = Op.insert t m x v) (hM : Made w0 w (Sep (FnO b n z f) R)) (hR : Lies R) (hn : n ≤ 100) (hm : a.eval m = .map (some b)) (k : Int) (hw : (Lit.int .i64 k).wf = true) (hx : a.eval x = .int .i64 k) (F : Value) (hv : a.eval v = F)
    (hK : ∀ w', Made w0 w' (Sep (FnO b (n + 1) z (insK f k F)) R) → wpList Try.prog ops Q rest (a.put o.dst undef) w') : wpList Try.prog ops Q (o :: rest) a w := by
  obtain ⟨F1, ⟨h1, hF⟩, -, hk⟩ := hM.first
  refine wpList_insert_fn hg t e ht m x v hop h1 hn hm k hw hx F hv fun w' h2 hgr => hK w' (hk w' (FnO b (n + 1) z (insK f k F)) F1 hR ⟨h2, hF⟩ (Moves.of_grown hgr ((hF b).2 rfl)))
end
end Go.Proofs.Ytappdjhhaohejaa
