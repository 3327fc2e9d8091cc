/-
  The map of the marks that tags begin with, ranged over: which mark comes next.
-/
import Derived.Maps.RangeWalk
import Derived.Maps.Views
import Derived.Test.YtcamkphanakkdaaGreatDoorP1
import Derived.ProofKit
import Derived.WalkKit
namespace Go.Proofs.YtcamkphanakkdaaGreatDoor
open Go.RowKit Go.Lib Go.WideMaps Go.Maps

/-- the marks, with their kinds -/
def markD : DataW Unit := .map [(.string [60], .lit (.int .i64 1)), (.string [60, 47], .lit (.int .i64 2))]
/-- the mark of that length, which is its kind, too -/
def tmkL (m : Nat) : List UInt8 := if m = 1 then [60] else [60, 47]
def tmkS (m : Nat) : ByteArray := ⟨(tmkL m).toArray⟩
theorem tmkS_size {m : Nat} (h : m = 1 ∨ m = 2) : (tmkS m).size = m := by rcases h with rfl | rfl <;> rfl
theorem tmkS_list (m : Nat) : (tmkS m).data.toList = tmkL m := by unfold tmkS; rw [List.toList_toArray]
theorem markD_put : ((DataW.map [] : DataW Unit).put (.string [60]) (.lit (.int .i64 1))).put (.string [60, 47]) (.lit (.int .i64 2)) = markD := by rfl
theorem markD_has : has markD (.string [60]) = true ∧ has markD (.string [60, 47]) = true ∧ Maps.size markD = 2 := ⟨by decide, by decide, rfl⟩
theorem mark_keys (kl : Lit) (y : DataW Unit) (h : ∀ z, markD.atKey kl z = y) : ∃ m : Nat, (m = 1 ∨ m = 2) ∧ kl = .string (tmkL m) ∧ y = .lit (.int .i64 (m : Int)) := by
  have h1 := has_true_of_atKey h
  obtain ⟨p, hp, hs⟩ := List.any_eq_true.1 h1
  have e1 := WideAt.sameKey_eq hs
  simp only [List.mem_cons, List.not_mem_nil, or_false] at hp
  rcases hp with rfl | rfl
  · subst e1
    exact ⟨1, .inl rfl, rfl, (h .nil).symm.trans rfl⟩
  · subst e1
    exact ⟨2, .inr rfl, rfl, (h .nil).symm.trans rfl⟩
theorem key_text {P : Program} {k : TypeId} (hk : P.underlying k = some .string) {key : Value} {kl : Lit} (h : keyOf P k key = some kl) : ∃ x : List UInt8, key = .string ⟨x.toArray⟩ ∧ kl = .string x := by
  cases key <;> simp [keyOf, hk, mapKey] at h
  exact ⟨_, rfl, h.2.symm⟩

section
variable {P : Program} (w : World) {ops : Array Oper} {rest : List Oper} {o : Oper} {a : Act} {Q : Exit → Act → World → Prop}
/-- the next mark: none is left, or one that was left -/
theorem wpList_next_marks (hg : o.guard = none) (it : Operand) (hop : o.op = Op.next it false) (k e : TypeId) (hk : P.underlying k = some .string) (he : P.underlying e = some (.int .i64)) (b r n : Nat) (left : Lit → Bool) (cnt : Nat)
    (hit : a.eval it = .pointer (some ⟨r, 0, none⟩)) (h : w.ranges P k (plainElem P e) b r n markD left cnt)
    (hDone : (∀ kl, left kl = false) → wpList P ops Q rest (a.put o.dst (.tuple #[.bool false])) w)
    (hMore : ∀ (m : Nat) (w' : World) (cnt' : Nat), (m = 1 ∨ m = 2) → left (.string (tmkL m)) = true → w'.ranges P k (plainElem P e) b r n markD (fun z => left z && !z.sameKey (.string (tmkL m))) cnt' → cnt' < cnt → w.grownBy w' (some r) → w'.heap.size = w.heap.size →
      (Instr.entry (.pointer (some ⟨r, 0, none⟩))).run P w' = .ok (.tuple #[.string (tmkS m), .int .i64 (m : Int)]) w' → wpList P ops Q rest (a.put o.dst (.tuple #[.bool true, .string (tmkS m), .int .i64 (m : Int)])) w') :
    wpList P ops Q (o :: rest) a w := by
  refine wpList_next_ranges w hg it hop k (string_keyed hk) (plainElem P e) (fun l : List UInt8 => .string ⟨l.toArray⟩) (Value.int .i64)
    (fun key kl hkey => by obtain ⟨x, hx, _⟩ := key_text hk hkey; exact ⟨x, hx⟩) (fun v y hv => by obtain ⟨c, rfl, _⟩ := plainElem_int_inv he hv; exact ⟨c, rfl⟩)
    b r n markD left cnt hit h (fun _ hl => hDone hl) ?_
  intro x c kl y w' cnt' hkey hlk hv hat hrg hlt hgr hsz hen
  obtain ⟨x', ex, rfl⟩ := key_text hk hkey
  have ex : x = x' := by simpa using ex
  subst ex
  obtain ⟨c', ec, rfl, _⟩ := plainElem_int_inv he hv
  cases ec
  obtain ⟨m, hm, e1, e2⟩ := mark_keys _ _ hat
  have e1 : x = tmkL m := by injection e1
  have e2 : c = (m : Int) := by injection e2 with e2; injection e2
  subst e1; subst e2
  exact hMore m w' cnt' hm hlk hrg hlt hgr hsz hen
/-- two entries that a literal lays into its own map -/
theorem wpList_insert_marks (o1 o2 : Oper) (hg1 : o1.guard = none) (hg2 : o2.guard = none) (m : Operand) (x1 v1 x2 v2 : Operand) (t : TypeId) (hop1 : o1.op = Op.insert t m x1 v1) (hop2 : o2.op = Op.insert t m x2 v2)
    (k e : TypeId) (hk : P.underlying k = some .string) (he : P.underlying e = some (.int .i64)) (ht : P.underlying t = some (.map k e)) (b : Nat)
    (hm1 : a.eval m = .map (some b)) (hx1 : a.eval x1 = .string ⟨#[60]⟩) (hv1 : a.eval v1 = .int .i64 1)
    (hm2 : (a.put o1.dst undef).eval m = .map (some b)) (hx2 : (a.put o1.dst undef).eval x2 = .string ⟨#[60, 47]⟩) (hv2 : (a.put o1.dst undef).eval v2 = .int .i64 2)
    (hown : w.ownsMap P k (plainElem (H := Unit) P e) b 0 (.map []))
    (hK : ∀ w', w'.ownsMap P k (plainElem P e) b 2 markD → w.grownBy w' (some b) → wpList P ops Q rest ((a.put o1.dst undef).put o2.dst undef) w') :
    wpList P ops Q (o1 :: o2 :: rest) a w := by
  obtain ⟨w1, hrun1, r1, g1⟩ := hown.update (string_keyed hk) ht (by decide) (keyOf_string_mk hk (s := ⟨#[60]⟩) (by decide)) (plainElem_int he (a := 1) (by decide))
  obtain ⟨w2, hrun2, r2, g2⟩ := r1.update (string_keyed hk) ht (by decide) (keyOf_string_mk hk (s := ⟨#[60, 47]⟩) (by decide)) (plainElem_int he (a := 2) (by decide))
  refine wpList_plain hg1 fun K' hK' => ?_
  unfold Oper.wp
  simp [execOp, hop1, hm1, hx1, hv1, hrun1, Result.andThen]
  refine hK' _ _ (wpList_plain hg2 fun K2 hK2 => ?_)
  unfold Oper.wp
  simp [execOp, hop2, hm2, hx2, hv2, hrun2, Result.andThen]
  exact hK2 _ _ (hK w2 r2 (g1.andThen g2 (fun j hj => .inr hj)))
end
/-- what is left, one mark on -/
theorem left_on {left : Lit → Bool} {m j : Nat} (hne : tmkL j ≠ tmkL m) (h : left (.string (tmkL j)) = true) : (fun z : Lit => left z && !z.sameKey (.string (tmkL m))) (.string (tmkL j)) = true := by
  show (left _ && !(Lit.string (tmkL j)).sameKey (.string (tmkL m))) = true
  rw [h, sameKey_ne (fun e => hne (by injection e))]; rfl
theorem tmkL_ne {m j : Nat} (hm : m = 1 ∨ m = 2) (hj : j = 1 ∨ j = 2) (h : j ≠ m) : tmkL j ≠ tmkL m := by
  rcases hm with rfl | rfl <;> rcases hj with rfl | rfl <;> first | exact absurd rfl h | decide
end Go.Proofs.YtcamkphanakkdaaGreatDoor
