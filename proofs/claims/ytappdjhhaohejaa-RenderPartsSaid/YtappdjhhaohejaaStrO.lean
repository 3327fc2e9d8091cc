/-
  A row of texts of the call's own, as an object; what reads as a list of texts.
-/
import Derived.Test.YtappdjhhaohejaaObjs
import Derived.Maps.AppendAt
import Derived.Laws.OwnMore
import Derived.Test.YtappdjhhaohejaaP3
namespace Go.Proofs.Ytappdjhhaohejaa
open Go.RowKit Go.Lib

def strsV (l : List Txt) : List Value := l.map fun x => .string ⟨x.toArray⟩
theorem strsV_len (l : List Txt) : (strsV l).length = l.length := List.length_map _
theorem strsV_app (l m : List Txt) : strsV l ++ strsV m = strsV (l ++ m) := by unfold strsV; rw [List.map_append]
theorem strsV_at (l : List Txt) (i : Nat) (h : i < l.length) : (strsV l)[i]? = some (.string ⟨l[i].toArray⟩) := by
  unfold strsV
  rw [List.getElem?_map, List.getElem?_eq_getElem h]; rfl
theorem strsV_one (l : List Txt) : ∀ u ∈ strsV l, u.oneCell' = true := by
  intro u hu
  obtain ⟨x, -, rfl⟩ := List.mem_map.1 hu
  rfl
/-- what reads as a list of texts -/
def StrsIs (w : World) (v : Value) (l : List Txt) : Prop :=
  ∃ a cap, v = .slice a l.length cap ∧ l.length ≤ cap ∧ cap ≤ maxLen ∧ ∀ i (h : i < l.length), ∃ x, a = some x ∧ w.cell? (x.add i) = some (.string ⟨l[i].toArray⟩)
theorem strsIs_row {w : World} {base : Nat} {v : Value} {l : List Txt} (h : w.ownsRow base 9 1 v l.length (strsV l)) : StrsIs w v l := by
  have hc := fun g hg => h.cells (g := g) hg
  rcases h.2 with ⟨rfl, h0⟩ | ⟨g, cap, cur, rfl, hb, hg, hn, hm, hs, htake⟩
  · exact ⟨none, 0, by rw [h0], by omega, by simp [maxLen], fun i hi => by omega⟩
  · exact ⟨_, cap, rfl, hn, hm, fun i hi => ⟨_, rfl, hc g rfl i _ (strsV_at l i hi)⟩⟩
/-- a row of texts of the call's own -/
def StrO (v : Value) (l : List Txt) : Own := fun w F => w.ownsRow 0 9 1 v l.length (strsV l) ∧ ∀ k, F k ↔ v.ownBlock = some k
theorem strO_lies (v : Value) (l : List Txt) : Lies (StrO v l) := by
  refine ⟨?_, ?_⟩
  · rintro w F ⟨h, hF⟩ k hk
    exact (h.lt k ((hF k).1 hk)).2
  · rintro w w' F ⟨h, hF⟩ hk
    refine ⟨⟨h.1, ?_⟩, hF⟩
    rcases h.2 with h0 | ⟨g, cap, cur, rfl, hb, hg, h4⟩
    · exact .inl h0
    · exact .inr ⟨g, cap, cur, rfl, hb, (hk g ((hF g).2 rfl)).trans hg, h4⟩
theorem strO_nil {w0 w : World} {R : Own} (h : Made w0 w R) (hR : Lies R) : Made w0 w (Sep (StrO (.slice none 0 0) []) R) :=
  h.more hR (Below.refl _ w) (S := StrO (.slice none 0 0) []) (F := fun _ => False) ⟨World.ownsRow_nil _ _ _ _, fun k => ⟨fun h => h.elim, fun h => by cases h⟩⟩ (fun k hk => hk.elim)
theorem strO_is {w0 w : World} {v : Value} {l : List Txt} {R : Own} (h : Made w0 w (Sep (StrO v l) R)) : StrsIs w v l := by
  obtain ⟨F, hF, -, -⟩ := h.first
  exact strsIs_row hF.1
theorem strO_row {w0 w : World} {v : Value} {l : List Txt} {R : Own} (h : Made w0 w (Sep (StrO v l) R)) : w.ownsRow 0 9 1 v l.length (strsV l) := by
  obtain ⟨F, hF, -, -⟩ := h.first
  exact hF.1
/-- a row that a callee made -/
theorem strO_new {w0 w w' : World} {v : Value} {l : List Txt} {R : Own} (h : Made w0 w R) (hR : Lies R) (hb : Below w.heap.size w w') (ho : w'.ownsRow w.heap.size 9 1 v l.length (strsV l)) : Made w0 w' (Sep (StrO v l) R) :=
  h.more hR hb (S := StrO v l) (F := fun k => v.ownBlock = some k) ⟨⟨ho.1, ho.2.imp id (fun ⟨g, cap, cur, h1, _, h3⟩ => ⟨g, cap, cur, h1, Nat.zero_le _, h3⟩)⟩, fun _ => Iff.rfl⟩ (fun k hk => (ho.lt k hk).1)
/-- a literal without elements -/
theorem strO_empty {w0 w : World} {R : Own} (h : Made w0 w R) (hR : Lies R) : Made w0 (w.alloc (.cells #[] 9)) (Sep (StrO (.slice (some ⟨w.heap.size, 0, none⟩) 0 0) []) R) :=
  strO_new h hR ((Below.refl w.heap.size w).alloc (Nat.le_refl _) _) ⟨rfl, .inr ⟨w.heap.size, 0, #[], rfl, Nat.le_refl _, heap_alloc_new w _, Nat.le_refl _, by simp [maxLen], rfl, rfl⟩⟩
theorem info_strO : (Try.prog.info? 9).map (fun i => (i.zero, i.size, i.bytes)) = some (some (.string ⟨#[]⟩), 1, 16) := by kernel_rfl
/-- texts put behind a row -/
theorem wpList_append_strO {ops : Array Oper} {rest : List Oper} {o : Oper} {a : Act} {w0 w : World} {P : Exit → Act → World → Prop} (hgd : o.guard = none) (s x : Operand)
    (ho : o.op = .call { callee := .builtin .append, args := #[s, x], argTypes := #[26, 26] }) (v : Value) (l m : List Txt) (R : Own) (hR : Lies R) (hs : a.eval s = v) (hM : Made w0 w (Sep (StrO v l) R))
    (ad : Addr) (c : Nat) (n : Nat) (hx : a.eval x = .slice (some ad) n c) (hn : n = m.length) (hnews : ∀ i (h : i < m.length), w.cell? (ad.add i) = some (.string ⟨m[i].toArray⟩)) (hlen : l.length + m.length ≤ 1073741824)
    (h : ∀ v' w', Made w0 w' (Sep (StrO v' (l ++ m)) R) → wpList Try.prog ops P rest (a.put o.dst v') w') : wpList Try.prog ops P (o :: rest) a w := by
  obtain ⟨i0, hi0, hz0, hz1, hz2⟩ := info_parts info_strO
  obtain ⟨F, hF, -, hk⟩ := hM.first
  subst hn
  refine wpList_append_own_at (w := w) hgd s x 26 ho 0 9 i0 _ 1 16 Try.underlying26 hi0 hz0 hz1 hz2 rfl (by decide) v l.length (strsV l) hs hF.1 ad m.length c (strsV m) hx (by rw [strsV_len, Nat.mul_one]) ?_ (strsV_one m) (by unfold maxLen; omega) (by omega) (Nat.zero_le _) ?_
  · intro j u hj
    have hjl : j < m.length := by
      have := (List.getElem?_eq_some_iff.1 hj).1
      rwa [strsV_len] at this
    rw [strsV_at m j hjl] at hj
    rw [hnews j hjl]; exact hj
  · intro v1 w1 hown hgr _ hat
    refine h v1 w1 (hk w1 (StrO v1 (l ++ m)) (fun k => v1.ownBlock = some k) hR ⟨by rw [List.length_append, ← strsV_app]; exact hown, fun _ => Iff.rfl⟩ ⟨hgr.os, hgr.tape, hgr.output, hgr.size, fun k hkk hFk => hgr.block k hkk (fun e => hFk ((hF.2 k).2 e.symm)), fun k hkk => ?_⟩)
    rcases hat with e | e
    · exact .inl ((hF.2 k).2 (by rw [← e]; exact hkk))
    · refine .inr ?_
      rw [e] at hkk
      have := Option.some.inj hkk
      omega
end Go.Proofs.Ytappdjhhaohejaa
