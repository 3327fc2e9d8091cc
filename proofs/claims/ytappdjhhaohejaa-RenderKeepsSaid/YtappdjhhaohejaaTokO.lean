/-
  A row of tokens as an object of its own, and what reads as a list of tokens, but for their attributes.
-/
import Derived.Test.YtappdjhhaohejaaObjs
import Derived.Test.YtappdjhhaohejaaTkLits
import Derived.Deep.RegionLaw
namespace Go.Proofs.Ytappdjhhaohejaa
open Go.RowKit Go.Lib

/-- a slice that reads as a list of tokens, whatever their attributes are -/
def IsBare (w : World) (a : Option Addr) (len cap : Nat) (L : List TokP) : Prop :=
  L.length = len ∧ len ≤ cap ∧ cap ≤ maxLen ∧ ∀ i (h : i < L.length), ∃ x ad ln cp, a = some x ∧ TokCells w x i ⟨L[i], ad, ln, cp⟩
theorem IsToks.bare {w : World} {a : Option Addr} {len cap : Nat} {L : List TokP} (h : IsToks w a len cap L) : IsBare w a len cap L :=
  ⟨h.1, h.2.1, h.2.2.1, fun i hi => by
    obtain ⟨x, ad, ln, cp, h1, h2, -⟩ := h.2.2.2 i hi
    exact ⟨x, ad, ln, cp, h1, h2⟩⟩
theorem IsBare.below {w w' : World} {B : Nat} {a : Option Addr} {len cap : Nat} {L : List TokP} (h : IsBare w a len cap L) (hb : Below B w w') (hB : w.heap.size ≤ B) : IsBare w' a len cap L :=
  ⟨h.1, h.2.1, h.2.2.1, fun i hi => by
    obtain ⟨x, ad, ln, cp, h1, h2⟩ := h.2.2.2 i hi
    exact ⟨x, ad, ln, cp, h1, h2.below hb hB⟩⟩
theorem isBare_none (w : World) : IsBare w none 0 0 [] := (isToks_none w).bare
/-- what an append reads of it -/
theorem isBare_src {w : World} {a : Option Addr} {len cap : Nat} {L : List TokP} (h : IsBare w a len cap L) :
    ∃ Q : List TkV, Q.map TkV.t = L ∧ Src Try.prog 5 22 (.slice a len cap) len (cellsT Q) w := by
  have h0 := h.1
  have h2 : ∀ i, ∃ q : TkV, ∀ hi : i < L.length, q.t = L[i] ∧ ∃ x, a = some x ∧ TokCells w x i q := by
    intro i
    by_cases hi : i < L.length
    · obtain ⟨x, ad, ln, cp, h1, h2⟩ := h.2.2.2 i hi
      exact ⟨⟨L[i], ad, ln, cp⟩, fun _ => ⟨rfl, x, h1, h2⟩⟩
    · exact ⟨⟨zeroT, none, 0, 0⟩, fun h => absurd h hi⟩
  obtain ⟨f, hf⟩ : ∃ f : Nat → TkV, ∀ i (hi : i < L.length), (f i).t = L[i] ∧ ∃ x, a = some x ∧ TokCells w x i (f i) :=
    ⟨fun i => Classical.choose (h2 i), fun i => Classical.choose_spec (h2 i)⟩
  have hQl : ((List.range len).map f).length = len := by simp
  have hget : ∀ i (hi : i < ((List.range len).map f).length), ((List.range len).map f)[i] = f i := fun i hi => by
    rw [List.getElem_map, List.getElem_range]
  refine ⟨(List.range len).map f, ?_, ?_⟩
  · refine List.ext_getElem (by simp [h0]) fun i h1 h3 => ?_
    rw [List.getElem_map, List.getElem_map, List.getElem_range]
    exact (hf i h3).1
  · cases a with
    | none =>
      have hl0 : len = 0 := by
        rcases Nat.eq_zero_or_pos len with h | h
        · exact h
        · obtain ⟨-, x, hx, -⟩ := hf 0 (by omega)
          cases hx
      subst hl0
      exact Src.ofNil _ Try.underlying22 _
    | some x =>
      refine Src.ofSlice _ Try.underlying22 x len cap _ (by rw [cellsT_len, hQl]) ?_ (five_ones _)
      intro j u hj
      have hjl : j < (cellsT ((List.range len).map f)).length := (List.getElem?_eq_some_iff.1 hj).1
      rw [cellsT_len, hQl] at hjl
      have hi : j / 5 < ((List.range len).map f).length := by rw [hQl]; omega
      obtain ⟨e0, e1, e2, e3, e4⟩ := cellsT_at _ (j / 5) hi
      rw [hget] at e0 e1 e2 e3 e4
      obtain ⟨-, x', hx', hc⟩ := hf (j / 5) (by omega)
      obtain rfl := Option.some.inj hx'
      have hm : j = j / 5 * 5 ∨ j = j / 5 * 5 + 1 ∨ j = j / 5 * 5 + 2 ∨ j = j / 5 * 5 + 3 ∨ j = j / 5 * 5 + 4 := by omega
      rcases hm with hm | hm | hm | hm | hm
      · rw [hm, e0] at hj; rw [hm, ← hj]; exact hc.c0
      · rw [hm, e1] at hj; rw [hm, ← hj]; exact hc.c1
      · rw [hm, e2] at hj; rw [hm, ← hj]; exact hc.c2
      · rw [hm, e3] at hj; rw [hm, ← hj]; exact hc.c3
      · rw [hm, e4] at hj; rw [hm, ← hj]; exact hc.c4
/-- a row of tokens of the call's own -/
def TokO (v : Value) (L : List TokP) : Own := fun w F => ∃ Q : List TkV, Q.map TkV.t = L ∧ OwnsG w 0 29 5 v Q.length (cellsT Q) ∧ ∀ k, F k ↔ v.ownBlock = some k
theorem tokO_lies (v : Value) (L : List TokP) : Lies (TokO v L) := by
  refine ⟨?_, ?_⟩
  · rintro w F ⟨Q, -, h, hF⟩ k hk
    exact (h.lt k ((hF k).1 hk)).2
  · rintro w w' F ⟨Q, hq, h, hF⟩ hk
    refine ⟨Q, hq, ⟨h.1, ?_⟩, hF⟩
    rcases h.2 with h0 | ⟨g, cap, cur, fz, rfl, hb, hg, h4⟩
    · exact .inl h0
    · exact .inr ⟨g, cap, cur, fz, rfl, hb, (hk g ((hF g).2 rfl)).trans hg, h4⟩
theorem tokO_nil {w0 w : World} {R : Own} (h : Made w0 w R) (hR : Lies R) : Made w0 w (Sep (TokO (.slice none 0 0) []) R) :=
  h.more hR (Below.refl _ w) (S := TokO (.slice none 0 0) []) (F := fun _ => False) ⟨[], rfl, OwnsG.nil _ _ _ _, fun k => ⟨fun h => h.elim, fun h => by cases h⟩⟩ (fun k hk => hk.elim)
theorem tokO_empty {w0 w : World} {R : Own} (h : Made w0 w R) (hR : Lies R) : Made w0 (w.alloc (.cells #[] 29)) (Sep (TokO (.slice (some ⟨w.heap.size, 0, none⟩) 0 0) []) R) :=
  h.more hR ((Below.refl w.heap.size w).alloc (Nat.le_refl _) _) (S := TokO (.slice (some ⟨w.heap.size, 0, none⟩) 0 0) []) (F := fun k => k = w.heap.size)
    ⟨[], rfl, OwnsG.new w #[] (0, 0) 0 29 5 0 0 (Nat.zero_le _) (.inl (Nat.le_refl _)) (Nat.le_refl _) (by simp [maxLen]) rfl, fun k => ⟨fun h => by rw [h]; rfl, fun h => (Option.some.inj h).symm⟩⟩ (fun k hk => by omega)
theorem tokO_is {w0 w : World} {v : Value} {L : List TokP} {R : Own} (h : Made w0 w (Sep (TokO v L) R)) : ∃ a cap, v = .slice a L.length cap ∧ IsBare w a L.length cap L := by
  obtain ⟨F, ⟨Q, hq, ho, -⟩, -, -⟩ := h.first
  subst hq
  obtain ⟨a, cap, hv, hn, hm⟩ := ho.form
  rw [List.length_map]
  refine ⟨a, cap, hv, by simp, hn, hm, fun i hi => ?_⟩
  have hi' : i < Q.length := by simpa using hi
  obtain ⟨e0, e1, e2, e3, e4⟩ := cellsT_at Q i hi'
  have hown0 : ∃ g, v.ownBlock = some g ∧ a = some ⟨g, 0, none⟩ := by
    rcases ho.2 with ⟨-, h0⟩ | ⟨g, c, cur, fz, hvv, -⟩
    · omega
    · rw [hv] at hvv
      simp only [Value.slice.injEq] at hvv
      exact ⟨g, by rw [hv, hvv.1]; rfl, hvv.1⟩
  obtain ⟨g, hg, ha⟩ := hown0
  have hc := ho.cells hg
  refine ⟨_, Q[i].ad, Q[i].len, Q[i].cap, ha, ?_, ?_, ?_, ?_, ?_⟩
  all_goals simp only [List.getElem_map]
  · exact hc _ _ e0
  · exact hc _ _ e1
  · exact hc _ _ e2
  · exact hc _ _ e3
  · exact hc _ _ e4
/-- tokens put behind a row, from whatever source, as one step -/
theorem step_append_tokO {ops : Array Oper} {o : Oper} {a : Act} {w0 w : World} {K : Act → World → Prop} {P : Exit → Act → World → Prop} {E : Prop} (hgd : Region.wanted o (yielded ops a.tmps) = true) (s x : Operand)
    (ho : o.op = .call { callee := .builtin .append, args := #[s, x], argTypes := #[22, 22] }) (v : Value) (L : List TokP) (R : Own) (hR : Lies R) (hs : a.eval s = v) (hM : Made w0 w (Sep (TokO v L) R))
    (xv : Value) (m : Nat) (M : List TkV) (hx : a.eval x = xv) (hS : Src Try.prog 5 22 xv m (cellsT M) w) (hlen : L.length + M.length ≤ 1048576)
    (h : ∀ v' w', Made w0 w' (Sep (TokO v' (L ++ M.map TkV.t)) R) → K (a.put o.dst v') w') : if Region.wanted o (yielded ops a.tmps) = true then Oper.wp Try.prog o a w K P else E := by
  obtain ⟨i0, hi0, hz0, hz1, hz2⟩ := info_parts info_tok
  obtain ⟨F, ⟨Q, hq, hown, hF⟩, -, hk⟩ := hM.first
  have hql : Q.length = L.length := by rw [← hq, List.length_map]
  have hml : m = M.length := by
    have := hS.newsLen
    rw [cellsT_len] at this; omega
  subst hml
  rw [if_pos hgd]
  obtain ⟨v', w', hr, h2, h3, h4⟩ := run_append_G (P := Try.prog) w 0 22 22 o.type 29 i0 _ 5 72 Try.underlying22 hi0 hz0 hz1 hz2 rfl v Q.length (cellsT Q) hown xv M.length (cellsT M) hS (by unfold maxLen; omega) (by omega) (Nat.zero_le _)
  unfold Oper.wp execOp
  simp only [ho, resolve, invoke, builtin, Sem.run_bind, Sem.run_pure, Result.andThen_ok, List.map_toArray, List.map_cons, List.map_nil, hs, hx, hr]
  refine h v' w' (hk w' (TokO v' (L ++ M.map TkV.t)) (fun k => v'.ownBlock = some k) hR ⟨Q ++ M, by rw [List.map_append, hq], by rw [List.length_append, ← cellsT_add]; exact h2, fun _ => Iff.rfl⟩ ⟨h3.os, h3.tape, h3.output, h3.size, fun k hkk hFk => h3.block k hkk (fun e => hFk ((hF k).2 e.symm)), fun k hkk => ?_⟩)
  rcases h4 with e | e
  · exact .inl ((hF k).2 (by rw [← e]; exact hkk))
  · refine .inr ?_
    have hkk : v'.ownBlock = some k := hkk
    rw [e] at hkk
    have := Option.some.inj hkk
    omega
/-- the same, at an operation that a test may guard -/
theorem wpList_append_tokO {ops : Array Oper} {rest : List Oper} {o : Oper} {a : Act} {w0 w : World} {P : Exit → Act → World → Prop} (hgd : Region.wanted o (yielded ops a.tmps) = true) (s x : Operand)
    (ho : o.op = .call { callee := .builtin .append, args := #[s, x], argTypes := #[22, 22] }) (v : Value) (L : List TokP) (R : Own) (hR : Lies R) (hs : a.eval s = v) (hM : Made w0 w (Sep (TokO v L) R))
    (xv : Value) (m : Nat) (M : List TkV) (hx : a.eval x = xv) (hS : Src Try.prog 5 22 xv m (cellsT M) w) (hlen : L.length + M.length ≤ 1048576)
    (h : ∀ v' w', Made w0 w' (Sep (TokO v' (L ++ M.map TkV.t)) R) → wpList Try.prog ops P rest (a.put o.dst v') w') : wpList Try.prog ops P (o :: rest) a w :=
  wpList_step fun _ hK => step_append_tokO hgd s x ho v L R hR hs hM xv m M hx hS hlen fun v' w' hm => hK _ _ (h v' w' hm)
end Go.Proofs.Ytappdjhhaohejaa
