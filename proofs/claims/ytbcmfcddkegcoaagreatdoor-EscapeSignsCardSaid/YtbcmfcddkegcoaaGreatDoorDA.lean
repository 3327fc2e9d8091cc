/-
  Texts laid together: DrvMath, DrvName, DrvMap, DrvRef.
-/
import Derived.Test.YtbcmfcddkegcoaaGreatDoorQB
import Derived.Maps.OwnSet
import Derived.Maps.Views
import Derived.Test.YtbcmfcddkegcoaaGreatDoorP6
import Derived.ProofKit
import Derived.WalkKit
import Derived.Test.YtbcmfcddkegcoaaGreatDoorQH
import Derived.Test.YtbcmfcddkegcoaaGreatDoorTA
import Derived.Deep.RegionHeld3
/-! A text's pieces, each read in its state: plain mathematics. -/
namespace Go.Proofs.YtbcmfcddkegcoaaGreatDoor
open Go.RowKit Go.Lib

/-- P16.1: the ten names and their states -/
def stTab : List (Txt × Int) := [([116, 105, 116, 108, 101], 1), ([116, 101, 120, 116, 97, 114, 101, 97], 1), ([115, 116, 121, 108, 101], 2), ([120, 109, 112], 2), ([105, 102, 114, 97, 109, 101], 2), ([110, 111, 101, 109, 98, 101, 100], 2), ([110, 111, 102, 114, 97, 109, 101, 115], 2), ([110, 111, 115, 99, 114, 105, 112, 116], 2), ([115, 99, 114, 105, 112, 116], 3), ([112, 108, 97, 105, 110, 116, 101, 120, 116], 4)]
def drvN (nm : Txt) : Int := ((stTab.find? fun p => decide (p.1 = nm)).map Prod.snd).getD 0
theorem st_cases (nm : Txt) : (∃ p ∈ stTab, p.1 = nm ∧ drvN nm = p.2) ∨ ((∀ p ∈ stTab, p.1 ≠ nm) ∧ drvN nm = 0) := by
  unfold drvN
  cases h : stTab.find? (fun p => decide (p.1 = nm)) with
  | none =>
    refine .inr ⟨fun p hp e => ?_, rfl⟩
    have := List.find?_eq_none.1 h p hp
    simp [e] at this
  | some p => exact .inl ⟨p, List.mem_of_find?_eq_some h, of_decide_eq_true (List.find?_some (p := fun p : Txt × Int => decide (p.1 = nm)) h), rfl⟩
theorem st_tab : ∀ p ∈ stTab, 1 ≤ p.2 ∧ p.2 ≤ 4 ∧ drvN p.1 = p.2 ∧ (p.2 = 3 → p.1 = scL) ∧ p.1.head?.any letB = true ∧ lowL p.1 = p.1 ∧ cleanL p.1 = p.1 ∧ ∀ c ∈ p.1, tagB c = true := by decide +kernel
theorem st_range (nm : Txt) : 0 ≤ drvN nm ∧ drvN nm ≤ 4 := by
  rcases st_cases nm with ⟨p, hp, -, e⟩ | ⟨-, e⟩
  · have := st_tab p hp
    rw [e]; omega
  · rw [e]; decide
theorem st_some (nm : Txt) (h : drvN nm ≠ 0) : ∃ p ∈ stTab, p.1 = nm ∧ drvN nm = p.2 := by
  rcases st_cases nm with h1 | ⟨-, e⟩
  · exact h1
  · exact absurd e h
/-- a start tag behind which a text is read otherwise -/
abbrev SpecT (t : TokP) : Prop := t.kind = 1 ∧ drvN t.name ≠ 0
/-- P16.2, of what stands at a place: pieces, and how many bytes -/
noncomputable def drvS (l : Txt) : List TokP × Nat :=
  if (nx l).2.2 = true then
    (if SpecT (nx l).1 then ((nx l).1 :: (restK (drvN (nx l).1.name) (nx l).1.name (l.drop (nx l).2.1)).1, (nx l).2.1 + (restK (drvN (nx l).1.name) (nx l).1.name (l.drop (nx l).2.1)).2)
     else ([(nx l).1], (nx l).2.1))
  else ([], (nx l).2.1)
noncomputable def drvR : Nat → Txt → List TokP
  | 0, _ => []
  | f + 1, l => if l = [] then [] else (drvS l).1 ++ drvR f (l.drop (drvS l).2)
noncomputable def drvP (l : Txt) : List TokP := drvR l.length l
noncomputable def drvL (l : Txt) : List TokP := joinL (drvP l)
theorem drvS_in (l : Txt) : (drvS l).2 ≤ l.length ∧ (l ≠ [] → 1 ≤ (drvS l).2) := by
  have h := nx_in l
  unfold drvS
  split
  · split
    · have h2 := (rest_in (drvN (nx l).1.name) (nx l).1.name (l.drop (nx l).2.1)).1
      rw [List.length_drop] at h2
      exact ⟨by simp only; omega, fun hl => by have := h.2 hl; simp only; omega⟩
    · exact h
  · exact h
theorem drv_fuel : ∀ (f g : Nat) (l : Txt), l.length ≤ f → l.length ≤ g → drvR f l = drvR g l
  | 0, 0, l, _, _ => rfl
  | 0, g + 1, l, h, _ => by
    have : l = [] := List.eq_nil_of_length_eq_zero (by omega)
    subst this; rfl
  | f + 1, 0, l, _, h => by
    have : l = [] := List.eq_nil_of_length_eq_zero (by omega)
    subst this; rfl
  | f + 1, g + 1, l, h1, h2 => by
    unfold drvR
    by_cases hl : l = []
    · rw [if_pos hl, if_pos hl]
    · rw [if_neg hl, if_neg hl]
      have := (drvS_in l).2 hl
      rw [drv_fuel f g _ (by rw [List.length_drop]; omega) (by rw [List.length_drop]; omega)]
theorem drv_nil : drvP [] = [] := rfl
theorem drv_step (l : Txt) (h : l ≠ []) : drvP l = (drvS l).1 ++ drvP (l.drop (drvS l).2) := by
  have hp := (drvS_in l).2 h
  have hl := List.length_pos_iff.2 h
  unfold drvP
  rw [drv_fuel l.length ((l.length - 1) + 1) l (Nat.le_refl _) (by omega), drvR, if_neg h]
  rw [drv_fuel (l.length - 1) (l.drop (drvS l).2).length _ (by rw [List.length_drop]; omega) (Nat.le_refl _)]

/-! what stands behind such a start tag -/
theorem tail_tag (c : UInt8) (h : tailB c = true) : tagB c = false := by
  unfold tailB at h
  unfold tagB spB
  rw [h]; rfl
theorem tw_name : ∀ (nm l : Txt), nm.isPrefixOf (lowL l) = true → (∀ c ∈ nm, tagB c = true) → (l.drop nm.length).head?.any tailB = true → lowL (l.takeWhile tagB) = nm
  | [], l, _, _, h => by
    cases l with
    | nil => rfl
    | cons c t =>
      have hc : tailB c = true := by simpa using h
      rw [List.takeWhile_cons, tail_tag c hc]; rfl
  | d :: nm, l, hp, ht, h => by
    cases l with
    | nil => simp [lowL] at hp
    | cons e l =>
      rw [lowL_cons, List.isPrefixOf_cons_cons, Bool.and_eq_true, beq_iff_eq] at hp
      have hte : tagB e = true := by
        have := ht d (.head _)
        rw [hp.1, (low_keeps e).2.2.1] at this
        exact this
      rw [List.takeWhile_cons, if_pos hte, lowL_cons, tw_name nm l hp.2 (fun c hc => ht c (.tail _ hc)) (by simpa using h), hp.1]
theorem end_beg (nm l : Txt) (hl : nm.head?.any letB = true) (ht : ∀ c ∈ nm, tagB c = true) (hc : cleanL nm = nm) (h : endR nm l = true) : begT l = 2 ∧ tellN (tgN l) = nm := by
  unfold endR at h
  rw [Bool.and_eq_true, Bool.and_eq_true] at h
  obtain ⟨-, hp, htl⟩ := h
  obtain ⟨a, b, r, rfl⟩ : ∃ a b r, l = a :: b :: r := by
    match l, hp with
    | [], hp => simp [lowL] at hp
    | [c], hp => simp [lowL, List.isPrefixOf] at hp
    | a :: b :: r, _ => exact ⟨a, b, r, rfl⟩
  rw [lowL_cons, lowL_cons, List.isPrefixOf_cons_cons, List.isPrefixOf_cons_cons, Bool.and_eq_true, Bool.and_eq_true, beq_iff_eq, beq_iff_eq] at hp
  obtain ⟨h60, h47, hp⟩ := hp
  have e60 : a = 60 := (low_keeps a).2.2.2.2.2.2.2.2.1 h60.symm
  have e47 : b = 47 := (low_keeps b).2.2.2.2.1.1 h47.symm
  subst e60
  subst e47
  have htl' : (r.drop nm.length).head?.any tailB = true := by
    rw [show (60 :: 47 :: r).drop (2 + nm.length) = r.drop nm.length by rw [Nat.add_comm]; rfl] at htl
    exact htl
  have hw := tw_name nm r hp ht htl'
  have hbt : begT (60 :: 47 :: r) = 2 := by
    cases nm with
    | nil => simp at hl
    | cons d nm =>
      cases r with
      | nil => simp [lowL] at hp
      | cons e r =>
        rw [lowL_cons, List.isPrefixOf_cons_cons, Bool.and_eq_true, beq_iff_eq] at hp
        have hd : letB d = true := by simpa using hl
        rw [hp.1, (low_keeps e).2.1] at hd
        unfold begT
        simp [hd]
  refine ⟨hbt, ?_⟩
  unfold tgN tellN
  rw [hbt]
  show cleanL (lowL (r.takeWhile tagB)) = nm
  rw [hw, hc]
theorem end_read (nm l : Txt) (hs : drvN nm ≠ 0) (h : endR nm l = true) : begT l ≠ 0 ∧ ∀ t n, tagR l = some (t, n) → t = ⟨2, nm, [], [], false⟩ := by
  obtain ⟨p, hp, rfl, -⟩ := st_some nm hs
  obtain ⟨-, -, -, -, h1, -, h2, h3⟩ := st_tab p hp
  obtain ⟨e1, e2⟩ := end_beg p.1 l h1 h3 h2 h
  refine ⟨by rw [e1]; decide, fun t n hr => ?_⟩
  obtain ⟨-, -, -, al, self, ht, -⟩ := tag_ends l t n hr
  rw [ht, e1]
  unfold tokT
  rw [if_neg (by decide), e2]
theorem end_at (nm l : Txt) (hs : drvN nm ≠ 0) (hlt : endN15 (drvN nm) nm l < l.length) : endR nm (l.drop (endN15 (drvN nm) nm l)) = true := by
  obtain ⟨p, hp, rfl, -⟩ := st_some nm hs
  obtain ⟨h1, h2, h0, h3, -⟩ := st_tab p hp
  rw [h0] at hlt ⊢
  unfold endN15 at hlt ⊢
  by_cases h12 : p.2 = 1 ∨ p.2 = 2
  · rw [if_pos h12] at hlt ⊢
    exact (find_is p.1 l).2.2 hlt
  · rw [if_neg h12] at hlt ⊢
    by_cases h4 : p.2 = 3
    · rw [if_pos h4] at hlt ⊢
      rw [h3 h4]
      exact ((scr_is 0 0 l (by decide)).2.2 hlt).1
    · rw [if_neg h4] at hlt
      exact absurd hlt (Nat.lt_irrefl _)
/-- what is read behind such a start tag -/
theorem rest_shape (nm l : Txt) (hs : drvN nm ≠ 0) : ∃ x, ((restK (drvN nm) nm l).1 = emitT x ∧ (restK (drvN nm) nm l).2 = l.length) ∨ (restK (drvN nm) nm l).1 = emitT x ++ [⟨2, nm, [], [], false⟩] := by
  have hr := st_range nm
  have hle := endN_le (drvN nm) nm l
  refine ⟨saysR (drvN nm) nm l, ?_⟩
  unfold restK
  rw [if_pos (by omega)]
  by_cases he : endN15 (drvN nm) nm l = l.length
  · rw [if_pos he]; exact .inl ⟨rfl, rfl⟩
  · rw [if_neg he]
    obtain ⟨h1, h2⟩ := end_read nm _ hs (end_at nm l hs (by omega))
    rw [if_pos h1]
    cases hx : tagR (l.drop (endN15 (drvN nm) nm l)) with
    | none => exact .inl ⟨rfl, rfl⟩
    | some r =>
      obtain ⟨t, n⟩ := r
      refine .inr ?_
      rw [h2 t n hx]

/-! P16.3 -/
inductive ShR : List TokP → Prop
  | nil : ShR []
  | other (t : TokP) (L : List TokP) : ¬ SpecT t → ShR L → ShR (t :: L)
  | last (t : TokP) (x : Txt) : SpecT t → ShR (t :: emitT x)
  | ended (t u : TokP) (x : Txt) (L : List TokP) : SpecT t → u.kind = 2 → u.name = t.name → ShR L → ShR (t :: (emitT x ++ u :: L))
/-! without such a start tag all is read as data -/
/-! what stands within -/
/-! behind its end tag a text goes on as if it began there -/
end Go.Proofs.YtbcmfcddkegcoaaGreatDoor

/-! No name of a piece is long: plain mathematics. -/
namespace Go.Proofs.YtbcmfcddkegcoaaGreatDoor
open Go.RowKit Go.Lib

theorem tell_len (x : Txt) : (tellN x).length ≤ 3 * x.length := by
  unfold tellN
  have := (cleanL_len (lowL x)).2
  rw [lowL_len] at this
  exact this
theorem tag_name (l : Txt) (t : TokP) (n : Nat) (h : tagR l = some (t, n)) : t.name.length ≤ 3 * l.length := by
  obtain ⟨h1, h2, -, al, self, ht, -⟩ := tag_ends l t n h
  have h3 := tell_len (tgN l)
  have e : t.name = tellN (tgN l) := by rw [ht]; unfold tokT; split <;> rfl
  rw [e]; omega
theorem nx_name (l : Txt) : (nx l).1.name.length ≤ 3 * l.length := by
  rcases nx_cases l with ⟨h, -, e⟩ | ⟨h, t, n, hr, e⟩ | ⟨-, h, e⟩ | ⟨-, -, h, e⟩ | ⟨-, -, -, h, e⟩ | ⟨-, -, -, -, -, -, h, e⟩ | ⟨-, -, -, -, -, h, e⟩
  all_goals rw [e]; simp only
  · exact Nat.zero_le _
  · exact tag_name l t n hr
  all_goals exact Nat.zero_le _
/-- where there is no piece the token is no start tag -/
theorem nx_zero (l : Txt) (h : (nx l).2.2 = false) : (nx l).1 = zeroT := by
  rcases nx_cases l with ⟨_, -, e⟩ | ⟨_, t, n, hr, e⟩ | ⟨-, _, e⟩ | ⟨-, -, _, e⟩ | ⟨-, -, -, _, e⟩ | ⟨-, -, -, -, -, -, _, e⟩ | ⟨-, -, -, -, -, _, e⟩
  all_goals rw [e] at h ⊢
  all_goals first | rfl | (simp at h)
end Go.Proofs.YtbcmfcddkegcoaaGreatDoor

/-! A map from texts to numbers that the call itself made, told by what a look-up answers; the states' map, and State. -/
namespace Go.Proofs.YtbcmfcddkegcoaaGreatDoor
open Go.RowKit Go.Lib Go.WideMaps Go.Maps

/-- the map's block, at most n entries, and what it answers at each text -/
def MapNum (w : World) (P : Program) (k e : TypeId) (b n : Nat) (f : Txt → Option Int) : Prop :=
  ∃ D : DataW Unit, w.ownsMap P k (plainElem P e) b n D ∧ IsMap D ∧ ∀ t : Txt, D.atKey (.string t) (.lit (.int .i64 0)) = .lit (.int .i64 ((f t).getD 0)) ∧ Maps.has D (.string t) = (f t).isSome
theorem mapNum_made (w : World) (P : Program) (k e : TypeId) : MapNum (w.alloc (.map #[] 0)) P k e w.heap.size 0 (fun _ => none) :=
  ⟨.map [], World.ownsMap_made _ _ _ _, isMap_empty, fun _ => ⟨rfl, rfl⟩⟩
/-- entries that a literal lays into its own map, one behind the other -/
def InsAll (t : TypeId) (b : Nat) : Act → List Oper → List (Txt × Int) → Prop
  | a, o :: os, p :: ks => o.guard = none ∧ (∃ m x v, o.op = Op.insert t m x v ∧ a.eval m = .map (some b) ∧ a.eval x = .string ⟨p.1.toArray⟩ ∧ a.eval v = .int .i64 p.2) ∧ InsAll t b (a.put o.dst undef) os ks
  | _, [], [] => True
  | _, _, _ => False
def insF (f : Txt → Option Int) (p : Txt × Int) : Txt → Option Int := fun u => if u = p.1 then some p.2 else f u
theorem wpList_insert_all {P : Program} {ops : Array Oper} {rest : List Oper} {Q : Exit → Act → World → Prop} (t k e : TypeId) (hk : P.underlying k = some .string) (ht : P.underlying t = some (.map k e)) (he : P.underlying e = some (.int .i64)) (b : Nat) :
    ∀ (ks : List (Txt × Int)) (os : List Oper) (a : Act) (w : World) (n : Nat) (f : Txt → Option Int), MapNum w P k e b n f → n + ks.length < maxLen → (∀ p ∈ ks, p.1.length ≤ maxLen ∧ (Lit.int .i64 p.2).wf = true) → InsAll t b a os ks →
      (∀ w', MapNum w' P k e b (n + ks.length) (ks.foldl insF f) → w.grownBy w' (some b) → wpList P ops Q rest (os.foldl (fun a o => a.put o.dst undef) a) w') → wpList P ops Q (os ++ rest) a w
  | [], [], a, w, n, f, h, _, _, _, hK => hK w h (World.grownBy.refl w _)
  | [], o :: os, a, w, n, f, _, _, _, hI, _ => by simp [InsAll] at hI
  | p :: ks, [], a, w, n, f, _, _, _, hI, _ => by simp [InsAll] at hI
  | p :: ks, o :: os, a, w, n, f, h, hn, hs, hI, hK => by
    obtain ⟨hg, ⟨m, x, v, hop, hm, hx, hv⟩, hI⟩ := hI
    obtain ⟨D, h1, h2, h3⟩ := h
    obtain ⟨hs1, hs2⟩ := hs p (.head _)
    rw [List.length_cons] at hn
    have hsz : (⟨p.1.toArray⟩ : ByteArray).size ≤ maxLen := by rw [Lib.size_eq, List.toList_toArray]; exact hs1
    obtain ⟨w', hrun, r, g⟩ := h1.update (string_keyed hk) ht (by omega) (keyOf_string_mk hk hsz) (plainElem_int he hs2)
    rw [List.toList_toArray] at r
    show wpList P ops Q (o :: (os ++ rest)) a w
    refine wpList_plain hg fun K' hK' => ?_
    unfold Oper.wp
    simp [execOp, hop, hm, hx, hv, hrun, Result.andThen]
    refine hK' _ _ (wpList_insert_all t k e hk ht he b ks os _ w' (n + 1) (insF f p) ⟨_, r, h2.put _ _, fun u => ?_⟩ (by omega) (fun q hq => hs q (.tail _ hq)) hI fun w2 hw2 g2 => ?_)
    · unfold insF
      by_cases hu : u = p.1
      · rw [if_pos hu, hu]
        exact ⟨atKey_put_same h2 (show WideAt.IsKeyLit (.string p.1) from trivial) _ _, has_put_same h2 (show WideAt.IsKeyLit (.string p.1) from trivial) _⟩
      · rw [if_neg hu, atKey_put_other (fun e => hu (by injection e)) _ _, has_put_other (fun e => hu (by injection e)) _]
        exact h3 u
    · refine hK w2 ?_ (g.andThen g2 (fun j hj => .inr hj))
      rw [List.length_cons, Nat.add_comm ks.length 1, ← Nat.add_assoc]
      exact hw2
/-- a look-up at a text, and whether it is there -/
theorem wpList_look_num {P : Program} {w : World} {ops : Array Oper} {rest : List Oper} {o : Oper} {a : Act} {Q : Exit → Act → World → Prop}
    (hg : o.guard = none) (m x : Operand) (t : TypeId) (hop : o.op = Op.lookup t m x true)
    (k e : TypeId) (hk : P.underlying k = some .string) (ht : P.underlying t = some (.map k e)) (he : P.underlying e = some (.int .i64)) (hz : (zeroValue e).run P w = .ok (.int .i64 0) w) (b n : Nat) (f : Txt → Option Int)
    (hm : a.eval m = .map (some b)) (hown : MapNum w P k e b n f) (s : ByteArray) (hs : s.size ≤ maxLen) (hx : a.eval x = .string s)
    (hK : wpList P ops Q rest (a.put o.dst (.tuple #[.int .i64 ((f s.data.toList).getD 0), .bool (f s.data.toList).isSome])) w) :
    wpList P ops Q (o :: rest) a w := by
  obtain ⟨D, h1, h2, h3⟩ := hown
  obtain ⟨e1, e2⟩ := h3 s.data.toList
  refine wpList_lookup_own_ok_int w hg m x t hop k e .i64 (string_keyed hk) ht he hz b n D hm h1 _ _ hx (keyOf_string_mk hk hs) ?_
  intro c hc _
  rw [e1] at hc
  simp only [DataW.lit.injEq, Lit.int.injEq, true_and] at hc
  rw [e2, ← hc]
  exact hK

/-- what the states' map answers -/
def stF : Txt → Option Int := stTab.foldl insF (fun _ => none)
theorem insF_miss (u : Txt) : ∀ (ks : List (Txt × Int)) (f : Txt → Option Int), (∀ p ∈ ks, p.1 ≠ u) → ks.foldl insF f u = f u
  | [], f, _ => rfl
  | p :: ks, f, h => by
    rw [List.foldl_cons, insF_miss u ks _ (fun q hq => h q (.tail _ hq))]
    unfold insF
    rw [if_neg (fun e => h p (.head _) e.symm)]
theorem stF_hit : ∀ p ∈ stTab, stF p.1 = some p.2 := by decide +kernel
theorem stF_is (nm : Txt) : (stF nm).getD 0 = drvN nm ∧ (stF nm).isSome = decide (drvN nm ≠ 0) := by
  rcases st_cases nm with ⟨p, hp, rfl, e⟩ | ⟨h, e⟩
  · have h1 := st_tab p hp
    rw [stF_hit p hp, e]
    exact ⟨rfl, (decide_eq_true (show p.2 ≠ 0 by omega)).symm⟩
  · rw [show stF nm = none from insF_miss nm stTab _ h, e]
    exact ⟨rfl, rfl⟩

set_option maxRecDepth 100000 in
set_option maxHeartbeats 4000000 in
theorem drvStates_any (w : World) :
    Calls Tryz.prog 112 #[] w fun e w' => e = .returned (.map (some w.heap.size)) ∧ MapNum w' Tryz.prog 9 3 w.heap.size 10 stF ∧ Below w.heap.size w w' := by
  have hmm := @run_makeMap Tryz.prog
  go_enter Tryz.func112, Tryz.ntmps112
  go_wp2_with (refine wpList_insert_all (os := [_, _, _, _, _, _, _, _, _, _]) 42 9 3 Tryz.underlying9 Tryz.underlying42 Tryz.underlying3 w.heap.size stTab _ _ 0 _ (mapNum_made _ _ _ _) (by decide) (by decide +kernel) (by
    exact ⟨rfl, ⟨_, _, _, rfl, rfl, rfl, rfl⟩, rfl, ⟨_, _, _, rfl, rfl, rfl, rfl⟩, rfl, ⟨_, _, _, rfl, rfl, rfl, rfl⟩, rfl, ⟨_, _, _, rfl, rfl, rfl, rfl⟩, rfl, ⟨_, _, _, rfl, rfl, rfl, rfl⟩, rfl, ⟨_, _, _, rfl, rfl, rfl, rfl⟩, rfl, ⟨_, _, _, rfl, rfl, rfl, rfl⟩, rfl, ⟨_, _, _, rfl, rfl, rfl, rfl⟩, rfl, ⟨_, _, _, rfl, rfl, rfl, rfl⟩, rfl, ⟨_, _, _, rfl, rfl, rfl, rfl⟩, trivial⟩) ?_)
  intro w2 hown2 hg2
  simp only [List.foldl_cons, List.foldl_nil]
  go_wp2
  go_ret
  exact ⟨rfl, hown2, ((Below.refl _ w).alloc (Nat.le_refl _) _).grown hg2 (by simp) (fun j hj => by cases hj; exact Nat.le_refl _)⟩

set_option maxRecDepth 100000 in
set_option maxHeartbeats 2000000 in
/-- P16.1 -/
theorem drvState_any (nm : ByteArray) (w : World) (hn : nm.size ≤ 16777216) (_h : LaidAt w) :
    Calls Tryz.prog 80 #[.string nm] w fun e w' => e = .returned (.int .i64 (drvN nm.data.toList)) ∧ Below w.heap.size w w' := by
  have HS := fun w => Lib.hid (drvStates_any w)
  obtain ⟨e1, e2⟩ := stF_is nm.data.toList
  have hnm : nm.size ≤ maxLen := by unfold maxLen; omega
  obtain ⟨F, hF⟩ : ∃ F, stF = F := ⟨_, rfl⟩
  rw [hF] at HS e1 e2
  obtain ⟨K, hK⟩ : ∃ K, drvN nm.data.toList = K := ⟨_, rfl⟩
  rw [hK] at e1 e2 ⊢
  have E1 := Lib.hid e1
  have E2 := Lib.hid e2
  have hz : ∀ w, (zeroValue 3).run Tryz.prog w = .ok (.int .i64 0) w := fun w => by kernel_rfl
  clear e1 e2 hF hK _h
  by_cases h0 : K = 0
  · have E3 : Hid ((F nm.data.toList).isSome = false) := Lib.hid (by rw [E2.out]; exact decide_eq_false (fun h => h h0))
    have H0 := Lib.hid h0
    clear h0 E2
    go_enter Tryz.func80, Tryz.ntmps80
    go_wp2_with (first
      | (go_at_call 112; refine (HS _).out.mono ?_; rintro e w1 ⟨rfl, hown, b1⟩)
      | (at_lookup; refine wpList_look_num rfl _ _ 42 rfl 9 3 Tryz.underlying9 Tryz.underlying42 Tryz.underlying3 (hz _) w.heap.size 10 F rfl hown nm hnm rfl ?_; rw [E1.out, E3.out]))
    go_ret
    exact ⟨ret_int H0.out.symm, b1⟩
  · have E3 : Hid ((F nm.data.toList).isSome = true) := Lib.hid (by rw [E2.out]; exact decide_eq_true h0)
    clear h0 E2
    go_enter Tryz.func80, Tryz.ntmps80
    go_wp2_with (first
      | (go_at_call 112; refine (HS _).out.mono ?_; rintro e w1 ⟨rfl, hown, b1⟩)
      | (at_lookup; refine wpList_look_num rfl _ _ 42 rfl 9 3 Tryz.underlying9 Tryz.underlying42 Tryz.underlying3 (hz _) w.heap.size 10 F rfl hown nm hnm rfl ?_; rw [E1.out, E3.out]))
    go_ret
    exact ⟨rfl, b1⟩

set_option maxRecDepth 100000 in
set_option maxHeartbeats 2000000 in
theorem drvBehind_any (t : TokP) (ad : Option Addr) (len cap : Nat) (w : World) (hn : t.name.length ≤ 16777216) (h : LaidAt w) :
    Calls Tryz.prog 52 #[tokA t ad len cap] w fun e w' => e = .returned (.int .i64 (if t.kind = 1 then drvN t.name else 0)) ∧ Below w.heap.size w w' := by
  have HW := Lib.hid h
  obtain ⟨nm, hnm⟩ : ∃ nm : ByteArray, (⟨t.name.toArray⟩ : ByteArray) = nm := ⟨_, rfl⟩
  have hnm2 : nm.data.toList = t.name := by rw [← hnm, List.toList_toArray]
  have HS := fun w h => Lib.hid (drvState_any nm w (by rw [Lib.size_eq, hnm2]; exact hn) h)
  rw [hnm2] at HS
  unfold tokA
  rw [hnm]
  obtain ⟨K, hK⟩ : ∃ K, t.kind = K := ⟨_, rfl⟩
  rw [hK]
  by_cases hk : K = 1
  · subst hk
    rw [if_pos rfl]
    clear hK hnm hnm2 h
    obtain ⟨R, hR⟩ : ∃ R, drvN t.name = R := ⟨_, rfl⟩
    rw [hR] at HS ⊢
    clear hR
    go_enter Tryz.func52, Tryz.ntmps52
    have A1 := Lib.hid ((Below.refl w.heap.size w).alloc (Nat.le_refl _) (.cells #[.int .i64 1, .string nm, .string ⟨t.text.toArray⟩, .slice ad len cap, .bool t.self] 31))
    go_wp2_with (go_at_call 80; refine (HS _ (HW.out.below A1.out)).out.mono ?_; rintro e w1 ⟨rfl, b1⟩)
    go_ret
    exact ⟨rfl, A1.out.trans (b1.mono A1.out.size)⟩
  · rw [if_neg hk]
    have bk : (K == 1) = false := beq_eq_false_iff_ne.2 hk
    have bk2 : (K != 1) = true := by rw [bne, bk]; rfl
    have A1 := Lib.hid ((Below.refl w.heap.size w).alloc (Nat.le_refl _) (.cells #[.int .i64 K, .string nm, .string ⟨t.text.toArray⟩, .slice ad len cap, .bool t.self] 31))
    clear hK hnm hnm2 h hk HS
    go_enter Tryz.func52, Tryz.ntmps52
    go_wp2
    go_ret
    exact ⟨rfl, A1.out⟩
end Go.Proofs.YtbcmfcddkegcoaaGreatDoor

/-! What the document's State and Drive of layer 16 answer. (Written by wip/tools/gen_drvref.py.) -/
namespace Go.Proofs.YtbcmfcddkegcoaaGreatDoor
open Go.RowKit Go.Lib

end Go.Proofs.YtbcmfcddkegcoaaGreatDoor
