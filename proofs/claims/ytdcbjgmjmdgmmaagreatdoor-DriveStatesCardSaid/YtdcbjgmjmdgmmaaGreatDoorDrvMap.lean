/-
  A map from texts to numbers that the call itself made, told by what a look-up answers; the states' map, and State.
-/
import Derived.Maps.OwnSet
import Derived.Maps.Views
import Derived.Test.YtdcbjgmjmdgmmaaGreatDoorDrvName
import Derived.Test.YtdcbjgmjmdgmmaaGreatDoorP6
import Derived.ProofKit
import Derived.WalkKit
namespace Go.Proofs.YtdcbjgmjmdgmmaaGreatDoor
open Go.RowKit Go.Lib Go.WideMaps Go.Maps

/-- the map's block, at most n entries, and what it answers at each text -/
def MapNum (w : World) (P : Program) (k e : TypeId) (b n : Nat) (f : Txt → Option Int) : Prop :=
  ∃ D : DataW Unit, w.ownsMap P k (plainElem P e) b n D ∧ IsMap D ∧ ∀ t : Txt, D.atKey (.string t) (.lit (.int .i64 0)) = .lit (.int .i64 ((f t).getD 0)) ∧ Maps.has D (.string t) = (f t).isSome
theorem mapNum_made (w : World) (P : Program) (k e : TypeId) : MapNum (w.alloc (.map #[] 0)) P k e w.heap.size 0 (fun _ => none) :=
  ⟨.map [], World.ownsMap_made _ _ _ _, isMap_empty, fun _ => ⟨rfl, rfl⟩⟩
/-- entries that a literal lays into its own map, one behind the other -/
def InsAll (t : TypeId) (b : Nat) : Act → List Oper → List (Txt × Int) → Prop
  | a, o :: os, p :: ks => o.guard = none ∧ (∃ m x v, o.op = Op.insert t m x v ∧ a.eval m = .map (some b) ∧ a.eval x = .string ⟨p.1.toArray⟩ ∧ a.eval v = .int .i64 p.2) ∧ InsAll t b (a.put o.dst undef) os ks
  | _, [], [] => True
  | _, _, _ => False
def insF (f : Txt → Option Int) (p : Txt × Int) : Txt → Option Int := fun u => if u = p.1 then some p.2 else f u
theorem wpList_insert_all {P : Program} {ops : Array Oper} {rest : List Oper} {Q : Exit → Act → World → Prop} (t k e : TypeId) (hk : P.underlying k = some .string) (ht : P.underlying t = some (.map k e)) (he : P.underlying e = some (.int .i64)) (b : Nat) :
    ∀ (ks : List (Txt × Int)) (os : List Oper) (a : Act) (w : World) (n : Nat) (f : Txt → Option Int), MapNum w P k e b n f → n + ks.length < maxLen → (∀ p ∈ ks, p.1.length ≤ maxLen ∧ (Lit.int .i64 p.2).wf = true) → InsAll t b a os ks →
      (∀ w', MapNum w' P k e b (n + ks.length) (ks.foldl insF f) → w.grownBy w' (some b) → wpList P ops Q rest (os.foldl (fun a o => a.put o.dst undef) a) w') → wpList P ops Q (os ++ rest) a w
  | [], [], a, w, n, f, h, _, _, _, hK => hK w h (World.grownBy.refl w _)
  | [], o :: os, a, w, n, f, _, _, _, hI, _ => by simp [InsAll] at hI
  | p :: ks, [], a, w, n, f, _, _, _, hI, _ => by simp [InsAll] at hI
  | p :: ks, o :: os, a, w, n, f, h, hn, hs, hI, hK => by
    obtain ⟨hg, ⟨m, x, v, hop, hm, hx, hv⟩, hI⟩ := hI
    obtain ⟨D, h1, h2, h3⟩ := h
    obtain ⟨hs1, hs2⟩ := hs p (.head _)
    rw [List.length_cons] at hn
    have hsz : (⟨p.1.toArray⟩ : ByteArray).size ≤ maxLen := by rw [Lib.size_eq, List.toList_toArray]; exact hs1
    obtain ⟨w', hrun, r, g⟩ := h1.update (string_keyed hk) ht (by omega) (keyOf_string_mk hk hsz) (plainElem_int he hs2)
    rw [List.toList_toArray] at r
    show wpList P ops Q (o :: (os ++ rest)) a w
    refine wpList_plain hg fun K' hK' => ?_
    unfold Oper.wp
    simp [execOp, hop, hm, hx, hv, hrun, Result.andThen]
    refine hK' _ _ (wpList_insert_all t k e hk ht he b ks os _ w' (n + 1) (insF f p) ⟨_, r, h2.put _ _, fun u => ?_⟩ (by omega) (fun q hq => hs q (.tail _ hq)) hI fun w2 hw2 g2 => ?_)
    · unfold insF
      by_cases hu : u = p.1
      · rw [if_pos hu, hu]
        exact ⟨atKey_put_same h2 (show WideAt.IsKeyLit (.string p.1) from trivial) _ _, has_put_same h2 (show WideAt.IsKeyLit (.string p.1) from trivial) _⟩
      · rw [if_neg hu, atKey_put_other (fun e => hu (by injection e)) _ _, has_put_other (fun e => hu (by injection e)) _]
        exact h3 u
    · refine hK w2 ?_ (g.andThen g2 (fun j hj => .inr hj))
      rw [List.length_cons, Nat.add_comm ks.length 1, ← Nat.add_assoc]
      exact hw2
/-- a look-up at a text, and whether it is there -/
theorem wpList_look_num {P : Program} {w : World} {ops : Array Oper} {rest : List Oper} {o : Oper} {a : Act} {Q : Exit → Act → World → Prop}
    (hg : o.guard = none) (m x : Operand) (t : TypeId) (hop : o.op = Op.lookup t m x true)
    (k e : TypeId) (hk : P.underlying k = some .string) (ht : P.underlying t = some (.map k e)) (he : P.underlying e = some (.int .i64)) (hz : (zeroValue e).run P w = .ok (.int .i64 0) w) (b n : Nat) (f : Txt → Option Int)
    (hm : a.eval m = .map (some b)) (hown : MapNum w P k e b n f) (s : ByteArray) (hs : s.size ≤ maxLen) (hx : a.eval x = .string s)
    (hK : wpList P ops Q rest (a.put o.dst (.tuple #[.int .i64 ((f s.data.toList).getD 0), .bool (f s.data.toList).isSome])) w) :
    wpList P ops Q (o :: rest) a w := by
  obtain ⟨D, h1, h2, h3⟩ := hown
  obtain ⟨e1, e2⟩ := h3 s.data.toList
  refine wpList_lookup_own_ok_int w hg m x t hop k e .i64 (string_keyed hk) ht he hz b n D hm h1 _ _ hx (keyOf_string_mk hk hs) ?_
  intro c hc _
  rw [e1] at hc
  simp only [DataW.lit.injEq, Lit.int.injEq, true_and] at hc
  rw [e2, ← hc]
  exact hK

/-- what the states' map answers -/
def stF : Txt → Option Int := stTab.foldl insF (fun _ => none)
theorem insF_miss (u : Txt) : ∀ (ks : List (Txt × Int)) (f : Txt → Option Int), (∀ p ∈ ks, p.1 ≠ u) → ks.foldl insF f u = f u
  | [], f, _ => rfl
  | p :: ks, f, h => by
    rw [List.foldl_cons, insF_miss u ks _ (fun q hq => h q (.tail _ hq))]
    unfold insF
    rw [if_neg (fun e => h p (.head _) e.symm)]
theorem stF_hit : ∀ p ∈ stTab, stF p.1 = some p.2 := by decide +kernel
theorem stF_is (nm : Txt) : (stF nm).getD 0 = drvN nm ∧ (stF nm).isSome = decide (drvN nm ≠ 0) := by
  rcases st_cases nm with ⟨p, hp, rfl, e⟩ | ⟨h, e⟩
  · have h1 := st_tab p hp
    rw [stF_hit p hp, e]
    exact ⟨rfl, (decide_eq_true (show p.2 ≠ 0 by omega)).symm⟩
  · rw [show stF nm = none from insF_miss nm stTab _ h, e]
    exact ⟨rfl, rfl⟩

set_option maxRecDepth 100000 in
set_option maxHeartbeats 4000000 in
theorem drvStates_any (w : World) :
    Calls Tryz.prog 24 #[] w fun e w' => e = .returned (.map (some w.heap.size)) ∧ MapNum w' Tryz.prog 9 3 w.heap.size 10 stF ∧ Below w.heap.size w w' := by
  have hmm := @run_makeMap Tryz.prog
  go_enter Tryz.func24, Tryz.ntmps24
  go_wp2_with (refine wpList_insert_all (os := [_, _, _, _, _, _, _, _, _, _]) 44 9 3 Tryz.underlying9 Tryz.underlying44 Tryz.underlying3 w.heap.size stTab _ _ 0 _ (mapNum_made _ _ _ _) (by decide) (by decide +kernel) (by
    exact ⟨rfl, ⟨_, _, _, rfl, rfl, rfl, rfl⟩, rfl, ⟨_, _, _, rfl, rfl, rfl, rfl⟩, rfl, ⟨_, _, _, rfl, rfl, rfl, rfl⟩, rfl, ⟨_, _, _, rfl, rfl, rfl, rfl⟩, rfl, ⟨_, _, _, rfl, rfl, rfl, rfl⟩, rfl, ⟨_, _, _, rfl, rfl, rfl, rfl⟩, rfl, ⟨_, _, _, rfl, rfl, rfl, rfl⟩, rfl, ⟨_, _, _, rfl, rfl, rfl, rfl⟩, rfl, ⟨_, _, _, rfl, rfl, rfl, rfl⟩, rfl, ⟨_, _, _, rfl, rfl, rfl, rfl⟩, trivial⟩) ?_)
  intro w2 hown2 hg2
  simp only [List.foldl_cons, List.foldl_nil]
  go_wp2
  go_ret
  exact ⟨rfl, hown2, ((Below.refl _ w).alloc (Nat.le_refl _) _).grown hg2 (by simp) (fun j hj => by cases hj; exact Nat.le_refl _)⟩

set_option maxRecDepth 100000 in
set_option maxHeartbeats 2000000 in
/-- P16.1 -/
theorem drvState_any (nm : ByteArray) (w : World) (hn : nm.size ≤ 16777216) (_h : LaidAt w) :
    Calls Tryz.prog 13 #[.string nm] w fun e w' => e = .returned (.int .i64 (drvN nm.data.toList)) ∧ Below w.heap.size w w' := by
  have HS := fun w => Lib.hid (drvStates_any w)
  obtain ⟨e1, e2⟩ := stF_is nm.data.toList
  have hnm : nm.size ≤ maxLen := by unfold maxLen; omega
  obtain ⟨F, hF⟩ : ∃ F, stF = F := ⟨_, rfl⟩
  rw [hF] at HS e1 e2
  obtain ⟨K, hK⟩ : ∃ K, drvN nm.data.toList = K := ⟨_, rfl⟩
  rw [hK] at e1 e2 ⊢
  have E1 := Lib.hid e1
  have E2 := Lib.hid e2
  have hz : ∀ w, (zeroValue 3).run Tryz.prog w = .ok (.int .i64 0) w := fun w => by kernel_rfl
  clear e1 e2 hF hK _h
  by_cases h0 : K = 0
  · have E3 : Hid ((F nm.data.toList).isSome = false) := Lib.hid (by rw [E2.out]; exact decide_eq_false (fun h => h h0))
    have H0 := Lib.hid h0
    clear h0 E2
    go_enter Tryz.func13, Tryz.ntmps13
    go_wp2_with (first
      | (go_at_call 24; refine (HS _).out.mono ?_; rintro e w1 ⟨rfl, hown, b1⟩)
      | (at_lookup; refine wpList_look_num rfl _ _ 44 rfl 9 3 Tryz.underlying9 Tryz.underlying44 Tryz.underlying3 (hz _) w.heap.size 10 F rfl hown nm hnm rfl ?_; rw [E1.out, E3.out]))
    go_ret
    exact ⟨ret_int H0.out.symm, b1⟩
  · have E3 : Hid ((F nm.data.toList).isSome = true) := Lib.hid (by rw [E2.out]; exact decide_eq_true h0)
    clear h0 E2
    go_enter Tryz.func13, Tryz.ntmps13
    go_wp2_with (first
      | (go_at_call 24; refine (HS _).out.mono ?_; rintro e w1 ⟨rfl, hown, b1⟩)
      | (at_lookup; refine wpList_look_num rfl _ _ 44 rfl 9 3 Tryz.underlying9 Tryz.underlying44 Tryz.underlying3 (hz _) w.heap.size 10 F rfl hown nm hnm rfl ?_; rw [E1.out, E3.out]))
    go_ret
    exact ⟨rfl, b1⟩

set_option maxRecDepth 100000 in
set_option maxHeartbeats 2000000 in
theorem drvBehind_any (t : TokP) (ad : Option Addr) (len cap : Nat) (w : World) (hn : t.name.length ≤ 16777216) (h : LaidAt w) :
    Calls Tryz.prog 18 #[tokA t ad len cap] w fun e w' => e = .returned (.int .i64 (if t.kind = 1 then drvN t.name else 0)) ∧ Below w.heap.size w w' := by
  have HW := Lib.hid h
  obtain ⟨nm, hnm⟩ : ∃ nm : ByteArray, (⟨t.name.toArray⟩ : ByteArray) = nm := ⟨_, rfl⟩
  have hnm2 : nm.data.toList = t.name := by rw [← hnm, List.toList_toArray]
  have HS := fun w h => Lib.hid (drvState_any nm w (by rw [Lib.size_eq, hnm2]; exact hn) h)
  rw [hnm2] at HS
  unfold tokA
  rw [hnm]
  obtain ⟨K, hK⟩ : ∃ K, t.kind = K := ⟨_, rfl⟩
  rw [hK]
  by_cases hk : K = 1
  · subst hk
    rw [if_pos rfl]
    clear hK hnm hnm2 h
    obtain ⟨R, hR⟩ : ∃ R, drvN t.name = R := ⟨_, rfl⟩
    rw [hR] at HS ⊢
    clear hR
    go_enter Tryz.func18, Tryz.ntmps18
    have A1 := Lib.hid ((Below.refl w.heap.size w).alloc (Nat.le_refl _) (.cells #[.int .i64 1, .string nm, .string ⟨t.text.toArray⟩, .slice ad len cap, .bool t.self] 30))
    go_wp2_with (go_at_call 13; refine (HS _ (HW.out.below A1.out)).out.mono ?_; rintro e w1 ⟨rfl, b1⟩)
    go_ret
    exact ⟨rfl, A1.out.trans (b1.mono A1.out.size)⟩
  · rw [if_neg hk]
    have bk : (K == 1) = false := beq_eq_false_iff_ne.2 hk
    have bk2 : (K != 1) = true := by rw [bne, bk]; rfl
    have A1 := Lib.hid ((Below.refl w.heap.size w).alloc (Nat.le_refl _) (.cells #[.int .i64 K, .string nm, .string ⟨t.text.toArray⟩, .slice ad len cap, .bool t.self] 30))
    clear hK hnm hnm2 h hk HS
    go_enter Tryz.func18, Tryz.ntmps18
    go_wp2
    go_ret
    exact ⟨rfl, A1.out⟩
end Go.Proofs.YtdcbjgmjmdgmmaaGreatDoor
