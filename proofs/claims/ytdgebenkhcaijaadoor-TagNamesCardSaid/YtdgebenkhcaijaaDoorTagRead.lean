/-
  What package tag's Read answers.
-/
import Derived.Test.YtdgebenkhcaijaaDoorTagCode
import Derived.Test.YtdgebenkhcaijaaDoorTagRefB
namespace Go.Proofs.YtdgebenkhcaijaaDoor
open Go.RowKit Go.Lib Go.WideMaps Go.Maps

/-- a token stored whole into its block; a token loaded out of it -/
theorem wpList_store_tok {ops : Array Oper} {rest : List Oper} {o : Oper} {a : Act} {w : World} {Q : Exit → Act → World → Prop} (hg : o.guard = none) (x y : Operand) (ho : o.op = .store 26 x y) (g : Nat) (t : TokP) (ad : Option Addr) (len cap : Nat)
    (hx : a.eval x = .pointer (some ⟨g, 0, none⟩)) (hy : a.eval y = tokA t ad len cap) (old : Array Value) (hb : w.heap[g]? = some (.cells old 26 (0, 0))) (h5 : old.size = 5)
    (hK : ∀ w', w'.heap[g]? = some (.cells #[.int .i64 t.kind, .string ⟨t.name.toArray⟩, .string ⟨t.text.toArray⟩, .slice ad len cap, .bool t.self] 26 (0, 0)) → w.grownBy w' (some g) → wpList Tryd.prog ops Q rest (a.put o.dst undef) w') :
    wpList Tryd.prog ops Q (o :: rest) a w := by
  refine wpList_plain hg fun K' hK' => wp_store_row 26 x y ho g #[.int .i64 t.kind, .string ⟨t.name.toArray⟩, .string ⟨t.text.toArray⟩, .slice ad len cap, .bool t.self] hx hy 26 old hb sizeTok h5 (by simp [Value.oneCell']) (hK' _ _ (hK _ (setRow_heap w g old _ _ _ hb) ?_))
  exact ⟨rfl, rfl, rfl, by simp, fun k _ hk => setRow_other w g k _ (fun e => hk (by rw [e]))⟩
theorem tokAt_row {w : World} {g : Nat} {t : TokP} {ad : Option Addr} {len cap : Nat} (h : w.heap[g]? = some (.cells #[.int .i64 t.kind, .string ⟨t.name.toArray⟩, .string ⟨t.text.toArray⟩, .slice ad len cap, .bool t.self] 26 (0, 0))) : TokAt w g t ad len cap := by
  refine ⟨?_, ?_, ?_, ?_, ?_⟩ <;> (rw [cell_of_row _ _ _ _ _ _ h]; rfl)
theorem run_loadAt_tok (w : World) (g : Nat) (t : TokP) (ad : Option Addr) (len cap : Nat) (h : TokAt w g t ad len cap) : (Instr.loadAt 26 (.pointer (some ⟨g, 0, none⟩))).run Tryd.prog w = .ok (tokA t ad len cap) w := by
  have := load_tok w g t ad len cap h
  simp [Instr.loadAt, Instr.sureAddr, this]
theorem wpList_load_tok {ops : Array Oper} {rest : List Oper} {o : Oper} {a : Act} {w : World} {Q : Exit → Act → World → Prop} (hg : o.guard = none) (x : Operand) (ho : o.op = .load 26 x) (g : Nat) (t : TokP) (ad : Option Addr) (len cap : Nat)
    (hx : a.eval x = .pointer (some ⟨g, 0, none⟩)) (hT : TokAt w g t ad len cap) (hK : wpList Tryd.prog ops Q rest (a.put o.dst (tokA t ad len cap)) w) :
    wpList Tryd.prog ops Q (o :: rest) a w := by
  refine wpList_plain hg fun K' hK' => ?_
  unfold Oper.wp
  simp [execOp, ho, hx, run_loadAt_tok w g t ad len cap hT, Result.andThen]
  exact hK' _ _ hK
theorem isRows_grown {w w' : World} {ad : Option Addr} {len cap : Nat} {l : List Ln} {g : Nat} (h : IsRows w ad len cap l) (hg : w.grownBy w' (some g)) (hne : ∀ k, (Value.slice ad len cap).ownBlock = some k → k ≠ g) : IsRows w' ad len cap l := by
  refine ⟨h.1, h.2.1, h.2.2.1, fun i hi => ?_⟩
  obtain ⟨x, rfl, h1, h2⟩ := h.2.2.2 i hi
  have hx := hne x.block rfl
  have hlt : x.block < w.heap.size := by
    have := block_lt_of_cell h1
    rwa [show (x.add (i * 2)).block = x.block by unfold Addr.add; split <;> rfl] at this
  have hb := hg.block x.block hlt (fun e => hx (Option.some.inj e))
  have hc : ∀ n, w'.cell? (x.add n) = w.cell? (x.add n) := fun n => by
    refine World.cell?_of_block ?_
    rw [show (x.add n).block = x.block by unfold Addr.add; split <;> rfl]
    exact hb
  exact ⟨x, rfl, by rw [hc]; exact h1, by rw [hc]; exact h2⟩

set_option maxRecDepth 100000 in
set_option maxHeartbeats 4000000 in
/-- P9.2 -/
theorem tag_any (s : ByteArray) (a : Int) (w : World) (hs : s.size ≤ 1048576) (ha : -9223372036854775808 ≤ a ∧ a ≤ 9223372036854775807) (h : LaidAt w) :
    Calls Tryd.prog 8 #[.string s, .int .i64 a] w (TellT s a w) := by
  have HT := Lib.hid h
  clear h
  have HK := fun w => Lib.hid (kindOf_any s a w hs ha)
  have hmf : ∀ (fn : Fn) (first cap : Array Value) (w : World), (Instr.makeFunc fn first cap).run Tryd.prog w = .ok (.func fn first cap) w := fun _ _ _ _ => rfl
  have hv0 := begA_v s.data.toList a
  by_cases hb : begA s.data.toList a = 0
  · rw [hb] at HK hv0
    have hV : tagV s.data.toList a = (zeroT, a, false) := (tag_out s.data.toList a (fun h => by
      unfold begA at hb; rw [if_pos h.1] at hb; exact h.2 hb)).1
    have HV := Lib.hid hV
    rw [hv0] at HK
    clear hV hv0 hb ha
    go_enter Tryd.func8, Tryd.ntmps8
    go_wp2_with (fail)
    refine (HK _).out.mono ?_
    rintro e w1 ⟨rfl, b1⟩
    have HB := Lib.hid ((b1.block _ (by simp)).trans (heap_alloc_new w _))
    have B1 := Lib.hid (((Below.refl _ w).alloc (Nat.le_refl _) _).trans (b1.mono (by simp)))
    clear b1
    go_wp2_with (refine wpList_store_tok rfl _ _ rfl w.heap.size zeroT none 0 0 rfl rfl _ HB.out rfl ?_; intro w2 hb2 hg2)
    have B2 := B1.out.grown hg2 B1.out.size (fun j hj => by cases hj; exact Nat.le_refl _)
    refine bodyPost_ret (results_tok rfl _ _ w.heap.size zeroT none 0 0 rfl (tokAt_row hb2)) rfl ?_
    exact ⟨zeroT, none, 0, 0, _, false, rfl, isRows_none _, HV.out, B2⟩
  obtain ⟨k, rfl⟩ : ∃ k : Nat, a = k := ⟨a.toNat, by
    by_cases h : 0 ≤ a
    · omega
    · unfold begA at hb; rw [if_neg h] at hb; exact absurd rfl hb⟩
  have hle := begA_le s.data.toList (k : Int)
  rw [begA_in] at hb hle HK hv0
  have hlen := tg_len _ hb
  rw [List.length_drop, ← Lib.size_eq] at hlen
  have h12 : begT (s.data.toList.drop k) = 1 ∨ begT (s.data.toList.drop k) = 2 := by
    rcases hle with h | h | h
    · exact absurd h hb
    · exact .inl h
    · exact .inr h
  rw [hv0, decide_eq_true hb] at HK
  have hE : bhN tagB s.data.toList (k + begT (s.data.toList.drop k)) = k + begT (s.data.toList.drop k) + (tgN (s.data.toList.drop k)).length := by
    unfold bhN tgN; rw [List.drop_drop]
  have hX : (s.extract (k + begT (s.data.toList.drop k)) (k + begT (s.data.toList.drop k) + (tgN (s.data.toList.drop k)).length)).data.toList = tgN (s.data.toList.drop k) := by
    rw [extract_data, Nat.add_sub_cancel_left]
    unfold tgN
    rw [List.drop_drop, take_tw]
  have HRR := Lib.hid (read_rest s.data.toList k (k + begT (s.data.toList.drop k) + (tgN (s.data.toList.drop k)).length) hb rfl (by rw [← Lib.size_eq]; omega))
  rw [← Lib.size_eq] at HRR
  obtain ⟨b, hbb⟩ : ∃ b, begT (s.data.toList.drop k) = b := ⟨_, rfl⟩
  obtain ⟨nm, hnn⟩ : ∃ nm, tgN (s.data.toList.drop k) = nm := ⟨_, rfl⟩
  rw [hbb] at HK hlen h12 hE hX HRR
  rw [hnn] at hlen hE hX HRR
  obtain ⟨K, hK⟩ : ∃ K, k + b = K := ⟨_, rfl⟩
  obtain ⟨E, hEE⟩ : ∃ E, K + nm.length = E := ⟨_, rfl⟩
  rw [hK] at hE hX HRR
  rw [hEE] at hE hX HRR
  have hKs : K ≤ s.size := by omega
  have hEs : E ≤ s.size := by omega
  have hKE : K ≤ E := by omega
  have HN := fun w => Lib.hid (tgNameEnd_any s (K : Int) K w (by omega) rfl hKs)
  rw [hE] at HN
  have HA := fun w h => Lib.hid (attrs_fresh s (E : Int) w hs (by omega) h)
  obtain ⟨X, hXX⟩ : ∃ X, s.extract K E = X := ⟨_, rfl⟩
  rw [hXX] at hX
  have hXs : X.size ≤ 1048576 := by rw [← hXX, ByteArray.size_extract]; omega
  have HL := fun w => Lib.hid (lower X w (by omega))
  have HCl := fun w => Lib.hid (clean_any (lowS X) w (by rw [lowS_size]; omega))
  rw [lowS_list, hX, show cleanL (lowL nm) = tellN nm from rfl] at HCl
  have HX := Lib.hid hXX
  have hkb : (k : Int) + (b : Int) = (K : Int) := by omega
  have hk1 : k ≤ 1048576 := by omega
  clear hX hE hbb hnn hb hle hv0 ha hlen hXX hXs
  go_enter Tryd.func8, Tryd.ntmps8
  go_wp2_with (fail)
  refine (HK _).out.mono ?_
  rintro e w1 ⟨rfl, b1⟩
  have HB := Lib.hid ((b1.block _ (by simp)).trans (heap_alloc_new w _))
  have B1 := Lib.hid (((Below.refl _ w).alloc (Nat.le_refl _) _).trans (b1.mono (by simp)))
  have hlt0 : w.heap.size < w1.heap.size := (Array.getElem?_eq_some_iff.1 HB.out).1
  clear b1
  go_wp2_with (fail)
  refine (HN _).out.mono ?_
  rintro e w2 ⟨rfl, rfl⟩
  go_wp2_with (fail)
  refine (HA _ (HT.out.below B1.out)).out.mono ?_
  rintro e w3 ⟨ad, len, cap, l, self, n, ok, rfl, hr, hv, b3, hfr⟩
  have HFR : Hid (∀ k, (Value.slice ad len cap).ownBlock = some k → k ≠ w.heap.size) := Lib.hid (fun k hk => by have := hfr k hk; omega)
  have B3 := Lib.hid (B1.out.trans (b3.mono B1.out.size))
  have HB3 := Lib.hid ((b3.block _ hlt0).trans HB.out)
  have hlt3 := b3.size
  clear hfr b3
  rcases HRR.out with ⟨h1, h2⟩ | ⟨al, self', m, h1, h2⟩
  · rw [h1] at hv
    simp only [Prod.mk.injEq] at hv
    obtain ⟨rfl, rfl, rfl, rfl⟩ := hv
    have HV := Lib.hid h2
    clear h1 h2 hr
    go_wp2_with (refine wpList_store_tok rfl _ _ rfl w.heap.size zeroT none 0 0 rfl rfl _ HB3.out rfl ?_; intro w4 hb4 hg4)
    have B4 := B3.out.grown hg4 B3.out.size (fun j hj => by cases hj; exact Nat.le_refl _)
    refine bodyPost_ret (results_tok rfl _ _ w.heap.size zeroT none 0 0 rfl (tokAt_row hb4)) rfl ?_
    exact ⟨zeroT, none, 0, 0, _, false, rfl, isRows_none _, HV.out, B4⟩
  · rw [h1] at hv
    simp only [Prod.mk.injEq] at hv
    obtain ⟨rfl, rfl, rfl, rfl⟩ := hv
    have HV := Lib.hid h2
    have K3 := Lib.hid hr
    clear h1 h2 hr
    go_wp2_with (fail)
    rw [HX.out]
    refine (HL _).out.mono ?_
    rintro e w4 ⟨rfl, b4⟩
    go_wp2_with (fail)
    refine (HCl _).out.mono ?_
    rintro e w5 ⟨rfl, b5⟩
    have D5 := Lib.hid (b4.trans (b5.mono b4.size))
    have HB5 := Lib.hid ((D5.out.block _ (by omega)).trans HB3.out)
    have K5 := Lib.hid (K3.out.below D5.out (Nat.le_refl _))
    have B5 := Lib.hid (B3.out.trans (D5.out.mono B3.out.size))
    clear b4 b5
    have hne : ∀ k, (Value.slice ad len cap).ownBlock = some k → k ≠ w.heap.size := HFR.out
    have HNE := Lib.hid hne
    clear hne
    rcases h12 with rfl | rfl
    · go_wp2_with (first
        | (refine wpList_store_tok rfl _ _ rfl w.heap.size ⟨1, tellN nm, [], [], false⟩ none 0 0 rfl rfl _ HB5.out rfl ?_
           intro w6 hb6 hg6
           have HG6 := Lib.hid hg6
           have HB6 := Lib.hid hb6
           have c3 : w6.cell? ⟨w.heap.size, 3, none⟩ = some (.slice none 0 0) := by rw [cell_of_row _ _ _ _ _ _ hb6]; rfl
           have c4 : w6.cell? ⟨w.heap.size, 4, none⟩ = some (.bool false) := by rw [cell_of_row _ _ _ _ _ _ hb6]; rfl
           have f3 : w6.frozen? ⟨w.heap.size, 3, none⟩ = false := frozen_of_row _ _ _ _ _ hb6
           have f4 : w6.frozen? ⟨w.heap.size, 4, none⟩ = false := frozen_of_row _ _ _ _ _ hb6
           have hb7 : ((w6.setCell ⟨w.heap.size, 3, none⟩ (.slice ad len cap)).setCell ⟨w.heap.size, 4, none⟩ (.bool self')).heap[w.heap.size]? = some (.cells #[.int .i64 1, .string ⟨(tellN nm).toArray⟩, .string ⟨#[]⟩, .slice ad len cap, .bool self'] 26 (0, 0)) :=
             Go.heap_setCell_same _ w.heap.size 4 _ 26 _ (Go.heap_setCell_same w6 w.heap.size 3 _ 26 _ hb6)
           have HB7 := Lib.hid hb7
           clear hb6 hg6 hb7)
        | (refine wpList_load_tok rfl _ rfl w.heap.size ⟨1, tellN nm, [], al, self'⟩ ad len cap rfl (tokAt_row HB7.out) ?_)
        | (refine wpList_store_tok rfl _ _ rfl w.heap.size ⟨1, tellN nm, [], al, self'⟩ ad len cap rfl rfl _ HB7.out rfl ?_; intro w8 hb8 hg8))
      have B6 := B5.out.grown HG6.out B5.out.size (fun j hj => by cases hj; exact Nat.le_refl _)
      have B7 := (B6.setCell (p := ⟨w.heap.size, 3, none⟩) (Nat.le_refl _) (.slice ad len cap)).setCell (p := ⟨w.heap.size, 4, none⟩) (Nat.le_refl _) (.bool self')
      have B8 := B7.grown hg8 B7.size (fun j hj => by cases hj; exact Nat.le_refl _)
      have K6 := isRows_grown K5.out HG6.out HNE.out
      have K7 := isRows_set (isRows_set K6 w.heap.size 3 HNE.out (.slice ad len cap)) w.heap.size 4 HNE.out (.bool self')
      have K8 := isRows_grown K7 hg8 HNE.out
      refine bodyPost_ret (results_tok rfl _ _ w.heap.size ⟨1, tellN nm, [], al, self'⟩ ad len cap rfl (tokAt_row hb8)) rfl ?_
      exact ⟨⟨1, tellN nm, [], al, self'⟩, ad, len, cap, _, true, rfl, K8, HV.out, B8⟩
    · go_wp2_with (first
        | (refine wpList_store_tok rfl _ _ rfl w.heap.size ⟨2, tellN nm, [], [], false⟩ none 0 0 rfl rfl _ HB5.out rfl ?_; intro w6 hb6 hg6; have HG6 := Lib.hid hg6; have HB6 := Lib.hid hb6; clear hb6 hg6)
        | (refine wpList_load_tok rfl _ rfl w.heap.size ⟨2, tellN nm, [], [], false⟩ none 0 0 rfl (tokAt_row HB6.out) ?_)
        | (refine wpList_store_tok rfl _ _ rfl w.heap.size ⟨2, tellN nm, [], [], false⟩ none 0 0 rfl rfl _ HB6.out rfl ?_; intro w7 hb7 hg7))
      have B6 := B5.out.grown HG6.out B5.out.size (fun j hj => by cases hj; exact Nat.le_refl _)
      have B7 := B6.grown hg7 B6.size (fun j hj => by cases hj; exact Nat.le_refl _)
      refine bodyPost_ret (results_tok rfl _ _ w.heap.size ⟨2, tellN nm, [], [], false⟩ none 0 0 rfl (tokAt_row hb7)) rfl ?_
      exact ⟨⟨2, tellN nm, [], [], false⟩, none, 0, 0, _, true, rfl, isRows_none _, HV.out, B7⟩
end Go.Proofs.YtdgebenkhcaijaaDoor
