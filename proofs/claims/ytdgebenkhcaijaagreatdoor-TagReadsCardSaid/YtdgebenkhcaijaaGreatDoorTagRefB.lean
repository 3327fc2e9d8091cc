/-
  What the document's Read of layer 9 answers.
-/
import Derived.Test.YtdgebenkhcaijaaGreatDoorTagRef
namespace Go.Proofs.YtdgebenkhcaijaaGreatDoor
open Go.RowKit Go.Lib

theorem name_yes (s : ByteArray) (i : Nat) (h : i < s.size) (N : ByteArray) (nm : Txt) (hp : tagB s[i] = true) (hN : N.data.toList ++ (s.data.toList.drop i).takeWhile tagB = nm) : (N ++ s.extract i (i + 1)).data.toList ++ (s.data.toList.drop (i + 1)).takeWhile tagB = nm := by
  rw [drop_at s i h, tw_yes hp] at hN
  rw [ByteArray.data_append, Array.toList_append, extract_one s i h, List.append_assoc]; exact hN
theorem name_no (s : ByteArray) (i : Nat) (h : i < s.size) (N : ByteArray) (nm : Txt) (hp : tagB s[i] = false) (hN : N.data.toList ++ (s.data.toList.drop i).takeWhile tagB = nm) : N.data.toList = nm := by
  rw [drop_at s i h, tw_no hp, List.append_nil] at hN; exact hN
theorem name_end (s : ByteArray) (N : ByteArray) (nm : Txt) (hN : N.data.toList ++ (s.data.toList.drop s.size).takeWhile tagB = nm) : N.data.toList = nm := by
  rw [List.drop_eq_nil_of_le (by rw [← Lib.size_eq]; exact Nat.le_refl _), List.takeWhile_nil, List.append_nil] at hN; exact hN
/-- what follows of what stands behind the name -/
theorem read_rest (s : Txt) (k i : Nat) (hb : begT (s.drop k) ≠ 0) (hi : i = k + begT (s.drop k) + (tgN (s.drop k)).length) (hl : i ≤ s.length) :
    (attrsV s (i : Int) = ([], false, (s.length : Int), false) ∧ tagV s (k : Int) = (zeroT, (s.length : Int), false)) ∨
    ∃ (al : List Ln) (self : Bool) (m : Nat), attrsV s (i : Int) = (al, self, (m : Int), true) ∧ tagV s (k : Int) = (tokT (begT (s.drop k)) (tgN (s.drop k)) al self, (m : Int), true) := by
  have hd : (s.drop k).drop (begT (s.drop k) + (tgN (s.drop k)).length) = s.drop i := by rw [List.drop_drop, hi, Nat.add_assoc]
  cases hr : runA (.s0 []) (s.drop i) with
  | none =>
    refine .inl ⟨attrs_none s i hl (by unfold runI; rw [hr]; rfl), tag_none s k hb ?_⟩
    unfold tagR; rw [hd, hr]; rfl
  | some r =>
    obtain ⟨al, self, m⟩ := r
    refine .inr ⟨al, self, m + i, ?_, ?_⟩
    · exact attrs_some s i hl al self (m + i) (by unfold runI; rw [hr]; rfl)
    · rw [tag_some s k hb (tokT (begT (s.drop k)) (tgN (s.drop k)) al self) (begT (s.drop k) + (tgN (s.drop k)).length + m) (by unfold tagR; rw [hd, hr]; rfl)]
      rw [show k + (begT (s.drop k) + (tgN (s.drop k)).length + m) = m + i by omega]
/-- a block of five cells that is written anew -/
theorem tok_put (w : World) (g : Nat) (c0 c1 c2 c3 c4 : Value) (T : TypeId) (hg : w.heap[g]? = some (.cells #[c0, c1, c2, c3, c4] T (0, 0))) (t : TokP) (a : Option Addr) (len cap : Nat) :
    TokAt (((((w.setCell ⟨g, 0, none⟩ (.int .i64 t.kind)).setCell ⟨g, 1, none⟩ (.string ⟨t.name.toArray⟩)).setCell ⟨g, 2, none⟩ (.string ⟨t.text.toArray⟩)).setCell ⟨g, 3, none⟩ (.slice a len cap)).setCell ⟨g, 4, none⟩ (.bool t.self)) g t a len cap := by
  have h0 := Go.heap_setCell_same w g 0 _ T (.int .i64 t.kind) hg
  have h1 := Go.heap_setCell_same _ g 1 _ T (.string ⟨t.name.toArray⟩) h0
  have h2 := Go.heap_setCell_same _ g 2 _ T (.string ⟨t.text.toArray⟩) h1
  have h3 := Go.heap_setCell_same _ g 3 _ T (.slice a len cap) h2
  have h4 := Go.heap_setCell_same _ g 4 _ T (.bool t.self) h3
  refine ⟨?_, ?_, ?_, ?_, ?_⟩ <;> (rw [cell_of_row _ _ _ _ _ _ h4]; rfl)
theorem isRows_set {w : World} {ad : Option Addr} {len cap : Nat} {l : List Ln} (h : IsRows w ad len cap l) (g j : Nat) (hne : ∀ k, (Value.slice ad len cap).ownBlock = some k → k ≠ g) (v : Value) : IsRows (w.setCell ⟨g, j, none⟩ v) ad len cap l := by
  refine ⟨h.1, h.2.1, h.2.2.1, fun i hi => ?_⟩
  obtain ⟨x, rfl, h1, h2⟩ := h.2.2.2 i hi
  have hx : x.block ≠ g := hne x.block rfl
  have hc : ∀ n, (w.setCell ⟨g, j, none⟩ v).cell? (x.add n) = w.cell? (x.add n) := fun n =>
    World.cell?_of_block (Below.heap_setCell w ⟨g, j, none⟩ v _ (by rw [show (x.add n).block = x.block by unfold Addr.add; split <;> rfl]; exact hx))
  exact ⟨x, rfl, by rw [hc]; exact h1, by rw [hc]; exact h2⟩
theorem isRows_put5 {w : World} {ad : Option Addr} {len cap : Nat} {l : List Ln} (h : IsRows w ad len cap l) (g : Nat) (hne : ∀ k, (Value.slice ad len cap).ownBlock = some k → k ≠ g) (v0 v1 v2 v3 v4 : Value) :
    IsRows (((((w.setCell ⟨g, 0, none⟩ v0).setCell ⟨g, 1, none⟩ v1).setCell ⟨g, 2, none⟩ v2).setCell ⟨g, 3, none⟩ v3).setCell ⟨g, 4, none⟩ v4) ad len cap l :=
  isRows_set (isRows_set (isRows_set (isRows_set (isRows_set h g 0 hne v0) g 1 hne v1) g 2 hne v2) g 3 hne v3) g 4 hne v4
theorem below_put {B : Nat} {w w' : World} (h : Below B w w') (g : Nat) (hg : B ≤ g) (v0 v1 v2 v3 v4 : Value) :
    Below B w (((((w'.setCell ⟨g, 0, none⟩ v0).setCell ⟨g, 1, none⟩ v1).setCell ⟨g, 2, none⟩ v2).setCell ⟨g, 3, none⟩ v3).setCell ⟨g, 4, none⟩ v4) :=
  ((((h.setCell (p := ⟨g, 0, none⟩) hg v0).setCell (p := ⟨g, 1, none⟩) hg v1).setCell (p := ⟨g, 2, none⟩) hg v2).setCell (p := ⟨g, 3, none⟩) hg v3).setCell (p := ⟨g, 4, none⟩) hg v4

set_option maxRecDepth 100000 in
set_option maxHeartbeats 4000000 in
theorem refRead9_any (s : ByteArray) (a : Int) (w : World) (hs : s.size ≤ 1048576) (ha : -9223372036854775808 ≤ a ∧ a ≤ 9223372036854775807) :
    Calls Tryz.prog 6 #[.string s, .int .i64 a] w (TellT s a w) := by
  have HC := fun w => Lib.hid (refFrom_any s a w hs ha)
  by_cases hb : 0 ≤ a ∧ begT (s.data.toList.drop a.toNat) ≠ 0
  · obtain ⟨k, rfl⟩ : ∃ k : Nat, a = k := ⟨a.toNat, by omega⟩
    obtain ⟨-, hb⟩ := hb
    rw [show ((k : Nat) : Int).toNat = k by omega] at hb
    rw [from_in s.data.toList k _ rfl, if_neg hb] at HC
    have hlen := tg_len _ hb
    rw [List.length_drop, ← Lib.size_eq] at hlen
    have h12 : begT (s.data.toList.drop k) = 1 ∨ begT (s.data.toList.drop k) = 2 := by
      obtain ⟨c, t, -, ⟨-, h, -⟩ | ⟨-, h⟩⟩ := beg_cases _ hb
      · exact .inl h
      · exact .inr h
    have hnm : (s.data.toList.drop (k + begT (s.data.toList.drop k))).takeWhile tagB = tgN (s.data.toList.drop k) := by unfold tgN; rw [List.drop_drop]
    have HRest := fun i h1 h2 => Lib.hid (read_rest s.data.toList k i hb h1 h2)
    rw [← Lib.size_eq] at HRest
    obtain ⟨b, hbb⟩ : ∃ b, begT (s.data.toList.drop k) = b := ⟨_, rfl⟩
    obtain ⟨nm, hnn⟩ : ∃ nm, tgN (s.data.toList.drop k) = nm := ⟨_, rfl⟩
    rw [hbb] at HC hlen h12 hnm HRest
    rw [hnn] at hlen hnm HRest
    have HNM := Lib.hid hnm
    have HSp := fun c w => Lib.hid (refSpace ((c : UInt8).toNat : Int) w)
    have HA := fun i w h => Lib.hid (refAttrs_fresh s ((i : Nat) : Int) w hs h)
    clear hbb hnn hnm hb
    obtain ⟨K, hK⟩ : ∃ K, k + b = K := ⟨_, rfl⟩
    rw [hK] at HNM
    rw [show ((k + b : Nat) : Int) = (K : Int) by omega] at HC
    have hlen2 : K + nm.length ≤ s.size := by omega
    go_enter Tryz.func6, Tryz.ntmps6
    go_wp2_with (go_at_call 16; refine (HC _).out.mono ?_; rintro e w' ⟨rfl, rfl⟩)
    go_loopw [8, 9] (fun v8 v9 wr => ∃ (i d : Nat) (N : ByteArray), v8 = .string N ∧ v9 = .int .i64 (i : Int) ∧ wr = (w.alloc (.cells #[.int .i64 0, .string ⟨#[]⟩, .string ⟨#[]⟩, .slice none 0 0, .bool false] 25)).drewN d ∧ Hid (i = K + N.size) ∧ i ≤ s.size ∧ N.size ≤ i ∧ K ≤ i ∧ Hid (N.data.toList ++ (s.data.toList.drop i).takeWhile tagB = nm)) (fun _ v _ => s.size - (intOf v).toNat)
    case atStart => exact ⟨K, 0, ⟨#[]⟩, rfl, rfl, rfl, Lib.hid rfl, by omega, Nat.zero_le _, Nat.le_refl _, HNM⟩
    case round =>
      obtain ⟨i, d, N, rfl, rfl, rfl, HI, hle, hNi, hKi, HN⟩ := hrel
      by_cases hlt : i < s.size
      · have HS := fun w => HSp s[i] w
        have hb1 := s[i].toNat_lt
        cases hp : tagB s[i]
        · have HNE := Lib.hid (name_no s i hlt N nm hp HN.out)
          have hpp : spB s[i] = true ∨ spB s[i] = false ∧ s[i] = 47 ∨ spB s[i] = false ∧ s[i] ≠ 47 ∧ s[i] = 62 := by
            unfold tagB at hp
            simp only [Bool.not_eq_false', Bool.or_eq_true, beq_iff_eq] at hp
            by_cases h1 : spB s[i] = true
            · exact .inl h1
            · have h1 : spB s[i] = false := by simpa using h1
              by_cases h2 : s[i] = 47
              · exact .inr (.inl ⟨h1, h2⟩)
              · refine .inr (.inr ⟨h1, h2, ?_⟩)
                rcases hp with (h | h) | h
                · rw [h1] at h; cases h
                · exact (h2 h).elim
                · exact h
          have hbr : spaceI ((s[i].toNat : Nat) : Int) = true ∨ spaceI ((s[i].toNat : Nat) : Int) = false ∧ (((s[i].toNat : Nat) : Int) == 47) = true ∨ spaceI ((s[i].toNat : Nat) : Int) = false ∧ (((s[i].toNat : Nat) : Int) == 47) = false ∧ (((s[i].toNat : Nat) : Int) == 62) = true := by
            rcases hpp with h | ⟨h, h2⟩ | ⟨h, h2, h3⟩
            · exact .inl h
            · exact .inr (.inl ⟨h, by rw [h2]; rfl⟩)
            · exact .inr (.inr ⟨h, by rw [beq_eq_false_iff_ne]; exact fun e => h2 (u8_eq _ 47 (by decide) e), by rw [h3]; rfl⟩)
          clear hpp hp
          rcases hbr with c1 | ⟨c1, c2⟩ | ⟨c1, c2, c3⟩
          all_goals
            rw [c1] at HS
            go_wp2_with (go_at_call 17; refine (HS _).out.mono ?_; rintro e w' ⟨rfl, rfl⟩)
            have hNs : N.size = nm.length := by rw [Lib.size_eq, HNE.out]
            have HN3 := Lib.hid (show (⟨(cleanL (lowL N.data.toList)).toArray⟩ : ByteArray) = ⟨(tellN nm).toArray⟩ by rw [HNE.out]; rfl)
            have HL := fun w => Lib.hid (refLower N w (by omega))
            have HCl := fun w => Lib.hid (refClean_any (lowS N) w (by rw [lowS_size]; omega))
            rw [lowS_list, HN3.out] at HCl
            have HRR := HRest i (by rw [HI.out, hNs]; omega) hle
            obtain ⟨W0, hW0⟩ : ∃ W0, (w.alloc (.cells #[.int .i64 0, .string ⟨#[]⟩, .string ⟨#[]⟩, .slice none 0 0, .bool false] 25)).drewN d = W0 := ⟨_, rfl⟩
            have hblk : W0.heap[w.heap.size]? = some (.cells #[.int .i64 0, .string ⟨#[]⟩, .string ⟨#[]⟩, .slice none 0 0, .bool false] 25 (0, 0)) := by rw [← hW0]; exact heap_alloc_new w _
            have hB0 : Below w.heap.size w W0 := by rw [← hW0]; exact ((Below.refl _ w).alloc (Nat.le_refl _) _).trans (dr_below _ _ _)
            have hlt0 : w.heap.size < W0.heap.size := (Array.getElem?_eq_some_iff.1 hblk).1
            rw [hW0]
            refine (HA i _ (by omega)).out.mono ?_
            rintro e w3 ⟨ad, len, cap, l, self, n, ok, rfl, hr, hv, b3, hfr⟩
            have HFR : Hid (∀ k, (Value.slice ad len cap).ownBlock = some k → k ≠ w.heap.size) := Lib.hid (fun k hk => by have := hfr k hk; omega)
            clear hfr
            have B3 := Lib.hid (hB0.trans (b3.mono hB0.size))
            have hblk3 := (b3.block _ hlt0).trans hblk
            have HK1 := Lib.hid hK
            have hkK : k ≤ 1048576 := by omega
            clear hW0 HNE hNs hlen hlen2 hblk hlt0 b3 hB0 hK hKi hNi HN3
            rcases HRR.out with ⟨h1, h2⟩ | ⟨al, self', m, h1, h2⟩
            · rw [h1] at hv
              simp only [Prod.mk.injEq] at hv
              obtain ⟨rfl, rfl, rfl, rfl⟩ := hv
              have HV := Lib.hid h2
              have HBK := Lib.hid hblk3
              have c0 : w3.cell? ⟨w.heap.size, 0, none⟩ = some (.int .i64 0) := by rw [cell_of_row _ _ _ _ _ _ hblk3]; rfl
              have c1 : w3.cell? ⟨w.heap.size, 1, none⟩ = some (.string ⟨#[]⟩) := by rw [cell_of_row _ _ _ _ _ _ hblk3]; rfl
              have c2 : w3.cell? ⟨w.heap.size, 2, none⟩ = some (.string ⟨#[]⟩) := by rw [cell_of_row _ _ _ _ _ _ hblk3]; rfl
              have c3 : w3.cell? ⟨w.heap.size, 3, none⟩ = some (.slice none 0 0) := by rw [cell_of_row _ _ _ _ _ _ hblk3]; rfl
              have c4 : w3.cell? ⟨w.heap.size, 4, none⟩ = some (.bool false) := by rw [cell_of_row _ _ _ _ _ _ hblk3]; rfl
              have f0 : w3.frozen? ⟨w.heap.size, 0, none⟩ = false := frozen_of_row _ _ _ _ _ hblk3
              have f1 : w3.frozen? ⟨w.heap.size, 1, none⟩ = false := frozen_of_row _ _ _ _ _ hblk3
              have f2 : w3.frozen? ⟨w.heap.size, 2, none⟩ = false := frozen_of_row _ _ _ _ _ hblk3
              have f3 : w3.frozen? ⟨w.heap.size, 3, none⟩ = false := frozen_of_row _ _ _ _ _ hblk3
              have f4 : w3.frozen? ⟨w.heap.size, 4, none⟩ = false := frozen_of_row _ _ _ _ _ hblk3
              clear h1 h2 hblk3
              have hTk : TokAt (((((w3.setCell ⟨w.heap.size, 0, none⟩ (.int .i64 0)).setCell ⟨w.heap.size, 1, none⟩ (.string ⟨#[]⟩)).setCell ⟨w.heap.size, 2, none⟩ (.string ⟨#[]⟩)).setCell ⟨w.heap.size, 3, none⟩ (.slice none 0 0)).setCell ⟨w.heap.size, 4, none⟩ (.bool false)) w.heap.size zeroT none 0 0 := tok_put w3 w.heap.size _ _ _ _ _ _ HBK.out zeroT none 0 0
              have hBw := below_put B3.out w.heap.size (Nat.le_refl _) (.int .i64 0) (.string ⟨#[]⟩) (.string ⟨#[]⟩) (.slice none 0 0) (.bool false)
              obtain ⟨W, hW⟩ : ∃ W, (((((w3.setCell ⟨w.heap.size, 0, none⟩ (.int .i64 0)).setCell ⟨w.heap.size, 1, none⟩ (.string ⟨#[]⟩)).setCell ⟨w.heap.size, 2, none⟩ (.string ⟨#[]⟩)).setCell ⟨w.heap.size, 3, none⟩ (.slice none 0 0)).setCell ⟨w.heap.size, 4, none⟩ (.bool false)) = W := ⟨_, rfl⟩
              rw [hW] at hTk hBw
              have HTk := Lib.hid hTk
              have HBw := Lib.hid hBw
              have HWw := Lib.hid hW
              clear hTk hBw hW
              go_wp2
              rw [HWw.out]
              refine bodyPost_ret (results_tok rfl _ _ w.heap.size zeroT none 0 0 rfl HTk.out) rfl ?_
              exact ⟨zeroT, none, 0, 0, _, false, rfl, isRows_none _, HV.out, HBw.out⟩
            · rw [h1] at hv
              simp only [Prod.mk.injEq] at hv
              obtain ⟨rfl, rfl, rfl, rfl⟩ := hv
              have HV := Lib.hid h2
              have K3 := Lib.hid hr
              have HBK := Lib.hid hblk3
              clear h1 h2 hblk3 hr
              have hnot : decide (K < 0) = false := decide_eq_false (by omega)
              go_wp2_with (fail)
              refine (HL _).out.mono ?_
              rintro e w4 ⟨rfl, b4⟩
              go_wp2_with (fail)
              refine (HCl _).out.mono ?_
              rintro e w5 ⟨rfl, b5⟩
              have D5 := Lib.hid (b4.trans (b5.mono b4.size))
              have hblk5 := (D5.out.block _ (Array.getElem?_eq_some_iff.1 HBK.out).1).trans HBK.out
              have HBK5 := Lib.hid hblk5
              have K5 := Lib.hid (K3.out.below D5.out (Nat.le_refl _))
              have B5 := Lib.hid (B3.out.trans (D5.out.mono B3.out.size))
              have c0 : w5.cell? ⟨w.heap.size, 0, none⟩ = some (.int .i64 0) := by rw [cell_of_row _ _ _ _ _ _ hblk5]; rfl
              have c1 : w5.cell? ⟨w.heap.size, 1, none⟩ = some (.string ⟨#[]⟩) := by rw [cell_of_row _ _ _ _ _ _ hblk5]; rfl
              have c2 : w5.cell? ⟨w.heap.size, 2, none⟩ = some (.string ⟨#[]⟩) := by rw [cell_of_row _ _ _ _ _ _ hblk5]; rfl
              have c3 : w5.cell? ⟨w.heap.size, 3, none⟩ = some (.slice none 0 0) := by rw [cell_of_row _ _ _ _ _ _ hblk5]; rfl
              have c4 : w5.cell? ⟨w.heap.size, 4, none⟩ = some (.bool false) := by rw [cell_of_row _ _ _ _ _ _ hblk5]; rfl
              have f0 : w5.frozen? ⟨w.heap.size, 0, none⟩ = false := frozen_of_row _ _ _ _ _ hblk5
              have f1 : w5.frozen? ⟨w.heap.size, 1, none⟩ = false := frozen_of_row _ _ _ _ _ hblk5
              have f2 : w5.frozen? ⟨w.heap.size, 2, none⟩ = false := frozen_of_row _ _ _ _ _ hblk5
              have f3 : w5.frozen? ⟨w.heap.size, 3, none⟩ = false := frozen_of_row _ _ _ _ _ hblk5
              have f4 : w5.frozen? ⟨w.heap.size, 4, none⟩ = false := frozen_of_row _ _ _ _ _ hblk5
              have hrl := K5.out
              clear hblk5 b4 b5 hrl
              rcases h12 with rfl | rfl
              · have hKk : ((K : Int) == (k : Int) + 2) = false := by rw [beq_eq_false_iff_ne]; have := HK1.out; omega
                have hTk : TokAt (((((w5.setCell ⟨w.heap.size, 0, none⟩ (.int .i64 1)).setCell ⟨w.heap.size, 1, none⟩ (.string ⟨(tellN nm).toArray⟩)).setCell ⟨w.heap.size, 2, none⟩ (.string ⟨#[]⟩)).setCell ⟨w.heap.size, 3, none⟩ (.slice ad len cap)).setCell ⟨w.heap.size, 4, none⟩ (.bool self')) w.heap.size ⟨1, tellN nm, [], al, self'⟩ ad len cap := tok_put w5 w.heap.size _ _ _ _ _ _ HBK5.out ⟨1, tellN nm, [], al, self'⟩ ad len cap
                have hBw := below_put B5.out w.heap.size (Nat.le_refl _) (.int .i64 1) (.string ⟨(tellN nm).toArray⟩) (.string ⟨#[]⟩) (.slice ad len cap) (.bool self')
                have hRw := isRows_put5 K5.out w.heap.size HFR.out (.int .i64 1) (.string ⟨(tellN nm).toArray⟩) (.string ⟨#[]⟩) (.slice ad len cap) (.bool self')
                obtain ⟨W, hW⟩ : ∃ W, (((((w5.setCell ⟨w.heap.size, 0, none⟩ (.int .i64 1)).setCell ⟨w.heap.size, 1, none⟩ (.string ⟨(tellN nm).toArray⟩)).setCell ⟨w.heap.size, 2, none⟩ (.string ⟨#[]⟩)).setCell ⟨w.heap.size, 3, none⟩ (.slice ad len cap)).setCell ⟨w.heap.size, 4, none⟩ (.bool self')) = W := ⟨_, rfl⟩
                rw [hW] at hTk hBw hRw
                have HTk := Lib.hid hTk
                have HBw := Lib.hid hBw
                have HRw := Lib.hid hRw
                have HWw := Lib.hid hW
                clear hTk hBw hW hRw
                go_wp2
                rw [HWw.out]
                refine bodyPost_ret (results_tok rfl _ _ w.heap.size ⟨1, tellN nm, [], al, self'⟩ ad len cap rfl HTk.out) rfl ?_
                exact ⟨⟨1, tellN nm, [], al, self'⟩, ad, len, cap, _, true, rfl, HRw.out, HV.out, HBw.out⟩
              · have hKk : ((K : Int) == (k : Int) + 2) = true := by rw [beq_iff_eq]; have := HK1.out; omega
                have hTk : TokAt (((((w5.setCell ⟨w.heap.size, 0, none⟩ (.int .i64 2)).setCell ⟨w.heap.size, 1, none⟩ (.string ⟨(tellN nm).toArray⟩)).setCell ⟨w.heap.size, 2, none⟩ (.string ⟨#[]⟩)).setCell ⟨w.heap.size, 3, none⟩ (.slice none 0 0)).setCell ⟨w.heap.size, 4, none⟩ (.bool false)) w.heap.size ⟨2, tellN nm, [], [], false⟩ none 0 0 := tok_put w5 w.heap.size _ _ _ _ _ _ HBK5.out ⟨2, tellN nm, [], [], false⟩ none 0 0
                have hBw := below_put B5.out w.heap.size (Nat.le_refl _) (.int .i64 2) (.string ⟨(tellN nm).toArray⟩) (.string ⟨#[]⟩) (.slice none 0 0) (.bool false)
                obtain ⟨W, hW⟩ : ∃ W, (((((w5.setCell ⟨w.heap.size, 0, none⟩ (.int .i64 2)).setCell ⟨w.heap.size, 1, none⟩ (.string ⟨(tellN nm).toArray⟩)).setCell ⟨w.heap.size, 2, none⟩ (.string ⟨#[]⟩)).setCell ⟨w.heap.size, 3, none⟩ (.slice none 0 0)).setCell ⟨w.heap.size, 4, none⟩ (.bool false)) = W := ⟨_, rfl⟩
                rw [hW] at hTk hBw
                have HTk := Lib.hid hTk
                have HBw := Lib.hid hBw
                have HWw := Lib.hid hW
                clear hTk hBw hW
                go_wp2
                rw [HWw.out]
                refine bodyPost_ret (results_tok rfl _ _ w.heap.size ⟨2, tellN nm, [], [], false⟩ none 0 0 rfl HTk.out) rfl ?_
                exact ⟨⟨2, tellN nm, [], [], false⟩, none, 0, 0, _, true, rfl, isRows_none _, HV.out, HBw.out⟩
        · have hpp : spB s[i] = false ∧ s[i] ≠ 47 ∧ s[i] ≠ 62 := by
            unfold tagB at hp
            simp only [Bool.not_eq_true', Bool.or_eq_false_iff, beq_eq_false_iff_ne] at hp
            exact ⟨hp.1.1, hp.1.2, hp.2⟩
          have b47 : (((s[i].toNat : Nat) : Int) == 47) = false := by
            rw [beq_eq_false_iff_ne]; exact fun h => hpp.2.1 (u8_eq _ 47 (by decide) h)
          have b62 : (((s[i].toNat : Nat) : Int) == 62) = false := by
            rw [beq_eq_false_iff_ne]; exact fun h => hpp.2.2 (u8_eq _ 62 (by decide) h)
          rw [show spaceI ((s[i].toNat : Nat) : Int) = false from hpp.1] at HS
          have HN2 := Lib.hid (name_yes s i hlt N nm hp HN.out)
          have hz : (N ++ s.extract i (i + 1)).size = N.size + 1 := by rw [ByteArray.size_append, ByteArray.size_extract]; omega
          have HZ := Lib.hid hz
          have g1 : ¬ 9223372036854775807 < N.size + (s.extract i (i + 1)).size := by rw [ByteArray.size_extract]; omega
          clear hpp hp hz
          go_wp2_with (go_at_call 17; refine (HS _).out.mono ?_; rintro e w' ⟨rfl, rfl⟩)
          go_roundw
          case rel => exact ⟨i + 1, _, _, rfl, by go_num, rfl, Lib.hid (by rw [HZ.out, HI.out]; omega), by omega, by rw [HZ.out]; omega, by omega, HN2⟩
          case measure => simp [intOf]; omega
      · obtain rfl : i = s.size := by omega
        have HNE := Lib.hid (name_end s N nm HN.out)
        go_wp2_with (fail)
        have hNs : N.size = nm.length := by rw [Lib.size_eq, HNE.out]
        have HN3 := Lib.hid (show (⟨(cleanL (lowL N.data.toList)).toArray⟩ : ByteArray) = ⟨(tellN nm).toArray⟩ by rw [HNE.out]; rfl)
        have HL := fun w => Lib.hid (refLower N w (by omega))
        have HCl := fun w => Lib.hid (refClean_any (lowS N) w (by rw [lowS_size]; omega))
        rw [lowS_list, HN3.out] at HCl
        have HRR := HRest s.size (by rw [HI.out, hNs]; omega) (Nat.le_refl _)
        obtain ⟨W0, hW0⟩ : ∃ W0, (w.alloc (.cells #[.int .i64 0, .string ⟨#[]⟩, .string ⟨#[]⟩, .slice none 0 0, .bool false] 25)).drewN d = W0 := ⟨_, rfl⟩
        have hblk : W0.heap[w.heap.size]? = some (.cells #[.int .i64 0, .string ⟨#[]⟩, .string ⟨#[]⟩, .slice none 0 0, .bool false] 25 (0, 0)) := by rw [← hW0]; exact heap_alloc_new w _
        have hB0 : Below w.heap.size w W0 := by rw [← hW0]; exact ((Below.refl _ w).alloc (Nat.le_refl _) _).trans (dr_below _ _ _)
        have hlt0 : w.heap.size < W0.heap.size := (Array.getElem?_eq_some_iff.1 hblk).1
        rw [hW0]
        refine (HA s.size _ (by omega)).out.mono ?_
        rintro e w3 ⟨ad, len, cap, l, self, n, ok, rfl, hr, hv, b3, hfr⟩
        have HFR : Hid (∀ k, (Value.slice ad len cap).ownBlock = some k → k ≠ w.heap.size) := Lib.hid (fun k hk => by have := hfr k hk; omega)
        clear hfr
        have B3 := Lib.hid (hB0.trans (b3.mono hB0.size))
        have hblk3 := (b3.block _ hlt0).trans hblk
        have HK1 := Lib.hid hK
        have hkK : k ≤ 1048576 := by omega
        clear hW0 HNE hNs hlen hlen2 hblk hlt0 b3 hB0 hK hKi hNi HN3
        rcases HRR.out with ⟨h1, h2⟩ | ⟨al, self', m, h1, h2⟩
        · rw [h1] at hv
          simp only [Prod.mk.injEq] at hv
          obtain ⟨rfl, rfl, rfl, rfl⟩ := hv
          have HV := Lib.hid h2
          have HBK := Lib.hid hblk3
          have c0 : w3.cell? ⟨w.heap.size, 0, none⟩ = some (.int .i64 0) := by rw [cell_of_row _ _ _ _ _ _ hblk3]; rfl
          have c1 : w3.cell? ⟨w.heap.size, 1, none⟩ = some (.string ⟨#[]⟩) := by rw [cell_of_row _ _ _ _ _ _ hblk3]; rfl
          have c2 : w3.cell? ⟨w.heap.size, 2, none⟩ = some (.string ⟨#[]⟩) := by rw [cell_of_row _ _ _ _ _ _ hblk3]; rfl
          have c3 : w3.cell? ⟨w.heap.size, 3, none⟩ = some (.slice none 0 0) := by rw [cell_of_row _ _ _ _ _ _ hblk3]; rfl
          have c4 : w3.cell? ⟨w.heap.size, 4, none⟩ = some (.bool false) := by rw [cell_of_row _ _ _ _ _ _ hblk3]; rfl
          have f0 : w3.frozen? ⟨w.heap.size, 0, none⟩ = false := frozen_of_row _ _ _ _ _ hblk3
          have f1 : w3.frozen? ⟨w.heap.size, 1, none⟩ = false := frozen_of_row _ _ _ _ _ hblk3
          have f2 : w3.frozen? ⟨w.heap.size, 2, none⟩ = false := frozen_of_row _ _ _ _ _ hblk3
          have f3 : w3.frozen? ⟨w.heap.size, 3, none⟩ = false := frozen_of_row _ _ _ _ _ hblk3
          have f4 : w3.frozen? ⟨w.heap.size, 4, none⟩ = false := frozen_of_row _ _ _ _ _ hblk3
          clear h1 h2 hblk3
          have hTk : TokAt (((((w3.setCell ⟨w.heap.size, 0, none⟩ (.int .i64 0)).setCell ⟨w.heap.size, 1, none⟩ (.string ⟨#[]⟩)).setCell ⟨w.heap.size, 2, none⟩ (.string ⟨#[]⟩)).setCell ⟨w.heap.size, 3, none⟩ (.slice none 0 0)).setCell ⟨w.heap.size, 4, none⟩ (.bool false)) w.heap.size zeroT none 0 0 := tok_put w3 w.heap.size _ _ _ _ _ _ HBK.out zeroT none 0 0
          have hBw := below_put B3.out w.heap.size (Nat.le_refl _) (.int .i64 0) (.string ⟨#[]⟩) (.string ⟨#[]⟩) (.slice none 0 0) (.bool false)
          obtain ⟨W, hW⟩ : ∃ W, (((((w3.setCell ⟨w.heap.size, 0, none⟩ (.int .i64 0)).setCell ⟨w.heap.size, 1, none⟩ (.string ⟨#[]⟩)).setCell ⟨w.heap.size, 2, none⟩ (.string ⟨#[]⟩)).setCell ⟨w.heap.size, 3, none⟩ (.slice none 0 0)).setCell ⟨w.heap.size, 4, none⟩ (.bool false)) = W := ⟨_, rfl⟩
          rw [hW] at hTk hBw
          have HTk := Lib.hid hTk
          have HBw := Lib.hid hBw
          have HWw := Lib.hid hW
          clear hTk hBw hW
          go_wp2
          rw [HWw.out]
          refine bodyPost_ret (results_tok rfl _ _ w.heap.size zeroT none 0 0 rfl HTk.out) rfl ?_
          exact ⟨zeroT, none, 0, 0, _, false, rfl, isRows_none _, HV.out, HBw.out⟩
        · rw [h1] at hv
          simp only [Prod.mk.injEq] at hv
          obtain ⟨rfl, rfl, rfl, rfl⟩ := hv
          have HV := Lib.hid h2
          have K3 := Lib.hid hr
          have HBK := Lib.hid hblk3
          clear h1 h2 hblk3 hr
          have hnot : decide (K < 0) = false := decide_eq_false (by omega)
          go_wp2_with (fail)
          refine (HL _).out.mono ?_
          rintro e w4 ⟨rfl, b4⟩
          go_wp2_with (fail)
          refine (HCl _).out.mono ?_
          rintro e w5 ⟨rfl, b5⟩
          have D5 := Lib.hid (b4.trans (b5.mono b4.size))
          have hblk5 := (D5.out.block _ (Array.getElem?_eq_some_iff.1 HBK.out).1).trans HBK.out
          have HBK5 := Lib.hid hblk5
          have K5 := Lib.hid (K3.out.below D5.out (Nat.le_refl _))
          have B5 := Lib.hid (B3.out.trans (D5.out.mono B3.out.size))
          have c0 : w5.cell? ⟨w.heap.size, 0, none⟩ = some (.int .i64 0) := by rw [cell_of_row _ _ _ _ _ _ hblk5]; rfl
          have c1 : w5.cell? ⟨w.heap.size, 1, none⟩ = some (.string ⟨#[]⟩) := by rw [cell_of_row _ _ _ _ _ _ hblk5]; rfl
          have c2 : w5.cell? ⟨w.heap.size, 2, none⟩ = some (.string ⟨#[]⟩) := by rw [cell_of_row _ _ _ _ _ _ hblk5]; rfl
          have c3 : w5.cell? ⟨w.heap.size, 3, none⟩ = some (.slice none 0 0) := by rw [cell_of_row _ _ _ _ _ _ hblk5]; rfl
          have c4 : w5.cell? ⟨w.heap.size, 4, none⟩ = some (.bool false) := by rw [cell_of_row _ _ _ _ _ _ hblk5]; rfl
          have f0 : w5.frozen? ⟨w.heap.size, 0, none⟩ = false := frozen_of_row _ _ _ _ _ hblk5
          have f1 : w5.frozen? ⟨w.heap.size, 1, none⟩ = false := frozen_of_row _ _ _ _ _ hblk5
          have f2 : w5.frozen? ⟨w.heap.size, 2, none⟩ = false := frozen_of_row _ _ _ _ _ hblk5
          have f3 : w5.frozen? ⟨w.heap.size, 3, none⟩ = false := frozen_of_row _ _ _ _ _ hblk5
          have f4 : w5.frozen? ⟨w.heap.size, 4, none⟩ = false := frozen_of_row _ _ _ _ _ hblk5
          have hrl := K5.out
          clear hblk5 b4 b5 hrl
          rcases h12 with rfl | rfl
          · have hKk : ((K : Int) == (k : Int) + 2) = false := by rw [beq_eq_false_iff_ne]; have := HK1.out; omega
            have hTk : TokAt (((((w5.setCell ⟨w.heap.size, 0, none⟩ (.int .i64 1)).setCell ⟨w.heap.size, 1, none⟩ (.string ⟨(tellN nm).toArray⟩)).setCell ⟨w.heap.size, 2, none⟩ (.string ⟨#[]⟩)).setCell ⟨w.heap.size, 3, none⟩ (.slice ad len cap)).setCell ⟨w.heap.size, 4, none⟩ (.bool self')) w.heap.size ⟨1, tellN nm, [], al, self'⟩ ad len cap := tok_put w5 w.heap.size _ _ _ _ _ _ HBK5.out ⟨1, tellN nm, [], al, self'⟩ ad len cap
            have hBw := below_put B5.out w.heap.size (Nat.le_refl _) (.int .i64 1) (.string ⟨(tellN nm).toArray⟩) (.string ⟨#[]⟩) (.slice ad len cap) (.bool self')
            have hRw := isRows_put5 K5.out w.heap.size HFR.out (.int .i64 1) (.string ⟨(tellN nm).toArray⟩) (.string ⟨#[]⟩) (.slice ad len cap) (.bool self')
            obtain ⟨W, hW⟩ : ∃ W, (((((w5.setCell ⟨w.heap.size, 0, none⟩ (.int .i64 1)).setCell ⟨w.heap.size, 1, none⟩ (.string ⟨(tellN nm).toArray⟩)).setCell ⟨w.heap.size, 2, none⟩ (.string ⟨#[]⟩)).setCell ⟨w.heap.size, 3, none⟩ (.slice ad len cap)).setCell ⟨w.heap.size, 4, none⟩ (.bool self')) = W := ⟨_, rfl⟩
            rw [hW] at hTk hBw hRw
            have HTk := Lib.hid hTk
            have HBw := Lib.hid hBw
            have HRw := Lib.hid hRw
            have HWw := Lib.hid hW
            clear hTk hBw hW hRw
            go_wp2
            rw [HWw.out]
            refine bodyPost_ret (results_tok rfl _ _ w.heap.size ⟨1, tellN nm, [], al, self'⟩ ad len cap rfl HTk.out) rfl ?_
            exact ⟨⟨1, tellN nm, [], al, self'⟩, ad, len, cap, _, true, rfl, HRw.out, HV.out, HBw.out⟩
          · have hKk : ((K : Int) == (k : Int) + 2) = true := by rw [beq_iff_eq]; have := HK1.out; omega
            have hTk : TokAt (((((w5.setCell ⟨w.heap.size, 0, none⟩ (.int .i64 2)).setCell ⟨w.heap.size, 1, none⟩ (.string ⟨(tellN nm).toArray⟩)).setCell ⟨w.heap.size, 2, none⟩ (.string ⟨#[]⟩)).setCell ⟨w.heap.size, 3, none⟩ (.slice none 0 0)).setCell ⟨w.heap.size, 4, none⟩ (.bool false)) w.heap.size ⟨2, tellN nm, [], [], false⟩ none 0 0 := tok_put w5 w.heap.size _ _ _ _ _ _ HBK5.out ⟨2, tellN nm, [], [], false⟩ none 0 0
            have hBw := below_put B5.out w.heap.size (Nat.le_refl _) (.int .i64 2) (.string ⟨(tellN nm).toArray⟩) (.string ⟨#[]⟩) (.slice none 0 0) (.bool false)
            obtain ⟨W, hW⟩ : ∃ W, (((((w5.setCell ⟨w.heap.size, 0, none⟩ (.int .i64 2)).setCell ⟨w.heap.size, 1, none⟩ (.string ⟨(tellN nm).toArray⟩)).setCell ⟨w.heap.size, 2, none⟩ (.string ⟨#[]⟩)).setCell ⟨w.heap.size, 3, none⟩ (.slice none 0 0)).setCell ⟨w.heap.size, 4, none⟩ (.bool false)) = W := ⟨_, rfl⟩
            rw [hW] at hTk hBw
            have HTk := Lib.hid hTk
            have HBw := Lib.hid hBw
            have HWw := Lib.hid hW
            clear hTk hBw hW
            go_wp2
            rw [HWw.out]
            refine bodyPost_ret (results_tok rfl _ _ w.heap.size ⟨2, tellN nm, [], [], false⟩ none 0 0 rfl HTk.out) rfl ?_
            exact ⟨⟨2, tellN nm, [], [], false⟩, none, 0, 0, _, true, rfl, isRows_none _, HV.out, HBw.out⟩
  · have HV := Lib.hid (tag_out s.data.toList a hb).1
    rw [from_no _ _ (tag_out s.data.toList a hb).2] at HC
    clear hb
    go_enter Tryz.func6, Tryz.ntmps6
    go_wp2_with (go_at_call 16; refine (HC _).out.mono ?_; rintro e w' ⟨rfl, rfl⟩)
    refine bodyPost_ret (results_tok rfl _ _ w.heap.size zeroT none 0 0 rfl (tokAt_new w zeroT none 0 0 _)) rfl ?_
    exact ⟨zeroT, none, 0, 0, a, false, rfl, isRows_none _, HV.out, (Below.refl _ w).alloc (Nat.le_refl _) _⟩
end Go.Proofs.YtdgebenkhcaijaaGreatDoor
