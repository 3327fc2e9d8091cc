/-
  Texts laid together: AttSame, Tok.
-/
import Derived.Test.YtdcbjgmjmdgmmaaGreatDoorP3
import Derived.Deep.QuietTactic
/-! What the document's Same of layer 8 answers for two lists of attributes. -/
namespace Go.Proofs.YtdcbjgmjmdgmmaaGreatDoor
open Go.RowKit Go.Lib

theorem isRows_none (w : World) : IsRows w none 0 0 [] := ⟨rfl, Nat.le_refl _, by simp [maxLen], fun i h => by cases h⟩
theorem take_ne (a b : List Ln) (i : Nat) (ha : i < a.length) (hb : i < b.length) (h : a[i] ≠ b[i]) : a ≠ b := by
  rintro rfl; exact h rfl
theorem take_next (a b : List Ln) (i : Nat) (ha : i < a.length) (hb : i < b.length) (h : a[i] = b[i]) (ht : a.take i = b.take i) : a.take (i + 1) = b.take (i + 1) := by
  rw [List.take_succ_eq_append_getElem ha, List.take_succ_eq_append_getElem hb, h, ht]

set_option maxRecDepth 100000 in
set_option maxHeartbeats 4000000 in
theorem refSame_any (a1 a2 : Option Addr) (n1 n2 c1 c2 : Nat) (l1 l2 : List Ln) (w : World) (h1 : IsRows w a1 n1 c1 l1) (h2 : IsRows w a2 n2 c2 l2) :
    Calls Tryz.prog 25 #[.slice a1 n1 c1, .slice a2 n2 c2] w fun e w' => e = .returned (.bool (decide (l1 = l2))) ∧ ∃ d, w' = w.drewN d := by
  have e1 := h1.1
  have e2 := h2.1
  have m1 := h1.2.1
  have m2 := h1.2.2.1
  unfold maxLen at m2
  have H1 := Lib.hid h1
  have H2 := Lib.hid h2
  clear h1 h2
  by_cases hne : n1 = n2
  · subst hne
    obtain ⟨B, hB⟩ : ∃ B, decide (l1 = l2) = B := ⟨_, rfl⟩
    rw [hB]
    have HB := Lib.hid hB
    clear hB
    have b0 : ((n1 : Int) != (n1 : Int)) = false := by simp
    go_enter Tryz.func25, Tryz.ntmps25
    go_wp2
    clear b0
    go_loopw [5] (fun v wr => ∃ i d : Nat, v = .int .i64 (i : Int) ∧ wr = w.drewN d ∧ i ≤ n1 ∧ Hid (l1.take i = l2.take i)) (fun v _ => n1 - (intOf v).toNat)
    case atStart => exact ⟨0, 0, rfl, rfl, Nat.zero_le _, Lib.hid rfl⟩
    case round =>
      obtain ⟨i, d, rfl, rfl, hi, HT⟩ := hrel
      by_cases hlt : i < n1
      · obtain ⟨x, rfl, x1, x2⟩ := H1.out.2.2.2 i (by omega)
        obtain ⟨y, rfl, y1, y2⟩ := H2.out.2.2.2 i (by omega)
        rw [add_succ] at x2 y2
        have g1 : i < l1.length := by omega
        have g2 : i < l2.length := by omega
        have HN := fun (h : l1[i]'g1 ≠ l2[i]'g2) => Lib.hid (take_ne l1 l2 i g1 g2 h)
        have HX := fun (h : l1[i]'g1 = l2[i]'g2) => Lib.hid (take_next l1 l2 i g1 g2 h HT.out)
        obtain ⟨p, hp⟩ : ∃ p, l1[i]'g1 = p := ⟨_, rfl⟩
        obtain ⟨r, hr⟩ : ∃ r, l2[i]'g2 = r := ⟨_, rfl⟩
        rw [hp] at x1 x2 HN HX
        rw [hr] at y1 y2 HN HX
        obtain ⟨p1, p2⟩ := p
        obtain ⟨r1, r2⟩ := r
        simp only at x1 x2 y1 y2
        clear hp hr
        unfold strV at x1 x2 y1 y2
        by_cases k1 : p1 = r1
        · by_cases k2 : p2 = r2
          · subst k1; subst k2
            have HK := HX rfl
            clear HN HX
            go_wp2_with (fail)
            go_region
            go_wp2
            go_roundw
            case rel => exact ⟨i + 1, _, by simp, rfl, by omega, HK⟩
            case measure => simp [intOf]; omega
          · have b2 : (p2 == r2) = false := beq_eq_false_iff_ne.2 k2
            subst k1
            have HK := Lib.hid ((HN (fun e => k2 (Prod.mk.inj e).2)).out)
            have HF := Lib.hid (show B = false by rw [← HB.out]; exact decide_eq_false HK.out)
            clear HN HX k2 HK
            go_wp2_with (fail)
            go_region
            go_wp2
            go_ret
            rw [HF.out]
            exact ⟨rfl, _, rfl⟩
        · have b1 : (p1 == r1) = false := beq_eq_false_iff_ne.2 k1
          have HK := Lib.hid ((HN (fun e => k1 (Prod.mk.inj e).1)).out)
          have HF := Lib.hid (show B = false by rw [← HB.out]; exact decide_eq_false HK.out)
          clear HN HX k1 HK
          go_wp2_with (fail)
          go_region
          go_wp2
          go_ret
          rw [HF.out]
          exact ⟨rfl, _, rfl⟩
      · have HF := Lib.hid (show B = true by
          rw [← HB.out]
          refine decide_eq_true ?_
          have := HT.out
          rwa [List.take_of_length_le (by omega), List.take_of_length_le (by omega)] at this)
        go_wp2
        go_ret
        rw [HF.out]
        exact ⟨rfl, _, rfl⟩
  · have b0 : ((n1 : Int) != (n2 : Int)) = true := by simp; omega
    have hd : decide (l1 = l2) = false := decide_eq_false (by rintro rfl; omega)
    rw [hd]
    clear hd hne
    go_enter Tryz.func25, Tryz.ntmps25
    go_wp2
    go_ret
    exact ⟨rfl, 0, rfl⟩
end Go.Proofs.YtdcbjgmjmdgmmaaGreatDoor

/-! Tokens as values, tokens in a block of their own, and what the document's Same of layer 9 answers for two of them. -/
namespace Go.Proofs.YtdcbjgmjmdgmmaaGreatDoor
open Go.RowKit Go.Lib

/-- a token -/
structure TokP where
  kind : Int
  name : Txt
  text : Txt
  attrs : List Ln
  self : Bool
def zeroT : TokP := ⟨0, [], [], [], false⟩
/-- a token's value, its attributes where a slice says -/
def tokA (t : TokP) (a : Option Addr) (len cap : Nat) : Value := .agg #[.int .i64 t.kind, .string ⟨t.name.toArray⟩, .string ⟨t.text.toArray⟩, .slice a len cap, .bool t.self]
theorem tok_eq (t u : TokP) : (t = u) ↔ (t.kind = u.kind ∧ t.name = u.name ∧ t.text = u.text ∧ t.attrs = u.attrs ∧ t.self = u.self) := by
  cases t; cases u; simp
theorem txt_beq (A B : Txt) : ((⟨A.toArray⟩ : ByteArray).toList == (⟨B.toArray⟩ : ByteArray).toList) = decide (A = B) := by
  rw [str_beq, List.toList_toArray, List.toList_toArray]

theorem below_two (w : World) (o p : Obj) : Below w.heap.size w ((w.alloc o).alloc p) := ((Below.refl _ w).alloc (Nat.le_refl _) _).alloc (by simp) _
instance : DecidableEq TokP := fun t u => decidable_of_iff _ (tok_eq t u).symm

set_option maxRecDepth 100000 in
set_option maxHeartbeats 4000000 in
theorem refSame9_any (t u : TokP) (a1 a2 : Option Addr) (n1 n2 c1 c2 : Nat) (w : World) (h1 : IsRows w a1 n1 c1 t.attrs) (h2 : IsRows w a2 n2 c2 u.attrs) :
    Calls Tryz.prog 16 #[tokA t a1 n1 c1, tokA u a2 n2 c2] w fun e w' => e = .returned (.bool (decide (t = u))) ∧ Below w.heap.size w w' := by
  obtain ⟨B, hB⟩ : ∃ B, decide (t = u) = B := ⟨_, rfl⟩
  rw [hB]
  have HB := Lib.hid hB
  clear hB
  have HF := fun (h : ¬ (t.kind = u.kind ∧ t.name = u.name ∧ t.text = u.text ∧ t.attrs = u.attrs ∧ t.self = u.self)) => Lib.hid (show B = false by rw [← HB.out]; exact decide_eq_false (fun e => h ((tok_eq t u).1 e)))
  have HS := fun w' (hb : Below w.heap.size w w') => Lib.hid (refSame_any a1 a2 n1 n2 c1 c2 t.attrs u.attrs w' (h1.below hb (Nat.le_refl _)) (h2.below hb (Nat.le_refl _)))
  clear h1 h2
  have e1 := txt_beq t.name u.name
  have e2 := txt_beq t.text u.text
  unfold tokA
  obtain ⟨k, hk⟩ : ∃ k, t.kind = k := ⟨_, rfl⟩
  obtain ⟨k', hk'⟩ : ∃ k, u.kind = k := ⟨_, rfl⟩
  obtain ⟨s, hs⟩ : ∃ k, t.self = k := ⟨_, rfl⟩
  obtain ⟨s', hs'⟩ : ∃ k, u.self = k := ⟨_, rfl⟩
  obtain ⟨N, hN⟩ : ∃ N : ByteArray, ⟨t.name.toArray⟩ = N := ⟨_, rfl⟩
  obtain ⟨N', hN'⟩ : ∃ N : ByteArray, ⟨u.name.toArray⟩ = N := ⟨_, rfl⟩
  obtain ⟨X, hX⟩ : ∃ N : ByteArray, ⟨t.text.toArray⟩ = N := ⟨_, rfl⟩
  obtain ⟨X', hX'⟩ : ∃ N : ByteArray, ⟨u.text.toArray⟩ = N := ⟨_, rfl⟩
  rw [hN, hN'] at e1
  rw [hX, hX'] at e2
  rw [hk, hk', hs, hs'] at HF ⊢
  rw [hN, hN', hX, hX']
  by_cases ck : k = k'
  · have bk : (k == k') = true := beq_iff_eq.2 ck
    by_cases cn : t.name = u.name
    · rw [decide_eq_true cn] at e1
      by_cases cx : t.text = u.text
      · rw [decide_eq_true cx] at e2
        by_cases cs : s = s'
        · have bs : (s == s') = true := beq_iff_eq.2 cs
          have HR : Hid (decide (t.attrs = u.attrs) = B) := Lib.hid (by
            by_cases ca : t.attrs = u.attrs
            · rw [← HB.out, decide_eq_true ca, decide_eq_true ((tok_eq t u).2 ⟨by rw [hk, hk', ck], cn, cx, ca, by rw [hs, hs', cs]⟩)]
            · rw [decide_eq_false ca, (HF (fun h => ca h.2.2.2.1)).out])
          clear HF ck cn cx cs HB hk hk' hs hs' hN hN' hX hX'
          go_enter Tryz.func16, Tryz.ntmps16
          go_wp2_with (fail)
          refine (HS _ (below_two _ _ _)).out.mono ?_
          rintro e w1 ⟨rfl, d, rfl⟩
          go_wp2
          go_ret
          exact ⟨ret_bool HR.out, (below_two _ _ _).trans (dr_below _ _ _)⟩
        · have bs : (s == s') = false := beq_eq_false_iff_ne.2 cs
          have HR := HF (fun h => cs h.2.2.2.2)
          clear HF ck cn cx cs HB hk hk' hs hs' hN hN' hX hX' HS
          go_enter Tryz.func16, Tryz.ntmps16
          go_wp2
          go_ret
          exact ⟨ret_bool HR.out.symm, below_two _ _ _⟩
      · rw [decide_eq_false cx] at e2
        have HR := HF (fun h => cx h.2.2.1)
        clear HF ck cn cx HB hk hk' hs hs' hN hN' hX hX' HS
        go_enter Tryz.func16, Tryz.ntmps16
        go_wp2
        go_ret
        exact ⟨ret_bool HR.out.symm, below_two _ _ _⟩
    · rw [decide_eq_false cn] at e1
      have HR := HF (fun h => cn h.2.1)
      clear HF ck cn HB hk hk' hs hs' hN hN' hX hX' HS
      go_enter Tryz.func16, Tryz.ntmps16
      go_wp2
      go_ret
      exact ⟨ret_bool HR.out.symm, below_two _ _ _⟩
  · have bk : (k == k') = false := beq_eq_false_iff_ne.2 ck
    have HR := HF (fun h => ck h.1)
    clear HF ck HB hk hk' hs hs' hN hN' hX hX' HS
    go_enter Tryz.func16, Tryz.ntmps16
    go_wp2
    go_ret
    exact ⟨ret_bool HR.out.symm, below_two _ _ _⟩

/-- a token that lies in a block of its own -/
def TokAt (w : World) (b : Nat) (t : TokP) (a : Option Addr) (len cap : Nat) : Prop :=
  w.cell? ⟨b, 0, none⟩ = some (.int .i64 t.kind) ∧ w.cell? ⟨b, 1, none⟩ = some (.string ⟨t.name.toArray⟩) ∧ w.cell? ⟨b, 2, none⟩ = some (.string ⟨t.text.toArray⟩) ∧ w.cell? ⟨b, 3, none⟩ = some (.slice a len cap) ∧ w.cell? ⟨b, 4, none⟩ = some (.bool t.self)
theorem TokAt.below {w w' : World} {b : Nat} {t : TokP} {a : Option Addr} {len cap B : Nat} (h : TokAt w b t a len cap) (hb : Below B w w') (hB : b < B) : TokAt w' b t a len cap := by
  obtain ⟨h1, h2, h3, h4, h5⟩ := h
  exact ⟨(hb.cell (p := ⟨b, 0, none⟩) hB).trans h1, (hb.cell (p := ⟨b, 1, none⟩) hB).trans h2, (hb.cell (p := ⟨b, 2, none⟩) hB).trans h3, (hb.cell (p := ⟨b, 3, none⟩) hB).trans h4, (hb.cell (p := ⟨b, 4, none⟩) hB).trans h5⟩
theorem tokAt_new (w : World) (t : TokP) (a : Option Addr) (len cap : Nat) (T : TypeId) : TokAt (w.alloc (.cells #[.int .i64 t.kind, .string ⟨t.name.toArray⟩, .string ⟨t.text.toArray⟩, .slice a len cap, .bool t.self] T)) w.heap.size t a len cap := by
  refine ⟨?_, ?_, ?_, ?_, ?_⟩ <;> (rw [cell_of_row _ _ _ _ _ _ (heap_alloc_new w _)]; rfl)
theorem sizeTok : (Tryz.prog.info? 30).map (·.size) = some 5 := by kernel_rfl
/-- a token's block read as a whole -/
theorem load_tok (w : World) (b : Nat) (t : TokP) (a : Option Addr) (len cap : Nat) (h : TokAt w b t a len cap) : (loadVar 30 ⟨b, 0, none⟩).run Tryz.prog w = .ok (tokA t a len cap) w := by
  obtain ⟨h1, h2, h3, h4, h5⟩ := h
  have hl := run_loadCells_list (P := Tryz.prog) (w := w) ⟨b, 0, none⟩ [.int .i64 t.kind, .string ⟨t.name.toArray⟩, .string ⟨t.text.toArray⟩, .slice a len cap, .bool t.self] (fun j v hv => by
    have hadd : ∀ j, (⟨b, 0, none⟩ : Addr).add j = ⟨b, j, none⟩ := fun j => by unfold Addr.add; split <;> simp_all
    rw [hadd]
    match j, hv with
    | 0, hv => rw [h1]; exact hv
    | 1, hv => rw [h2]; exact hv
    | 2, hv => rw [h3]; exact hv
    | 3, hv => rw [h4]; exact hv
    | 4, hv => rw [h5]; exact hv
    | j + 5, hv => simp at hv)
  have hq := sizeTok
  cases hi : Tryz.prog.info? 30 with
  | none => simp [hi] at hq
  | some i =>
    have hs : i.size = 5 := by simpa [hi] using hq
    have hagg : (isAgg 30).run Tryz.prog w = .ok true w := by
      unfold isAgg
      rw [Sem.run_bind, run_underlying Tryz.underlying30 w]
      rfl
    simp only [List.length_cons, List.length_nil, Nat.reduceAdd] at hl
    simp [loadVar, Sem.run_bind, hagg, sizeOf, typeInfo, hi, hs, hl, tokA]
/-- results of which the first one is a token in a block -/
theorem results_tok {fn : Func} {p u v : Tmp} (h : fn.results = #[.cell p 30, .tmp u, .tmp v]) (tmps : Array Value) (w : World) (b : Nat) (t : TokP) (a : Option Addr) (len cap : Nat)
    (hp : tmps.getD p undef = .pointer (some ⟨b, 0, none⟩)) (hT : TokAt w b t a len cap) :
    (results fn tmps).run Tryz.prog w = .ok (.tuple #[tokA t a len cap, tmps.getD u undef, tmps.getD v undef]) w := by
  have hp' : tmps[p]?.getD undef = .pointer (some ⟨b, 0, none⟩) := by simpa using hp
  simp [results, h, hp', asAddr, load_tok w b t a len cap hT]

/-- a token stored whole into its block; a token loaded out of it -/
theorem wpList_store_tok {ops : Array Oper} {rest : List Oper} {o : Oper} {a : Act} {w : World} {Q : Exit → Act → World → Prop} (hg : o.guard = none) (x y : Operand) (ho : o.op = .store 30 x y) (g : Nat) (t : TokP) (ad : Option Addr) (len cap : Nat)
    (hx : a.eval x = .pointer (some ⟨g, 0, none⟩)) (hy : a.eval y = tokA t ad len cap) (old : Array Value) (hb : w.heap[g]? = some (.cells old 30 (0, 0))) (h5 : old.size = 5)
    (hK : ∀ w', w'.heap[g]? = some (.cells #[.int .i64 t.kind, .string ⟨t.name.toArray⟩, .string ⟨t.text.toArray⟩, .slice ad len cap, .bool t.self] 30 (0, 0)) → w.grownBy w' (some g) → wpList Tryz.prog ops Q rest (a.put o.dst undef) w') :
    wpList Tryz.prog ops Q (o :: rest) a w := by
  refine wpList_plain hg fun K' hK' => wp_store_row 30 x y ho g #[.int .i64 t.kind, .string ⟨t.name.toArray⟩, .string ⟨t.text.toArray⟩, .slice ad len cap, .bool t.self] hx hy 30 old hb sizeTok h5 (by simp [Value.oneCell']) (hK' _ _ (hK _ (setRow_heap w g old _ _ _ hb) ?_))
  exact ⟨rfl, rfl, rfl, by simp, fun k _ hk => setRow_other w g k _ (fun e => hk (by rw [e]))⟩
theorem tokAt_row {w : World} {g : Nat} {t : TokP} {ad : Option Addr} {len cap : Nat} (h : w.heap[g]? = some (.cells #[.int .i64 t.kind, .string ⟨t.name.toArray⟩, .string ⟨t.text.toArray⟩, .slice ad len cap, .bool t.self] 30 (0, 0))) : TokAt w g t ad len cap := by
  refine ⟨?_, ?_, ?_, ?_, ?_⟩ <;> (rw [cell_of_row _ _ _ _ _ _ h]; rfl)
theorem run_loadAt_tok (w : World) (g : Nat) (t : TokP) (ad : Option Addr) (len cap : Nat) (h : TokAt w g t ad len cap) : (Instr.loadAt 30 (.pointer (some ⟨g, 0, none⟩))).run Tryz.prog w = .ok (tokA t ad len cap) w := by
  have := load_tok w g t ad len cap h
  simp [Instr.loadAt, Instr.sureAddr, this]
theorem wpList_load_tok {ops : Array Oper} {rest : List Oper} {o : Oper} {a : Act} {w : World} {Q : Exit → Act → World → Prop} (hg : o.guard = none) (x : Operand) (ho : o.op = .load 30 x) (g : Nat) (t : TokP) (ad : Option Addr) (len cap : Nat)
    (hx : a.eval x = .pointer (some ⟨g, 0, none⟩)) (hT : TokAt w g t ad len cap) (hK : wpList Tryz.prog ops Q rest (a.put o.dst (tokA t ad len cap)) w) :
    wpList Tryz.prog ops Q (o :: rest) a w := by
  refine wpList_plain hg fun K' hK' => ?_
  unfold Oper.wp
  simp [execOp, ho, hx, run_loadAt_tok w g t ad len cap hT, Result.andThen]
  exact hK' _ _ hK
theorem isRows_grown {w w' : World} {ad : Option Addr} {len cap : Nat} {l : List Ln} {g : Nat} (h : IsRows w ad len cap l) (hg : w.grownBy w' (some g)) (hne : ∀ k, (Value.slice ad len cap).ownBlock = some k → k ≠ g) : IsRows w' ad len cap l := by
  refine ⟨h.1, h.2.1, h.2.2.1, fun i hi => ?_⟩
  obtain ⟨x, rfl, h1, h2⟩ := h.2.2.2 i hi
  have hx := hne x.block rfl
  have hlt : x.block < w.heap.size := by
    have := block_lt_of_cell h1
    rwa [show (x.add (i * 2)).block = x.block by unfold Addr.add; split <;> rfl] at this
  have hb := hg.block x.block hlt (fun e => hx (Option.some.inj e))
  have hc : ∀ n, w'.cell? (x.add n) = w.cell? (x.add n) := fun n => by
    refine World.cell?_of_block ?_
    rw [show (x.add n).block = x.block by unfold Addr.add; split <;> rfl]
    exact hb
  exact ⟨x, rfl, by rw [hc]; exact h1, by rw [hc]; exact h2⟩

/-- what a Read of tokens answers: the token, where it ends, whether there is one; V: what the document says -/
def TellG (V : TokP × Int × Bool) (w : World) (e : Ending) (w' : World) : Prop :=
  ∃ t ad len cap n ok, e = .returned (.tuple #[tokA t ad len cap, .int .i64 n, .bool ok]) ∧ IsRows w' ad len cap t.attrs ∧ V = (t, n, ok) ∧ Below w.heap.size w w'
/-- the same, and the attributes, where there are some, lie in new memory -/
def TellH (V : TokP × Int × Bool) (w : World) (e : Ending) (w' : World) : Prop :=
  ∃ t ad len cap n ok, e = .returned (.tuple #[tokA t ad len cap, .int .i64 n, .bool ok]) ∧ IsRows w' ad len cap t.attrs ∧ V = (t, n, ok) ∧ Below w.heap.size w w' ∧ (t.attrs = [] ∨ ∀ k, (Value.slice ad len cap).ownBlock = some k → w.heap.size ≤ k)
theorem TellG.plain {V : TokP × Int × Bool} {w : World} {e : Ending} {w' : World} (h : TellG V w e w') (hV : V.1.attrs = []) : TellH V w e w' := by
  obtain ⟨t, ad, len, cap, n, ok, h1, h2, h3, h4⟩ := h
  rw [h3] at hV
  exact ⟨t, ad, len, cap, n, ok, h1, h2, h3, h4, .inl hV⟩
end Go.Proofs.YtdcbjgmjmdgmmaaGreatDoor
