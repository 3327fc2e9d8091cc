/-
  What pieces tell is just signs, with references read: plain mathematics.
-/
import Derived.Test.YtpmdcppnlggckaaGreatDoorDA
import Derived.Test.YtpmdcppnlggckaaGreatDoorRA
import Derived.Test.YtpmdcppnlggckaaGreatDoorSgBase
namespace Go.Proofs.YtpmdcppnlggckaaGreatDoor
open Go.RowKit Go.Lib

theorem fix_nz (n : Int) : fixN n ≠ 0 := by
  unfold fixN
  by_cases h : n = 0
  · rw [if_pos h]; decide
  · rw [if_neg h]
    by_cases h1 : 128 ≤ n ∧ n < 160
    · rw [if_pos h1]
      obtain ⟨k, hk⟩ : ∃ k : Nat, (n - 128).toNat = k := ⟨_, rfl⟩
      rw [hk]
      have hk2 : k < 32 := by omega
      exact (show ∀ k, k < 32 → tabL.getD k 0 ≠ 0 by decide) k hk2
    · rw [if_neg h1]; exact h
theorem step_pos : ∀ (l : Txt) (n : Nat), 0 < n → 0 < l.foldl stepH n
  | [], _, h => h
  | c :: l, n, h => by
    rw [List.foldl_cons]
    exact step_pos l _ (by unfold stepH; omega)
theorem hex_pos : ∀ (l : Txt) (n : Nat), (∀ c ∈ l, hexB c = true) → (∃ c ∈ l, c ≠ 48) → 0 < l.foldl stepH n
  | [], _, _, ⟨c, h, _⟩ => by cases h
  | d :: l, n, hx, ⟨c, hc, h48⟩ => by
    rw [List.foldl_cons]
    have h1 := hexB_int d (hx d (.head _))
    by_cases hd : d = 48
    · rcases List.mem_cons.1 hc with h | h
      · exact absurd (h.trans hd) h48
      · exact hex_pos l _ (fun x hx' => hx x (.tail _ hx')) ⟨c, h, h48⟩
    · refine step_pos l _ ?_
      have h2 : d.toNat ≠ 48 := fun e => hd (UInt8.toNat_inj.1 e)
      unfold stepH
      rcases h1.2.2.2.2 with ⟨a, b, e⟩ | ⟨a, b, e⟩ <;> omega
theorem a_pos (q : Txt) (h : (nmLook q).isSome = true) : aOf (nmLook q) ≠ 0 := by
  obtain ⟨r, hr⟩ := Option.isSome_iff_exists.1 h
  have hrow := nm_row _ (look_row hr)
  have := hex_pos (firL r) 0 hrow.firHex hrow.firPos
  rw [hr]
  show hexN (firL r) ≠ 0
  unfold hexN; omega
theorem text_sg (q : Txt) (h : (nmLook q).isSome = true) : validD (textL (aOf (nmLook q)) (bOf (nmLook q))) = true ∧ 0 ∉ textL (aOf (nmLook q)) (bOf (nmLook q)) := by
  have ha := a_pos q h
  unfold textL
  by_cases hb : bOf (nmLook q) = 0
  · rw [if_pos hb, List.append_nil]
    exact ⟨sg_enc _, enc_nz _ (by omega)⟩
  · rw [if_neg hb]
    refine ⟨sg_app _ _ (sg_enc _) (sg_enc _), ?_⟩
    rw [List.mem_append, not_or]
    exact ⟨enc_nz _ (by omega), enc_nz _ (by omega)⟩

/-! references -/
theorem tw_mem (p : UInt8 → Bool) : ∀ (l : Txt) (x : UInt8), x ∈ l.takeWhile p → p x = true
  | [], x, h => by cases h
  | c :: l, x, h => by
    rw [List.takeWhile_cons] at h
    split at h
    · rename_i hc
      rcases List.mem_cons.1 h with rfl | h
      · exact hc
      · exact tw_mem p l x h
    · cases h
theorem dig_low (b : Nat) (c : UInt8) (h : isDig b c = true) : c.toNat < 128 := by
  unfold isDig at h
  rw [decide_eq_true_iff] at h
  have h1 := h.1
  unfold hexI at h1
  split at h1
  · omega
  · split at h1
    · omega
    · split at h1 <;> omega
theorem word_low (c : UInt8) (h : wordN c = true) : c.toNat < 128 ∧ 48 ≤ c.toNat := by
  unfold wordN at h
  simp only [Bool.or_eq_true, Bool.and_eq_true, Nat.ble_eq] at h
  omega
theorem getD_of (l : Txt) (i : Nat) (h : i < l.length) : l.getD i 0 = l[i] := by rw [List.getD_eq_getElem?_getD, List.getElem?_eq_getElem h]; rfl
/-- what a reference is read of are bytes below 128 -/
theorem ref_low (z : Txt) : ∀ x ∈ z.take (refM z), x.toNat < 128 := by
  intro x hx
  unfold refM at hx
  by_cases h : isRef z 0 = true
  · rw [if_pos h] at hx
    obtain ⟨i, hi, rfl⟩ := List.getElem_of_mem hx
    rw [List.length_take] at hi
    rw [List.getElem_take]
    have hlen : i < z.length := by omega
    have hend : i < endN z 0 := by omega
    unfold isRef at h
    rw [decide_eq_true_iff] at h
    obtain ⟨-, h35, -⟩ := h
    rw [show (0 : Int).toNat = 0 from rfl] at h35
    rw [endN_eq] at hend
    rw [← getD_of z i hlen]
    by_cases h0 : i = 0
    · subst h0; rw [h35]; decide
    by_cases hfr : i < fromN z 0
    · unfold fromN at hfr
      by_cases hX : isX z (0 + 1) = true
      · rw [if_pos hX] at hfr
        obtain rfl : i = 1 := by omega
        unfold isX at hX
        rw [decide_eq_true_iff, Nat.zero_add] at hX
        rcases hX with e | e <;> (rw [e]; decide)
      · rw [if_neg hX] at hfr; omega
    · by_cases hd : i < fromN z 0 + (digsAt z 0).length
      · obtain ⟨j, rfl⟩ : ∃ j, i = fromN z 0 + j := ⟨i - fromN z 0, by omega⟩
        have hj : j < (digsAt z 0).length := by omega
        have h1 : (digsAt z 0)[j] ∈ digsAt z 0 := List.getElem_mem hj
        have h2 : (digsAt z 0)[j] = (z.drop (fromN z 0))[j]'(by rw [List.length_drop]; omega) := by
          have hp : digsAt z 0 <+: z.drop (fromN z 0) := List.takeWhile_prefix _
          exact hp.getElem hj
        rw [List.getElem_drop] at h2
        rw [getD_of z _ hlen, ← h2]
        exact dig_low _ _ (tw_mem (isDig (baseN (isX z (0 + 1)))) _ _ h1)
      · split at hend
        · rename_i h59
          obtain rfl : i = fromN z 0 + (digsAt z 0).length := by omega
          rw [h59]; decide
        · omega
  · rw [if_neg h] at hx
    rcases best_mem nmRows z with h0 | ⟨r, hr, hp, e⟩
    · rw [h0] at hx; cases hx
    · rw [e, ← List.prefix_iff_eq_take.1 hp] at hx
      rcases key_byte r hr x hx with h1 | h1
      · exact (word_low x h1).1
      · rw [h1]; decide
theorem best_nz (z : Txt) : 0 ∉ z.take (bestL nmRows z) := fun hx => by
  rcases best_mem nmRows z with h0 | ⟨r, hr, hp, e⟩
  · rw [h0] at hx; cases hx
  · rw [e, ← List.prefix_iff_eq_take.1 hp] at hx
    rcases key_byte r hr 0 hx with h1 | h1
    · exact absurd h1 (by decide)
    · exact absurd h1 (by decide)
/-- what a reference tells is just signs, without the byte 0 -/
theorem refT_sg (z : Txt) (attr : Bool) : validD (refT z attr) = true ∧ 0 ∉ refT z attr := by
  unfold refT
  by_cases h : isRef z 0 = true
  · rw [if_pos h]
    exact ⟨sg_enc _, enc_nz _ (fix_nz _)⟩
  · rw [if_neg h]
    by_cases h0 : bestL nmRows z = 0
    · rw [if_pos h0]; exact ⟨by decide, by decide⟩
    · rw [if_neg h0]
      by_cases hk : keepB z attr = true
      · rw [if_pos hk]
        have h1 := ref_low z
        unfold refM at h1
        rw [if_neg h] at h1
        refine ⟨sg_all _ fun c hc => ?_, ?_⟩
        · rcases List.mem_cons.1 hc with rfl | hc
          · decide
          · exact h1 c hc
        · rw [List.mem_cons, not_or]
          exact ⟨by decide, best_nz z⟩
      · rw [if_neg hk]
        exact text_sg _ (best_is z h0).1
theorem sg_ref (z : Txt) (hv : validD z = true) : validD (z.drop (refM z)) = true := by
  by_cases h0 : refM z = 0
  · rw [h0]; exact hv
  · have hle := refM_le z
    refine sg_behind z (refM z) hv (by omega) hle ?_
    have hl : refM z - 1 < z.length := by omega
    rw [getD_of z _ hl]
    refine ref_low z _ ?_
    rw [List.mem_iff_getElem]
    exact ⟨refM z - 1, by rw [List.length_take]; omega, by rw [List.getElem_take]⟩
theorem sg_dd (attr : Bool) : ∀ (n : Nat) (l : Txt), l.length ≤ n → validD l = true → validD (ddL attr l) = true
  | _, [], _, _ => rfl
  | 0, c :: z, h, _ => absurd h (by simp)
  | n + 1, c :: z, h, hv => by
    rcases sg_head (c :: z) (by simp) hv with ⟨d, u, e, h7, hu⟩ | ⟨e, u, he, hne, h1, h2, hu⟩
    · rw [e]
      have hn : u.length ≤ n := by rw [e, List.length_cons] at h; omega
      by_cases h38 : d = 38
      · rw [h38, dd_amp]
        exact sg_app _ _ (refT_sg u attr).1 (sg_dd attr n _ (by rw [List.length_drop]; omega) (sg_ref u hu))
      · rw [dd_plain attr d u h38, sg_low _ _ h7]
        exact sg_dd attr n u hn hu
    · rw [he]
      have hp := List.length_pos_iff.2 hne
      have hn : u.length ≤ n := by rw [he, List.length_append] at h; omega
      rw [dd_ahead attr u e (high_not e h2 38 (by decide))]
      exact sg_app _ _ h1 (sg_dd attr n u hn hu)
theorem sg_raw (refs : Bool) (l : Txt) (hv : validD l = true) : validD (rawT refs l) = true := by
  unfold rawT
  split
  · exact sg_clean _ (sg_dd false _ l (Nat.le_refl _) hv)
  · exact sg_clean _ hv

/-! pieces -/
def TxOk (t : TokP) : Prop := t.kind = 0 → validD t.text = true
theorem emit_sg (x : Txt) (h : validD x = true) : ∀ t ∈ emitT x, TxOk t := fun t ht _ => by rw [emit_text x t ht]; exact h
theorem tag_sg (l : Txt) (t : TokP) (n : Nat) (hr : tagR l = some (t, n)) (hv : validD l = true) : TxOk t ∧ validD (l.drop n) = true := by
  obtain ⟨h1, h2, h3, -⟩ := tag_ends l t n hr
  exact ⟨fun _ => by rw [tag_text l t n hr]; rfl, sg_behind l n hv (by omega) h2 (by rw [h3]; decide)⟩
theorem nx_sg (l : Txt) (hv : validD l = true) : TxOk (nx l).1 ∧ validD (l.drop (nx l).2.1) = true := by
  rcases nx_cases l with ⟨h, -, e⟩ | ⟨h, t, n, hr, e⟩ | ⟨-, h, e⟩ | ⟨-, -, h, e⟩ | ⟨-, -, -, h, e⟩ | ⟨-, -, -, -, -, -, h, e⟩ | ⟨-, -, -, -, -, h, e⟩
  all_goals rw [e]; simp only
  · exact ⟨fun _ => rfl, by rw [List.drop_length]; rfl⟩
  · exact tag_sg l t n hr hv
  · obtain ⟨a, b, -, d⟩ := told_rest l [] h
    refine ⟨fun hk => absurd hk (show ¬ (3 : Int) = 0 by decide), ?_⟩
    by_cases hn : (comR l).2 = l.length
    · rw [hn, List.drop_length]; rfl
    · exact sg_behind l _ hv (by omega) b (by rw [(d hn).1]; decide)
  · refine ⟨fun hk => absurd hk (show ¬ (4 : Int) = 0 by decide), ?_⟩
    split
    · rename_i hlt
      refine sg_behind l _ hv (by omega) (by omega) ?_
      rw [Nat.add_sub_cancel]
      have h1 := seek_drop (· != 62) l 9
      have h2 : l.drop (seekP (· != 62) l 9) = l[seekP (· != 62) l 9] :: l.drop (seekP (· != 62) l 9 + 1) := List.drop_eq_getElem_cons hlt
      rw [getD_of l _ hlt]
      rw [h1] at h2
      have h3 : ((l.drop 9).dropWhile (· != 62)).head? = some l[seekP (· != 62) l 9] := by rw [h2]; rfl
      have h4 := List.head?_dropWhile_not (· != 62) (l.drop 9)
      rw [h3] at h4
      simp only [bne_eq_false_iff_eq] at h4
      rw [h4]; decide
    · rw [List.drop_length]; rfl
  · refine ⟨fun _ => rfl, ?_⟩
    obtain ⟨t, rfl⟩ := List.isPrefixOf_iff_prefix.1 h
    exact sg_behind _ 3 hv (by decide) (by simp) (by show (62 : UInt8).toNat < 128; decide)
  · rw [h]; exact ⟨fun _ => rfl, rfl⟩
  · have hd : l.drop (nextN l) = [] ∨ ((l.drop (nextN l)).getD 0 0).toNat < 128 := by
      by_cases hlt : nextN l < l.length
      · obtain ⟨t, ht⟩ := mk_head _ (next_at l hlt)
        exact .inr (by rw [ht]; show (60 : UInt8).toNat < 128; decide)
      · exact .inl (List.drop_eq_nil_of_le (by omega))
    obtain ⟨h1, h2⟩ := sg_at l (nextN l) hv hd
    exact ⟨fun _ => sg_dd false _ _ (Nat.le_refl _) h1, h2⟩
theorem end_60 (st : Int) (nm l : Txt) (h : endN15 st nm l < l.length) : ∃ t, l.drop (endN15 st nm l) = 60 :: t := by
  have hR : ∃ q, endR q (l.drop (endN15 st nm l)) = true := by
    unfold endN15 at h ⊢
    split
    · rename_i h1
      rw [if_pos h1] at h
      exact ⟨nm, (find_is nm l).2.2 h⟩
    · rename_i h1
      rw [if_neg h1] at h
      split
      · rename_i h2
        rw [if_pos h2] at h
        exact ⟨scL, ((scr_is 0 0 l (by decide)).2.2 h).1⟩
      · rename_i h2
        rw [if_neg h2] at h
        exact absurd h (Nat.lt_irrefl _)
  obtain ⟨q, hq⟩ := hR
  rw [List.drop_eq_getElem_cons h] at hq ⊢
  exact ⟨_, by rw [endR_head _ _ _ hq]⟩
theorem rest_sg (st : Int) (nm l : Txt) (hv : validD l = true) : (∀ t ∈ (restK st nm l).1, TxOk t) ∧ validD (l.drop (restK st nm l).2) = true := by
  have hle := endN_le st nm l
  have hd : l.drop (endN15 st nm l) = [] ∨ ((l.drop (endN15 st nm l)).getD 0 0).toNat < 128 := by
    by_cases hlt : endN15 st nm l < l.length
    · obtain ⟨t, ht⟩ := end_60 st nm l hlt
      exact .inr (by rw [ht]; show (60 : UInt8).toNat < 128; decide)
    · exact .inl (List.drop_eq_nil_of_le (by omega))
  obtain ⟨h1, h2⟩ := sg_at l (endN15 st nm l) hv hd
  have he : ∀ t ∈ emitT (saysR st nm l), TxOk t := emit_sg _ (sg_raw _ _ h1)
  have hn : validD (l.drop l.length) = true := by rw [List.drop_length]; rfl
  unfold restK
  split
  · split
    · exact ⟨he, hn⟩
    · split
      · cases hr : tagR (l.drop (endN15 st nm l)) with
        | none => exact ⟨he, hn⟩
        | some r =>
          obtain ⟨t, n⟩ := r
          obtain ⟨h3, h4⟩ := tag_sg _ t n hr h2
          rw [List.drop_drop] at h4
          refine ⟨fun u hu => ?_, h4⟩
          rcases List.mem_append.1 hu with h5 | h5
          · exact he u h5
          · rw [List.mem_singleton.1 h5]; exact h3
      · exact ⟨he, h2⟩
  · exact ⟨fun t h => (by cases h), hv⟩
theorem drvR_sg : ∀ (f : Nat) (l : Txt), validD l = true → ∀ t ∈ drvR f l, TxOk t
  | 0, _, _, t, h => by cases h
  | f + 1, l, hv, t, h => by
    obtain ⟨h1, h2⟩ := nx_sg l hv
    unfold drvR at h
    split at h
    · cases h
    · have hS : (∀ t ∈ (drvS l).1, TxOk t) ∧ validD (l.drop (drvS l).2) = true := by
        unfold drvS
        split
        · split
          · obtain ⟨h3, h4⟩ := rest_sg (drvN (nx l).1.name) (nx l).1.name _ h2
            rw [List.drop_drop] at h4
            refine ⟨fun u hu => ?_, h4⟩
            rcases List.mem_cons.1 hu with h5 | h5
            · rw [h5]; exact h1
            · exact h3 u h5
          · refine ⟨fun u hu => ?_, h2⟩
            rw [List.mem_singleton.1 hu]; exact h1
        · exact ⟨fun u hu => (by cases hu), h2⟩
      rcases List.mem_append.1 h with h3 | h3
      · exact hS.1 t h3
      · exact drvR_sg f _ hS.2 t h3

/-! what is told of pieces: joined it is the same -/
theorem renT_none (r : RenP) : renT r (txtT []) = r := by
  rw [renT_text r (txtT []) rfl]
  split
  · rename_i h
    obtain ⟨o, k, f⟩ := r
    simp only at h
    subst h; rfl
  · rfl
theorem renT_two (r : RenP) (x : Txt) (t : TokP) (h : t.kind = 0) : renT (renT r (txtT x)) t = renT r (txtT (x ++ t.text)) := by
  rw [renT_text r (txtT x) rfl, renT_text r (txtT (x ++ t.text)) rfl]
  by_cases ho : r.opn = []
  · rw [if_pos ho, if_pos ho, renT_text _ t h, if_pos rfl]
    show (⟨[], r.kept, putL _ (putL _ r.flow x) t.text⟩ : RenP) = _
    rw [← putL_app]; rfl
  · rw [if_neg ho, if_neg ho, renT_text r t h, if_neg ho]
theorem ren_emit (r : RenP) (x : Txt) : renR r (emitT x) = renT r (txtT x) := by
  unfold emitT
  split
  · rename_i h
    rw [h, renT_none]; rfl
  · rfl
theorem ren_joinA : ∀ (L : List TokP) (x : Txt) (r : RenP), renR r (joinA x L) = renR (renT r (txtT x)) L
  | [], x, r => by rw [joinA, ren_emit]; rfl
  | t :: L, x, r => by
    rw [joinA, renR_cons]
    split
    · rename_i h
      rw [ren_joinA L, renT_two r x t h]
    · rw [renR_app, ren_emit, renR_cons, ren_joinA L [], renT_none]
theorem ren_join (L : List TokP) (r : RenP) : renR r (joinL L) = renR r L := by
  unfold joinL
  rw [ren_joinA, renT_none]
/-- what a flow tells is just signs -/
def FlSg (f : FloP) : Prop := validD f.told = true ∧ ∀ c ∈ f.blanks, c.toNat < 128
/-- what is told ahead of a byte that is no blank -/
def flushF (f : FloP) : Txt := if f.told = [] then [] else f.told ++ List.replicate f.ends 10 ++ f.blanks
theorem put_words (keep : Bool) : ∀ (e : Txt) (f : FloP), e ≠ [] → (∀ c ∈ e, wordB c = true) → putL keep f e = ⟨flushF f ++ e, 0, []⟩
  | [], _, h, _ => absurd rfl h
  | c :: e, f, _, h => by
    have hc := h c (.head _)
    unfold wordB at hc
    simp only [Bool.and_eq_true, Bool.not_eq_true', beq_eq_false_iff_ne] at hc
    have h1 : putB keep f c = ⟨tellF f c, 0, []⟩ := word_y keep f c hc.1 hc.2
    rw [putL_cons, h1]
    by_cases he : e = []
    · subst he; rfl
    · rw [put_words keep e _ he (fun x hx => h x (.tail _ hx))]
      have h2 : flushF ⟨tellF f c, 0, []⟩ = tellF f c := by
        unfold flushF
        rw [if_neg (by unfold tellF; simp)]; simp
      rw [h2]
      unfold tellF flushF
      simp
theorem high_word (c : UInt8) (h : 128 ≤ c.toNat) : wordB c = true := by
  have hn : ∀ d : UInt8, d.toNat < 128 → c ≠ d := fun d hd e => by rw [e] at h; omega
  unfold wordB blkB
  simp [hn 0 (by decide), hn 9 (by decide), hn 10 (by decide), hn 12 (by decide), hn 13 (by decide), hn 32 (by decide)]
theorem flush_sg (f : FloP) (h : FlSg f) : validD (flushF f) = true := by
  unfold flushF
  split
  · rfl
  · refine sg_app _ _ (sg_app _ _ h.1 (sg_all _ fun c hc => ?_)) (sg_all _ h.2)
    rw [(List.mem_replicate.1 hc).2]; decide
theorem byte_sg (keep : Bool) (f : FloP) (c : UInt8) (h7 : c.toNat < 128) (h : FlSg f) : FlSg (putB keep f c) := by
  unfold putB
  split
  · exact h
  · split
    · rename_i hb
      split
      · split
        · exact ⟨h.1, fun d hd => by cases hd⟩
        · refine ⟨h.1, fun d hd => ?_⟩
          rcases List.mem_append.1 hd with hd | hd
          · exact h.2 d hd
          · rw [List.mem_singleton.1 hd]; exact h7
      · split
        · exact ⟨h.1, fun d hd => by rw [List.mem_singleton.1 hd]; decide⟩
        · exact h
    · refine ⟨?_, fun d hd => by cases hd⟩
      exact sg_app _ _ (flush_sg f h) (sg_all _ fun d hd => by rw [List.mem_singleton.1 hd]; exact h7)
theorem put_sg (keep : Bool) (s : Txt) (hv : validD s = true) : ∀ f, FlSg f → FlSg (putL keep f s) := by
  refine sg_ind (M := fun s => ∀ f, FlSg f → FlSg (putL keep f s)) (fun f h => h) (fun c t h7 _ ih f h => ?_) (fun e t hne h1 h2 _ ih f h => ?_) s.length s (Nat.le_refl _) hv
  · rw [putL_cons]; exact ih _ (byte_sg keep f c h7 h)
  · rw [putL_app, put_words keep e f hne (fun c hc => high_word c (h2 c hc))]
    exact ih _ ⟨sg_app _ _ (flush_sg f h) h1, fun d hd => by cases hd⟩
theorem lines_sg (nm : Txt) (f : FloP) (h : FlSg f) : FlSg (linesF nm f) := by
  have hb : FlSg (brF nm f) := by
    unfold brF
    split
    · exact ⟨h.1, fun d hd => by cases hd⟩
    · exact h
  unfold linesF
  split
  · exact ⟨hb.1, fun d hd => by cases hd⟩
  · exact hb
theorem renT_sg (r : RenP) (t : TokP) (ht : TxOk t) (h : FlSg r.flow) : FlSg (renT r t).flow := by
  unfold renT
  split
  · split
    · exact h
    · split
      · exact lines_sg _ _ h
      · exact h
  · split
    · split
      · exact h
      · split
        · exact lines_sg _ _ h
        · exact h
    · split
      · rename_i h0
        exact put_sg _ _ (ht h0.1) _ h
      · exact h
theorem renR_sg : ∀ (L : List TokP) (r : RenP), (∀ t ∈ L, TxOk t) → FlSg r.flow → FlSg (renR r L).flow
  | [], _, _, h => h
  | t :: L, r, hL, h => renR_sg L _ (fun u hu => hL u (.tail _ hu)) (renT_sg r t (hL t (.head _)) h)
end Go.Proofs.YtpmdcppnlggckaaGreatDoor
