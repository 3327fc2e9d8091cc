/-
  What the laws of layer 20 want of what bytes say: plain mathematics. (Written by wip/tools/gen_extmath.py.)
-/
import Derived.Test.YtpmdcppnlggckaaGreatDoorCrMath
namespace Go.Proofs.YtpmdcppnlggckaaGreatDoor
open Go.RowKit Go.Lib

/-! pieces, not joined -/
theorem drv_tag (l : Txt) (t : TokP) (n : Nat) (h : begT l ≠ 0) (hr : tagR l = some (t, n)) (hs : ¬ SpecT t) : drvP l = t :: drvP (l.drop n) := by
  have hl : l ≠ [] := by rintro rfl; exact h beg_nil
  have hx := nx_tag l h
  rw [hr] at hx
  have hS : drvS l = ([t], n) := by
    unfold drvS
    rw [hx]
    simp only [if_true]
    rw [if_neg hs]
  rw [drv_step l hl, hS]; rfl
theorem drv_com (l : Txt) (h0 : begT l = 0) (h : begC l = true) : ∃ x, drvP l = comT x :: drvP (l.drop (comR l).2) := by
  have hl : l ≠ [] := by rintro rfl; exact absurd h (by decide)
  have hx : nx l = (comT (comR l).1, (comR l).2, true) := by
    unfold nx
    rw [if_neg (by rw [h0]; decide), if_pos h]
  have hS : drvS l = ([comT (comR l).1], (comR l).2) := by
    unfold drvS
    rw [hx]
    simp only [if_true]
    rw [if_neg (fun e => absurd e.1 (show ¬ (3 : Int) = 1 by decide))]
  exact ⟨_, by rw [drv_step l hl, hS]; rfl⟩
theorem drv_ahead (a z : Txt) (h : 60 ∉ a) (hz : nextN z = 0) : drvP (a ++ z) = emitT (ddL false a) ++ drvP z := by
  by_cases ha : a = []
  · subst ha; rfl
  · have hne : a ++ z ≠ [] := fun e => ha (List.append_eq_nil_iff.1 e).1
    have hS : drvS (a ++ z) = ([txtT (ddL false a)], a.length) := by
      unfold drvS
      rw [nx_ahead a z ha h hz]
      simp only [if_true]
      rw [if_neg (fun e => absurd e.1 (show ¬ (0 : Int) = 1 by decide))]
    rw [drv_step _ hne, hS]
    simp only [List.drop_left]
    rw [emit_one _ (dd_some a ha)]
theorem drv_plain20 (a : Txt) (h : 60 ∉ a) : drvP a = emitT (ddL false a) := by
  have := drv_ahead a [] h rfl
  rwa [List.append_nil, drv_nil, List.append_nil] at this
theorem next_tag (l : Txt) (h : begT l ≠ 0) : nextN l = 0 := next_here l (by unfold mkB; rw [decide_eq_true h]; rfl)
theorem next_com (l : Txt) (h : begC l = true) : nextN l = 0 := next_here l (by unfold mkB; rw [h]; simp)
/-- a text read in its state, up to its tag's end -/
theorem drv_spec20 (p : Txt × Int) (hp : p ∈ stTab) (h4 : p.2 ≠ 4) (l : Txt) (n : Nat) (hl : l ≠ []) (hx : nx l = (⟨1, p.1, [], [], false⟩, n, true)) (a q b : Txt) (hd : l.drop n = a ++ (q ++ b)) (ha : 60 ∉ a)
    (hq : endR p.1 (q ++ b) = true) (hs : p.2 = 3 → (endR scL q = true ∧ ∀ j, comL.isPrefixOf (lowL (q.drop j)) = false)) (hb : begT (q ++ b) ≠ 0) (ht : tagR (q ++ b) = some (⟨2, p.1, [], [], false⟩, q.length)) :
    drvP l = (⟨1, p.1, [], [], false⟩ : TokP) :: (emitT (rawT (decide (p.2 = 1)) a) ++ (⟨2, p.1, [], [], false⟩ : TokP) :: drvP b) := by
  obtain ⟨h1, h2, h0, h3, -⟩ := st_tab p hp
  have hq0 : q ≠ [] := by
    rintro rfl
    have := (tag_ends _ _ _ ht).1
    simp at this
  have hql := List.length_pos_iff.2 hq0
  have he : endN15 p.2 p.1 (a ++ (q ++ b)) = a.length := by
    unfold endN15
    split
    · exact find_behind60 p.1 a _ ha hq
    · have e3 : p.2 = 3 := by omega
      obtain ⟨g1, g2⟩ := hs e3
      rw [if_pos e3]
      have k1 : scrV 0 0 (a ++ q) = (a.length, 0) := by
        rw [scr_plain _ (com_60 a q ha g2), find_behind60 scL a q ha g1]
      have k2 := scr_app 0 0 (a ++ q) b (by decide) (by rw [k1, List.length_append]; simp only; omega)
      rw [List.append_assoc] at k2
      rw [k2, k1]
  have hR : restK p.2 p.1 (a ++ (q ++ b)) = (emitT (rawT (decide (p.2 = 1)) a) ++ [⟨2, p.1, [], [], false⟩], a.length + q.length) := by
    unfold restK saysR
    rw [if_pos (by omega), he, if_neg (by simp only [List.length_append]; omega), List.drop_left, if_pos hb, ht, List.take_left]
  have hS : drvS l = ((⟨1, p.1, [], [], false⟩ : TokP) :: (emitT (rawT (decide (p.2 = 1)) a) ++ [⟨2, p.1, [], [], false⟩]), n + (a.length + q.length)) := by
    unfold drvS
    rw [hx]
    simp only [if_true]
    rw [if_pos ⟨rfl, by rw [h0]; omega⟩, hd, h0, hR]
  have hd2 : l.drop (n + (a.length + q.length)) = b := by
    rw [← List.drop_drop, hd, ← List.drop_drop, List.drop_left, List.drop_left]
  rw [drv_step l hl, hS]
  simp only [hd2]
  simp

/-! ExtractPlain -/
/-- words with one blank between: what is wanted, and whether a blank waits -/
def plF (s : Txt × Bool) (c : UInt8) : Txt × Bool := if blkB c = true then (s.1, decide (s.1 ≠ [])) else (s.1 ++ (if s.2 = true then [32] else []) ++ [c], false)
def plS (l : Txt) : Txt × Bool := l.foldl plF ([], false)
theorem plS_snoc (l : Txt) (c : UInt8) : plS (l ++ [c]) = plF (plS l) c := by
  unfold plS; rw [List.foldl_append]; rfl
theorem plS_len : ∀ (l : Txt) (s : Txt × Bool), (l.foldl plF s).1.length ≤ s.1.length + 2 * l.length
  | [], s => Nat.le_refl _
  | c :: l, s => by
    have h := plS_len l (plF s c)
    have h1 : (plF s c).1.length ≤ s.1.length + 2 := by
      unfold plF
      split
      · simp
      · simp only [List.length_append, List.length_cons, List.length_nil]
        split <;> simp <;> omega
    rw [List.foldl_cons, List.length_cons]; omega
theorem pl_flow : ∀ (l : Txt) (W : Txt) (B : Bool) (f : FloP), 0 ∉ l → f.told = W → f.ends = 0 → (W = [] ∧ B = false ∨ W ≠ [] ∧ f.blanks = if B = true then [32] else []) → (putL false f l).told = (l.foldl plF (W, B)).1
  | [], W, B, f, _, h, _, _ => h
  | c :: l, W, B, f, h0, h1, h2, h3 => by
    rw [List.mem_cons, not_or] at h0
    have hc0 : c ≠ 0 := fun e => h0.1 e.symm
    rw [putL_cons, List.foldl_cons]
    by_cases hb : blkB c = true
    · have e1 : plF (W, B) c = (W, decide (W ≠ [])) := by unfold plF; rw [if_pos hb]
      have e2 : putB false f c = if f.ends = 0 ∧ f.blanks = [] then ⟨f.told, 0, [32]⟩ else f := by
        unfold putB
        rw [if_neg hc0, if_pos hb, if_neg Bool.false_ne_true]
      rw [e1, e2]
      by_cases hbl : f.blanks = []
      · rw [if_pos ⟨h2, hbl⟩]
        refine pl_flow l W _ _ h0.2 h1 rfl ?_
        by_cases hW : W = []
        · exact .inl ⟨hW, by simp [hW]⟩
        · exact .inr ⟨hW, by simp [hW]⟩
      · rw [if_neg (fun e => hbl e.2)]
        refine pl_flow l W _ _ h0.2 h1 h2 ?_
        rcases h3 with ⟨hW, -⟩ | ⟨hW, hB⟩
        · exact .inl ⟨hW, by simp [hW]⟩
        · refine .inr ⟨hW, ?_⟩
          cases B
          · rw [if_neg Bool.false_ne_true] at hB; exact absurd hB hbl
          · rw [if_pos rfl] at hB; rw [hB]; simp [hW]
    · have hb' : blkB c = false := by simpa using hb
      have e1 : plF (W, B) c = (W ++ (if B = true then [32] else []) ++ [c], false) := by unfold plF; rw [if_neg hb]
      rw [e1, word_y false f c hc0 hb']
      refine pl_flow l _ _ _ h0.2 ?_ rfl (.inr ⟨by simp, rfl⟩)
      show tellF f c = _
      unfold tellF
      rw [h1, h2]
      rcases h3 with ⟨hW, hB⟩ | ⟨hW, hB⟩
      · rw [hW, hB]; simp
      · rw [if_neg hW, hB]; simp
theorem put_ends (f : FloP) (c : UInt8) (h : f.ends = 0) : (putB false f c).ends = 0 := by
  unfold putB
  split
  · exact h
  · split
    · rw [if_neg Bool.false_ne_true]
      split
      · rfl
      · exact h
    · rfl
theorem put_line20 (f : FloP) (h : f.ends = 0) : putB false f 13 = putB false f 10 ∧ putB false (putB false f 13) 10 = putB false f 10 := by
  have e1 : putB false f 13 = if f.ends = 0 ∧ f.blanks = [] then ⟨f.told, 0, [32]⟩ else f := rfl
  have e2 : ∀ g : FloP, putB false g 10 = if g.ends = 0 ∧ g.blanks = [] then ⟨g.told, 0, [32]⟩ else g := fun _ => rfl
  rw [e1, e2 f]
  refine ⟨rfl, ?_⟩
  by_cases hb : f.blanks = []
  · rw [if_pos ⟨h, hb⟩, e2, if_neg (fun e => by cases e.2)]
  · rw [if_neg (fun e => hb e.2), e2, if_neg (fun e => hb e.2)]
theorem put_norm : ∀ (l : Txt) (f : FloP), f.ends = 0 → putL false f (normL l) = putL false f l
  | [], _, _ => rfl
  | c :: r, f, h => by
    rw [normL]
    split
    · rw [putL_cons, putL_cons, put_norm r _ (put_ends f c h)]
    · rename_i hc
      have hc' : c = 13 := Classical.not_not.1 hc
      subst hc'
      split
      · rename_i hh
        rw [put_norm r f h]
        cases r with
        | nil => cases hh
        | cons d r =>
          simp only [List.head?_cons, Option.some.injEq] at hh
          subst hh
          rw [putL_cons, putL_cons, putL_cons, (put_line20 f h).2]
      · rw [putL_cons, putL_cons, put_norm r _ (put_ends f 10 h), (put_line20 f h).1]
theorem norm_mem (l : Txt) (c : UInt8) (hc : c ≠ 10) (h : c ∉ l) : c ∉ normL l := by
  have : ∀ (l : Txt), c ∉ l → c ∉ normL l := by
    intro l
    induction l with
    | nil => exact fun h => h
    | cons d r ih =>
      intro h
      rw [List.mem_cons, not_or] at h
      have := ih h.2
      rw [normL]
      split
      · rw [List.mem_cons, not_or]; exact ⟨h.1, this⟩
      · split
        · exact this
        · rw [List.mem_cons, not_or]; exact ⟨hc, this⟩
  exact this l h
theorem dec0_mem (c : UInt8) (hc : c.toNat < 128) : ∀ (n : Nat) (l : Txt), l.length ≤ n → c ∉ l → c ∉ dec0 l
  | 0, l, h, _ => by
    have : l = [] := List.eq_nil_of_length_eq_zero (by omega)
    subst this; rw [dec0_nil]; exact fun h => by cases h
  | n + 1, l, h, hm => by
    by_cases hne : l = []
    · subst hne; rw [dec0_nil]; exact fun h => by cases h
    · have hl : 0 < l.length := List.length_pos_iff.2 hne
      have hw := decodeL_width l
      have hb := begL_ge l
      rw [dec0_step l hne]
      split
      · rw [List.mem_append, not_or]
        refine ⟨fun e => ?_, dec0_mem c hc n _ (by rw [List.length_drop]; omega) (fun e => hm (List.mem_of_mem_drop e))⟩
        simp only [badL, List.mem_cons, List.not_mem_nil, or_false] at e
        rcases e with rfl | rfl | rfl <;> exact absurd hc (by decide)
      · rw [List.mem_append, not_or]
        exact ⟨fun e => hm (List.mem_of_mem_take e), dec0_mem c hc n _ (by rw [List.length_drop]; omega) (fun e => hm (List.mem_of_mem_drop e))⟩
theorem ext_put (s b : Txt) (h : normL (dec b) = s) (h60 : 60 ∉ s) (h38 : 38 ∉ s) : extL b = (putL false flo0 s).told := by
  rw [ext_eq, h, drv_plain20 s h60, dd_stays false s h38, ren_emit, renT_text ren0 (txtT s) rfl, if_pos (show ren0.opn = [] from rfl)]; rfl
theorem ext_plain (b : Txt) (hv : validD b = true) (hm : hasPrefix b markL = false) (h60 : 60 ∉ b) (h38 : 38 ∉ b) (h0 : 0 ∉ b) : extL b = (plS b).1 := by
  rw [ext_put (normL b) b (by rw [dec_plain b hm, dec0_same b hv]) (norm_mem b 60 (by decide) h60) (norm_mem b 38 (by decide) h38), put_norm b flo0 rfl]
  exact pl_flow b [] false flo0 h0 rfl rfl (.inl ⟨rfl, rfl⟩)

/-! ExtractTags -/
theorem low_dec (l : Txt) (h : ∀ c ∈ l, c.toNat < 128) : dec l = l := by
  cases l with
  | nil => rfl
  | cons c t => rw [dec_plain _ (low_head c t (h c (.head _))), dec0_same _ (sg_all _ h)]
/-- a flow in which nothing is hidden, and no blanks are kept -/
def Plain20 (r : RenP) : Prop := r.opn = [] ∧ r.kept = 0
theorem plain_text (r : RenP) (h : Plain20 r) (x : Txt) : Plain20 (renT r (txtT x)) := by
  rw [renT_text r (txtT x) rfl, if_pos h.1]; exact ⟨rfl, h.2⟩
theorem plain_start (r : RenP) (h : Plain20 r) (nm : Txt) (al : List Ln) (self : Bool) (h1 : hidN nm = false) (h2 : keeN nm = false) (h3 : nm ≠ bodyL) : renT r ⟨1, nm, [], al, self⟩ = ⟨[], 0, linesF nm r.flow⟩ := by
  have hs : openS r nm = [] := by unfold openS; rw [if_neg h3]; exact h.1
  rw [renT_start r _ rfl]
  simp only
  rw [if_neg (by rw [h1]; exact Bool.false_ne_true), if_pos hs, h2, h.2]; rfl
theorem plain_end (r : RenP) (h : Plain20 r) (nm : Txt) (al : List Ln) (self : Bool) (h2 : keeN nm = false) : renT r ⟨2, nm, [], al, self⟩ = ⟨[], 0, linesF nm r.flow⟩ := by
  rw [renT_end r _ rfl, h.1]
  simp only
  rw [show lastN [] nm = none from rfl]
  simp only [if_true]
  rw [h2, h.2]; rfl
theorem plain_eta (r : RenP) (h : Plain20 r) : r = ⟨[], 0, r.flow⟩ := by
  obtain ⟨o, k, f⟩ := r
  obtain ⟨h1, h2⟩ := h
  simp only at h1 h2
  subst h1; subst h2; rfl
theorem lines_no (nm : Txt) (f : FloP) (h1 : nm ≠ brL) (h2 : linN nm = 0) : linesF nm f = f := by
  unfold linesF brF
  rw [h2, if_neg (by decide), if_neg h1]
theorem plain_hidden (r : RenP) (h : Plain20 r) (nm : Txt) (h1 : hidN nm = true) (h3 : nm ≠ bodyL) : renT r ⟨1, nm, [], [], false⟩ = ⟨[nm], 0, r.flow⟩ := by
  have hs : openS r nm = [] := by unfold openS; rw [if_neg h3]; exact h.1
  rw [renT_start r _ rfl]
  simp only
  rw [if_pos h1, hs, h.2]; rfl
theorem hidden_end (nm : Txt) (f : FloP) : renT ⟨[nm], 0, f⟩ ⟨2, nm, [], [], false⟩ = ⟨[], 0, f⟩ := by
  rw [renT_end _ _ rfl]
  simp only
  rw [show lastN [nm] nm = some 0 by unfold lastN; rw [show lastN [] nm = none from rfl]; simp]
  rfl
theorem hidden_text (nm x : Txt) (f : FloP) : renT ⟨[nm], 0, f⟩ (txtT x) = ⟨[nm], 0, f⟩ := by
  rw [renT_text _ (txtT x) rfl, if_neg (by simp)]
theorem hidden_emit (nm x : Txt) (f : FloP) : renR ⟨[nm], 0, f⟩ (emitT x) = ⟨[nm], 0, f⟩ := by rw [ren_emit, hidden_text]
theorem ren_com (r : RenP) (x : Txt) : renT r (comT x) = r := renT_other r _ (show ¬ (3 : Int) = 0 by decide) (show ¬ (3 : Int) = 1 by decide) (show ¬ (3 : Int) = 2 by decide)
/-- the ten pieces of markup, and the one that they are held against -/
def markT : List Txt := [[60, 98, 62], [60, 47, 105, 62], [60, 97, 32, 104, 114, 101, 102, 61, 39, 120, 62, 121, 39, 62], [60, 33, 45, 45, 32, 60, 112, 62, 32, 45, 45, 62], [60, 63, 112, 62], [60, 33, 68, 79, 67, 84, 89, 80, 69, 32, 112, 62], [60, 47, 62], [60, 115, 99, 114, 105, 112, 116, 62, 60, 112, 62, 60, 47, 115, 99, 114, 105, 112, 116, 62], [60, 115, 116, 121, 108, 101, 62, 112, 60, 47, 115, 116, 121, 108, 101, 62], [60, 116, 101, 109, 112, 108, 97, 116, 101, 62, 60, 112, 62, 120, 60, 47, 116, 101, 109, 112, 108, 97, 116, 101, 62]]
def markQ : Txt := [60, 113, 62]
/-- what plays no part ahead of a text -/
def Nil20 (m : Txt) : Prop := nextN m = 0 ∧ ∀ (B : Txt) (r : RenP), 60 ∉ B → nextN (m ++ B) = 0 ∧ (Plain20 r → renR r (drvP (m ++ B)) = renR r (drvP B))
theorem nil_tag (m nm : Txt) (k : Int) (hk : k = 1 ∨ k = 2) (al : List Ln) (h1 : hidN nm = false) (h2 : keeN nm = false) (h3 : nm ≠ bodyL) (h4 : nm ≠ brL) (h5 : linN nm = 0) (h6 : drvN nm = 0) (n : Nat)
    (hm : ∀ B, begT (m ++ B) ≠ 0 ∧ tagR (m ++ B) = some (⟨k, nm, [], al, false⟩, n) ∧ (m ++ B).drop n = B) (hn : nextN m = 0) : Nil20 m := by
  refine ⟨hn, fun B r _ => ?_⟩
  obtain ⟨g1, g2, g3⟩ := hm B
  refine ⟨next_tag _ g1, fun h => ?_⟩
  rw [drv_tag _ _ _ g1 g2 (fun e => e.2 h6), g3, renR_cons]
  congr 1
  rcases hk with rfl | rfl
  · rw [plain_start r h nm al false h1 h2 h3, lines_no nm _ h4 h5, ← plain_eta r h]
  · rw [plain_end r h nm al false h2, lines_no nm _ h4 h5, ← plain_eta r h]
theorem nil_com (m : Txt) (hm : ∀ B, begT (m ++ B) = 0 ∧ begC (m ++ B) = true ∧ (comR (m ++ B)).2 = m.length) (hn : nextN m = 0) : Nil20 m := by
  refine ⟨hn, fun B r _ => ?_⟩
  obtain ⟨g1, g2, g3⟩ := hm B
  refine ⟨next_com _ g2, fun h => ?_⟩
  obtain ⟨x, hx⟩ := drv_com _ g1 g2
  rw [hx, g3, List.drop_left, renR_cons, ren_com]
theorem com_fix (m : Txt) (h : begC (m ++ [65]) = true) (h2 : (comR (m ++ [65])).2 = m.length) (B : Txt) : (comR (m ++ B)).2 = m.length := by
  have h1 := (told_rest (m ++ [65]) B h).2.2.2 (by rw [h2]; simp)
  rw [h2, List.take_left] at h1
  rw [h1.2.2, h2]
theorem doc_mark (B : Txt) : nextN ([60, 33, 68, 79, 67, 84, 89, 80, 69, 32, 112, 62] ++ B) = 0 ∧ drvP ([60, 33, 68, 79, 67, 84, 89, 80, 69, 32, 112, 62] ++ B) = dctT [32, 112] :: drvP B := by
  have h1 : begT ([60, 33, 68, 79, 67, 84, 89, 80, 69, 32, 112, 62] ++ B) = 0 := rfl
  have h2 : begC ([60, 33, 68, 79, 67, 84, 89, 80, 69, 32, 112, 62] ++ B) = false := rfl
  have h3 : begD ([60, 33, 68, 79, 67, 84, 89, 80, 69, 32, 112, 62] ++ B) = true := rfl
  have hs : seekP (· != 62) ([60, 33, 68, 79, 67, 84, 89, 80, 69, 32, 112, 62] ++ B) 9 = 11 := rfl
  have ht : (([60, 33, 68, 79, 67, 84, 89, 80, 69, 32, 112, 62] ++ B : Txt).drop 9).takeWhile (· != 62) = [32, 112] := rfl
  have hx : nx ([60, 33, 68, 79, 67, 84, 89, 80, 69, 32, 112, 62] ++ B) = (dctT [32, 112], 12, true) := by
    unfold nx
    rw [if_neg (by rw [h1]; decide), h2, if_neg Bool.false_ne_true, h3, if_pos rfl, hs, ht, if_pos (by simp)]
  have hS : drvS ([60, 33, 68, 79, 67, 84, 89, 80, 69, 32, 112, 62] ++ B) = ([dctT [32, 112]], 12) := by
    unfold drvS
    rw [hx]
    simp only [if_true]
    rw [if_neg (fun e => absurd e.1 (show ¬ (4 : Int) = 1 by decide))]
  refine ⟨next_here _ (by unfold mkB; rw [h3]; simp), ?_⟩
  rw [drv_step _ (by simp), hS]; rfl
theorem emp_mark (B : Txt) : nextN ([60, 47, 62] ++ B) = 0 ∧ drvP ([60, 47, 62] ++ B) = drvP B := by
  have h1 : begT ([60, 47, 62] ++ B) = 0 := rfl
  have h2 : begC ([60, 47, 62] ++ B) = false := rfl
  have h3 : begD ([60, 47, 62] ++ B) = false := rfl
  have h4 : begE ([60, 47, 62] ++ B) = true := by unfold begE; rw [List.isPrefixOf_iff_prefix]; exact List.prefix_append _ _
  have hx : nx ([60, 47, 62] ++ B) = (zeroT, 3, false) := by
    unfold nx
    rw [if_neg (by rw [h1]; decide), h2, if_neg Bool.false_ne_true, h3, if_neg Bool.false_ne_true, h4, if_pos rfl]
  have hS : drvS ([60, 47, 62] ++ B) = ([], 3) := by
    unfold drvS
    rw [hx]; rfl
  refine ⟨next_here _ (by unfold mkB; rw [h4]; simp), ?_⟩
  rw [drv_step _ (by simp), hS]; rfl
set_option maxRecDepth 100000 in
theorem scr_mark (B : Txt) : nextN ([60, 115, 99, 114, 105, 112, 116, 62, 60, 112, 62, 60, 47, 115, 99, 114, 105, 112, 116, 62] ++ B) = 0 ∧ drvP ([60, 115, 99, 114, 105, 112, 116, 62, 60, 112, 62, 60, 47, 115, 99, 114, 105, 112, 116, 62] ++ B) = (⟨1, scL, [], [], false⟩ : TokP) :: (emitT [60, 112, 62] ++ (⟨2, scL, [], [], false⟩ : TokP) :: drvP B) := by
  have hb : begT ([60, 115, 99, 114, 105, 112, 116, 62, 60, 112, 62, 60, 47, 115, 99, 114, 105, 112, 116, 62] ++ B) ≠ 0 := by show (1 : Nat) ≠ 0; decide
  refine ⟨next_tag _ hb, ?_⟩
  have h0 : scL ∈ nmTab := by decide
  have e : [60, 115, 99, 114, 105, 112, 116, 62, 60, 112, 62, 60, 47, 115, 99, 114, 105, 112, 116, 62] ++ B = 60 :: (scL ++ 62 :: ([60, 112, 62, 60, 47, 115, 99, 114, 105, 112, 116, 62] ++ B)) := rfl
  rw [e, drv_start scL _ h0]
  have k1 : scrV 0 0 [60, 112, 62, 60, 47, 115, 99, 114, 105, 112, 116, 62] = (3, 0) := by decide +kernel
  have k2 := scr_app 0 0 [60, 112, 62, 60, 47, 115, 99, 114, 105, 112, 116, 62] B (by decide) (by rw [k1]; decide)
  have he : endN15 3 scL ([60, 112, 62, 60, 47, 115, 99, 114, 105, 112, 116, 62] ++ B) = 3 := by
    unfold endN15
    rw [if_neg (by decide), if_pos rfl, k2, k1]
  obtain ⟨g1, g2⟩ := end_tag scL h0 B
  have hR : restK 3 scL ([60, 112, 62, 60, 47, 115, 99, 114, 105, 112, 116, 62] ++ B) = (emitT [60, 112, 62] ++ [⟨2, scL, [], [], false⟩], 12) := by
    unfold restK saysR
    rw [if_pos (by decide), he, if_neg (by simp), show ([60, 112, 62, 60, 47, 115, 99, 114, 105, 112, 116, 62] ++ B : Txt).drop 3 = 60 :: 47 :: (scL ++ 62 :: B) from rfl, if_pos (by rw [g1]; decide), g2]
    rfl
  rw [show drvN scL = 3 from by decide +kernel, hR]
  simp only
  rw [show ([60, 112, 62, 60, 47, 115, 99, 114, 105, 112, 116, 62] ++ B : Txt).drop 12 = B from rfl]
  simp
theorem tpl_step (m B : Txt) (t : TokP) (h : begT (m ++ B) ≠ 0 ∧ tagR (m ++ B) = some (t, m.length)) (hs : ¬ SpecT t) : drvP (m ++ B) = t :: drvP B := by
  rw [drv_tag _ t _ h.1 h.2 hs, List.drop_left]
set_option maxRecDepth 100000 in
theorem tpl_mark (B : Txt) : nextN ([60, 116, 101, 109, 112, 108, 97, 116, 101, 62, 60, 112, 62, 120, 60, 47, 116, 101, 109, 112, 108, 97, 116, 101, 62] ++ B) = 0 ∧ drvP ([60, 116, 101, 109, 112, 108, 97, 116, 101, 62, 60, 112, 62, 120, 60, 47, 116, 101, 109, 112, 108, 97, 116, 101, 62] ++ B) = (⟨1, [116, 101, 109, 112, 108, 97, 116, 101], [], [], false⟩ : TokP) :: (⟨1, [112], [], [], false⟩ : TokP) :: (emitT [120] ++ (⟨2, [116, 101, 109, 112, 108, 97, 116, 101], [], [], false⟩ : TokP) :: drvP B) := by
  have hb : begT ([60, 116, 101, 109, 112, 108, 97, 116, 101, 62, 60, 112, 62, 120, 60, 47, 116, 101, 109, 112, 108, 97, 116, 101, 62] ++ B) ≠ 0 := by show (1 : Nat) ≠ 0; decide
  refine ⟨next_tag _ hb, ?_⟩
  have e1 : [60, 116, 101, 109, 112, 108, 97, 116, 101, 62, 60, 112, 62, 120, 60, 47, 116, 101, 109, 112, 108, 97, 116, 101, 62] ++ B = [60, 116, 101, 109, 112, 108, 97, 116, 101, 62] ++ ([60, 112, 62] ++ ([120] ++ ([60, 47, 116, 101, 109, 112, 108, 97, 116, 101, 62] ++ B))) := rfl
  have hn : drvN [116, 101, 109, 112, 108, 97, 116, 101] = 0 := by decide +kernel
  have hp : drvN [112] = 0 := by decide +kernel
  have hz : nextN ([60, 47, 116, 101, 109, 112, 108, 97, 116, 101, 62] ++ B) = 0 := next_tag _ (by show (2 : Nat) ≠ 0; decide)
  rw [e1, tpl_step [60, 116, 101, 109, 112, 108, 97, 116, 101, 62] _ ⟨1, [116, 101, 109, 112, 108, 97, 116, 101], [], [], false⟩ ⟨by show (1 : Nat) ≠ 0; decide, rfl⟩ (fun e => e.2 hn), tpl_step [60, 112, 62] _ ⟨1, [112], [], [], false⟩ ⟨by show (1 : Nat) ≠ 0; decide, rfl⟩ (fun e => e.2 hp),
    drv_ahead [120] _ (by decide) hz, tpl_step [60, 47, 116, 101, 109, 112, 108, 97, 116, 101, 62] _ ⟨2, [116, 101, 109, 112, 108, 97, 116, 101], [], [], false⟩ ⟨by show (2 : Nat) ≠ 0; decide, rfl⟩ (fun e => e.2 hn)]
  rfl
set_option maxRecDepth 100000 in
theorem nil_all : ∀ m ∈ markQ :: markT, Nil20 m := by
  intro m hm
  simp only [markQ, markT, List.mem_cons, List.not_mem_nil, or_false] at hm
  rcases hm with rfl | rfl | rfl | rfl | rfl | rfl | rfl | rfl | rfl | rfl | rfl
  · exact nil_tag _ [113] 1 (.inl rfl) [] (by decide +kernel) (by decide +kernel) (by decide) (by decide) (by decide +kernel) (by decide +kernel) 3 (fun B => ⟨by show (1 : Nat) ≠ 0; decide, rfl, rfl⟩) rfl
  · exact nil_tag _ [98] 1 (.inl rfl) [] (by decide +kernel) (by decide +kernel) (by decide) (by decide) (by decide +kernel) (by decide +kernel) 3 (fun B => ⟨by show (1 : Nat) ≠ 0; decide, rfl, rfl⟩) rfl
  · exact nil_tag _ [105] 2 (.inr rfl) [] (by decide +kernel) (by decide +kernel) (by decide) (by decide) (by decide +kernel) (by decide +kernel) 4 (fun B => ⟨by show (2 : Nat) ≠ 0; decide, rfl, rfl⟩) rfl
  · exact nil_tag _ [97] 1 (.inl rfl) [([104, 114, 101, 102], [120, 62, 121])] (by decide +kernel) (by decide +kernel) (by decide) (by decide) (by decide +kernel) (by decide +kernel) 14 (fun B => ⟨by show (1 : Nat) ≠ 0; decide, rfl, rfl⟩) rfl
  · exact nil_com _ (fun B => ⟨rfl, rfl, com_fix _ (by decide +kernel) (by decide +kernel) B⟩) rfl
  · exact nil_com _ (fun B => ⟨rfl, rfl, com_fix _ (by decide +kernel) (by decide +kernel) B⟩) rfl
  · refine ⟨rfl, fun B r _ => ⟨(doc_mark B).1, fun h => ?_⟩⟩
    rw [(doc_mark B).2, renR_cons, renT_other r (dctT _) (show ¬ (4 : Int) = 0 by decide) (show ¬ (4 : Int) = 1 by decide) (show ¬ (4 : Int) = 2 by decide)]
  · exact ⟨rfl, fun B r _ => ⟨(emp_mark B).1, fun h => by rw [(emp_mark B).2]⟩⟩
  · refine ⟨rfl, fun B r _ => ⟨(scr_mark B).1, fun h => ?_⟩⟩
    rw [(scr_mark B).2, renR_cons, plain_hidden r h scL (by decide +kernel) (by decide), renR_app, hidden_emit, renR_cons, hidden_end, ← plain_eta r h]
  · have hs : (([115, 116, 121, 108, 101], 2) : Txt × Int) ∈ stTab := by decide +kernel
    have hd : ∀ B, drvP ([60, 115, 116, 121, 108, 101, 62, 112, 60, 47, 115, 116, 121, 108, 101, 62] ++ B) = (⟨1, [115, 116, 121, 108, 101], [], [], false⟩ : TokP) :: (emitT (rawT false [112]) ++ (⟨2, [115, 116, 121, 108, 101], [], [], false⟩ : TokP) :: drvP B) := fun B =>
      drv_spec20 ([115, 116, 121, 108, 101], 2) hs (by decide) ([60, 115, 116, 121, 108, 101, 62, 112, 60, 47, 115, 116, 121, 108, 101, 62] ++ B) 7 (by simp) rfl [112] [60, 47, 115, 116, 121, 108, 101, 62] B rfl (by decide) rfl (fun e => absurd e (by decide)) (by show (2 : Nat) ≠ 0; decide) rfl
    refine ⟨rfl, fun B r _ => ⟨next_tag _ (by show (1 : Nat) ≠ 0; decide), fun h => ?_⟩⟩
    rw [hd B, renR_cons, plain_hidden r h [115, 116, 121, 108, 101] (by decide +kernel) (by decide), renR_app, hidden_emit, renR_cons, hidden_end, ← plain_eta r h]
  · refine ⟨rfl, fun B r _ => ⟨(tpl_mark B).1, fun h => ?_⟩⟩
    rw [(tpl_mark B).2, renR_cons, plain_hidden r h [116, 101, 109, 112, 108, 97, 116, 101] (by decide +kernel) (by decide), renR_cons]
    have e1 : renT ⟨[[116, 101, 109, 112, 108, 97, 116, 101]], 0, r.flow⟩ ⟨1, [112], [], [], false⟩ = ⟨[[116, 101, 109, 112, 108, 97, 116, 101]], 0, r.flow⟩ := by
      rw [renT_start _ _ rfl]
      simp only
      rw [if_neg (by decide +kernel)]
      rw [show openS ⟨[[116, 101, 109, 112, 108, 97, 116, 101]], 0, r.flow⟩ [112] = [[116, 101, 109, 112, 108, 97, 116, 101]] from rfl, if_neg (by simp)]
    rw [e1, renR_app, hidden_emit, renR_cons, hidden_end, ← plain_eta r h]
theorem mark_form : ∀ m ∈ markQ :: markT, m.head? = some 60 ∧ m.getLast? = some 62 ∧ 13 ∉ m ∧ m.length ≤ 25 ∧ ∀ c ∈ m, c.toNat < 128 := by decide +kernel
theorem ext_mark (m a b : Txt) (hm : m ∈ markQ :: markT) (ha : ∀ c ∈ a, c.toNat < 128 ∧ c ≠ 60 ∧ c ≠ 38) (hb : ∀ c ∈ b, c.toNat < 128 ∧ c ≠ 60 ∧ c ≠ 38) :
    extL (a ++ m ++ b) = (renR (renT ren0 (txtT (normL a))) (drvP (normL b))).flow.told := by
  obtain ⟨f1, f2, f3, -, f4⟩ := mark_form m hm
  have a60 : 60 ∉ normL a := norm_mem a 60 (by decide) (fun e => (ha 60 e).2.1 rfl)
  have b60 : 60 ∉ normL b := norm_mem b 60 (by decide) (fun e => (hb 60 e).2.1 rfl)
  have a38 : 38 ∉ normL a := norm_mem a 38 (by decide) (fun e => (ha 38 e).2.2 rfl)
  have h1 : dec (a ++ m ++ b) = a ++ m ++ b := low_dec _ fun c hc => by
    rcases List.mem_append.1 hc with hc | hc
    · rcases List.mem_append.1 hc with hc | hc
      · exact (ha c hc).1
      · exact f4 c hc
    · exact (hb c hc).1
  have hmb : (m ++ b).head? = some 60 := by
    cases m with
    | nil => cases f1
    | cons x m => exact f1
  have h2 : normL (a ++ m ++ b) = normL a ++ (m ++ normL b) := by
    rw [List.append_assoc, normL_app a _ (fun e => by rw [hmb] at e; exact absurd e.2 (by decide)), normL_app m b (fun e => by rw [f2] at e; exact absurd e.1 (by decide)), normL_same m f3]
  obtain ⟨-, hN⟩ := nil_all m hm
  obtain ⟨g1, g2⟩ := hN (normL b) (renT ren0 (txtT (normL a))) b60
  rw [ext_eq, h1, h2, drv_ahead _ _ a60 g1, dd_stays false _ a38, renR_app, ren_emit, g2 (plain_text ren0 ⟨rfl, rfl⟩ _)]
theorem ext_tags (m : Txt) (hm : m ∈ markT) (a b : Txt) (ha : ∀ c ∈ a, c.toNat < 128 ∧ c ≠ 60 ∧ c ≠ 38) (hb : ∀ c ∈ b, c.toNat < 128 ∧ c ≠ 60 ∧ c ≠ 38) :
    extL (a ++ m ++ b) = extL (a ++ markQ ++ b) := by
  rw [ext_mark m a b (List.mem_cons_of_mem _ hm) ha hb, ext_mark markQ a b (.head _) ha hb]

/-! ExtractBlocks -/
def SmallT (x : Txt) : Prop := x ≠ [] ∧ ∀ c ∈ x, 97 ≤ c.toNat ∧ c.toNat ≤ 122
theorem small_not (x : Txt) (h : SmallT x) (c : UInt8) (hc : c.toNat < 97) : c ∉ x := fun e => by have := (h.2 c e).1; omega
theorem small_word (x : Txt) (h : SmallT x) : ∀ c ∈ x, wordB c = true := fun c hc => by
  have h1 := (h.2 c hc).1
  have hn : ∀ d : UInt8, d.toNat < 97 → c ≠ d := fun d hd e => by rw [e] at h1; omega
  unfold wordB blkB
  simp [hn 0 (by decide), hn 9 (by decide), hn 10 (by decide), hn 12 (by decide), hn 13 (by decide), hn 32 (by decide)]
theorem small_emit (x z : Txt) (h : SmallT x) (hz : nextN z = 0) : drvP (x ++ z) = txtT x :: drvP z := by
  rw [drv_ahead x z (small_not x h 60 (by decide)) hz, dd_stays false x (small_not x h 38 (by decide)), emit_one x h.1]; rfl
theorem small_end (x : Txt) (h : SmallT x) : drvP x = [txtT x] := by
  have := small_emit x [] h rfl
  rwa [List.append_nil, drv_nil] at this
theorem small_put (r : RenP) (hr : Plain20 r) (x : Txt) (h : SmallT x) : renT r (txtT x) = ⟨[], 0, ⟨flushF r.flow ++ x, 0, []⟩⟩ := by
  rw [renT_text r (txtT x) rfl, if_pos hr.1, hr.2]
  show (⟨[], 0, putL _ r.flow x⟩ : RenP) = _
  rw [put_words _ x _ h.1 (small_word x h)]
/-- all bytes below 128, no 13: they are as they stand -/
theorem ext_low (l : Txt) (h : ∀ c ∈ l, c.toNat < 128 ∧ c ≠ 13) : extL l = (renR ren0 (drvP l)).flow.told := by
  rw [ext_eq, low_dec l (fun c hc => (h c hc).1), normL_same l (fun e => (h 13 e).2 rfl)]
theorem small_low (x : Txt) (h : SmallT x) : ∀ c ∈ x, c.toNat < 128 ∧ c ≠ 13 := fun c hc => by
  have h1 := h.2 c hc
  exact ⟨by omega, fun e => by rw [e] at h1; exact absurd h1.1 (by decide)⟩
theorem low_cat {a b : Txt} (ha : ∀ c ∈ a, c.toNat < 128 ∧ c ≠ 13) (hb : ∀ c ∈ b, c.toNat < 128 ∧ c ≠ 13) : ∀ c ∈ a ++ b, c.toNat < 128 ∧ c ≠ 13 := fun c hc => (List.mem_append.1 hc).elim (ha c) (hb c)
set_option maxRecDepth 100000 in
theorem blocks_p (x y : Txt) (hx : SmallT x) (hy : SmallT y) : extL ([60, 112, 62] ++ (x ++ ([60, 112, 62] ++ (y ++ [60, 47, 112, 62])))) = x ++ [10, 10] ++ y := by
  have hp : drvN [112] = 0 := by decide +kernel
  have t1 : ∀ z : Txt, drvP ([60, 112, 62] ++ z) = (⟨1, [112], [], [], false⟩ : TokP) :: drvP z := fun z => tpl_step _ z _ ⟨by show (1 : Nat) ≠ 0; decide, rfl⟩ (fun e => e.2 hp)
  have t2 : drvP [60, 47, 112, 62] = [(⟨2, [112], [], [], false⟩ : TokP)] := tpl_step [60, 47, 112, 62] [] _ ⟨by show (2 : Nat) ≠ 0; decide, rfl⟩ (fun e => e.2 hp)
  have z1 : ∀ z : Txt, nextN ([60, 112, 62] ++ z) = 0 := fun z => next_tag _ (by show (1 : Nat) ≠ 0; decide)
  rw [ext_low _ (low_cat (by decide) (low_cat (small_low x hx) (low_cat (by decide) (low_cat (small_low y hy) (by decide))))), t1, small_emit x _ hx (z1 _), t1, small_emit y _ hy (next_tag _ (by show (2 : Nat) ≠ 0; decide)), t2]
  have hk : ∀ r, Plain20 r → renT r ⟨1, [112], [], [], false⟩ = ⟨[], 0, brkF 2 r.flow⟩ := fun r h => plain_start r h [112] [] false (by decide +kernel) (by decide +kernel) (by decide)
  have hk2 : ∀ r, Plain20 r → renT r ⟨2, [112], [], [], false⟩ = ⟨[], 0, brkF 2 r.flow⟩ := fun r h => plain_end r h [112] [] false (by decide +kernel)
  simp only [renR_cons, renR_nil]
  rw [hk ren0 ⟨rfl, rfl⟩, small_put _ ⟨rfl, rfl⟩ x hx, hk _ ⟨rfl, rfl⟩, small_put _ ⟨rfl, rfl⟩ y hy, hk2 _ ⟨rfl, rfl⟩]
  have hne : x ≠ [] := hx.1
  have e2 : (min (2 : Int) 100).toNat = 2 := rfl
  simp [brkF, flushF, ren0, flo0, hne, e2, List.replicate]
set_option maxRecDepth 100000 in
theorem blocks_d (x y : Txt) (hx : SmallT x) (hy : SmallT y) : extL ([60, 100, 105, 118, 62] ++ (x ++ ([60, 47, 100, 105, 118, 62] ++ ([10] ++ ([60, 100, 105, 118, 62] ++ y))))) = x ++ [10] ++ y := by
  have hp : drvN [100, 105, 118] = 0 := by decide +kernel
  have t1 : ∀ z : Txt, drvP ([60, 100, 105, 118, 62] ++ z) = (⟨1, [100, 105, 118], [], [], false⟩ : TokP) :: drvP z := fun z => tpl_step _ z _ ⟨by show (1 : Nat) ≠ 0; decide, rfl⟩ (fun e => e.2 hp)
  have t2 : ∀ z : Txt, drvP ([60, 47, 100, 105, 118, 62] ++ z) = (⟨2, [100, 105, 118], [], [], false⟩ : TokP) :: drvP z := fun z => tpl_step _ z _ ⟨by show (2 : Nat) ≠ 0; decide, rfl⟩ (fun e => e.2 hp)
  have z1 : ∀ z : Txt, nextN ([60, 100, 105, 118, 62] ++ z) = 0 := fun z => next_tag _ (by show (1 : Nat) ≠ 0; decide)
  rw [ext_low _ (low_cat (by decide) (low_cat (small_low x hx) (low_cat (by decide) (low_cat (by decide) (low_cat (by decide) (small_low y hy)))))), t1, small_emit x _ hx (next_tag _ (by show (2 : Nat) ≠ 0; decide)), t2,
    drv_ahead [10] _ (by decide) (z1 _), t1, small_end y hy, show emitT (ddL false [10]) = [txtT [10]] from rfl]
  have hk : ∀ r, Plain20 r → renT r ⟨1, [100, 105, 118], [], [], false⟩ = ⟨[], 0, brkF 1 r.flow⟩ := fun r h => plain_start r h [100, 105, 118] [] false (by decide +kernel) (by decide +kernel) (by decide)
  have hk2 : ∀ r, Plain20 r → renT r ⟨2, [100, 105, 118], [], [], false⟩ = ⟨[], 0, brkF 1 r.flow⟩ := fun r h => plain_end r h [100, 105, 118] [] false (by decide +kernel)
  have h10 : ∀ f : FloP, renT ⟨[], 0, brkF 1 f⟩ (txtT [10]) = ⟨[], 0, brkF 1 f⟩ := fun f => by
    rw [renT_text _ (txtT [10]) rfl, if_pos rfl]
    show (⟨[], 0, putB false (brkF 1 f) 10⟩ : RenP) = _
    have : putB false (brkF 1 f) 10 = if (brkF 1 f).ends = 0 ∧ (brkF 1 f).blanks = [] then ⟨(brkF 1 f).told, 0, [32]⟩ else brkF 1 f := rfl
    rw [this, if_neg (fun e => by have := e.1; unfold brkF at this; simp only at this; omega)]
  simp only [renR_cons, renR_nil, List.cons_append, List.nil_append]
  rw [hk ren0 ⟨rfl, rfl⟩, small_put _ ⟨rfl, rfl⟩ x hx, hk2 _ ⟨rfl, rfl⟩, h10, hk _ ⟨rfl, rfl⟩, small_put _ ⟨rfl, rfl⟩ y hy]
  have hne : x ≠ [] := hx.1
  have e1 : (min (1 : Int) 100).toNat = 1 := rfl
  simp [brkF, flushF, ren0, flo0, hne, e1]
set_option maxRecDepth 100000 in
theorem blocks_i (x y : Txt) (hx : SmallT x) (hy : SmallT y) : extL ([60, 98, 62] ++ (x ++ ([60, 47, 98, 62] ++ y))) = x ++ y := by
  have hp : drvN [98] = 0 := by decide +kernel
  have t1 : ∀ z : Txt, drvP ([60, 98, 62] ++ z) = (⟨1, [98], [], [], false⟩ : TokP) :: drvP z := fun z => tpl_step _ z _ ⟨by show (1 : Nat) ≠ 0; decide, rfl⟩ (fun e => e.2 hp)
  have t2 : ∀ z : Txt, drvP ([60, 47, 98, 62] ++ z) = (⟨2, [98], [], [], false⟩ : TokP) :: drvP z := fun z => tpl_step _ z _ ⟨by show (2 : Nat) ≠ 0; decide, rfl⟩ (fun e => e.2 hp)
  rw [ext_low _ (low_cat (by decide) (low_cat (small_low x hx) (low_cat (by decide) (small_low y hy)))), t1, small_emit x _ hx (next_tag _ (by show (2 : Nat) ≠ 0; decide)), t2, small_end y hy]
  have hk : ∀ r, Plain20 r → renT r ⟨1, [98], [], [], false⟩ = ⟨[], 0, r.flow⟩ := fun r h => by
    rw [plain_start r h [98] [] false (by decide +kernel) (by decide +kernel) (by decide), lines_no _ _ (by decide) (by decide +kernel)]
  have hk2 : ∀ r, Plain20 r → renT r ⟨2, [98], [], [], false⟩ = ⟨[], 0, r.flow⟩ := fun r h => by
    rw [plain_end r h [98] [] false (by decide +kernel), lines_no _ _ (by decide) (by decide +kernel)]
  simp only [renR_cons, renR_nil]
  rw [hk ren0 ⟨rfl, rfl⟩, small_put _ ⟨rfl, rfl⟩ x hx, hk2 _ ⟨rfl, rfl⟩, small_put _ ⟨rfl, rfl⟩ y hy]
  have hne : x ≠ [] := hx.1
  simp [flushF, ren0, flo0, hne]
set_option maxRecDepth 100000 in
theorem blocks_r (x y : Txt) (hx : SmallT x) (hy : SmallT y) : extL (x ++ ([60, 98, 114, 62] ++ ([60, 98, 114, 47, 62] ++ y))) = x ++ [10, 10] ++ y := by
  have hp : drvN brL = 0 := by decide +kernel
  have t1 : ∀ z : Txt, drvP ([60, 98, 114, 62] ++ z) = (⟨1, brL, [], [], false⟩ : TokP) :: drvP z := fun z => tpl_step _ z _ ⟨by show (1 : Nat) ≠ 0; decide, rfl⟩ (fun e => e.2 hp)
  have t2 : ∀ z : Txt, drvP ([60, 98, 114, 47, 62] ++ z) = (⟨1, brL, [], [], true⟩ : TokP) :: drvP z := fun z => tpl_step _ z _ ⟨by show (1 : Nat) ≠ 0; decide, rfl⟩ (fun e => e.2 hp)
  rw [ext_low _ (low_cat (small_low x hx) (low_cat (by decide) (low_cat (by decide) (small_low y hy)))), small_emit x _ hx (next_tag _ (by show (1 : Nat) ≠ 0; decide)), t1, t2, small_end y hy]
  have hk : ∀ (self : Bool) r, Plain20 r → renT r ⟨1, brL, [], [], self⟩ = ⟨[], 0, lineF r.flow⟩ := fun self r h => plain_start r h brL [] self (by decide +kernel) (by decide +kernel) (by decide)
  simp only [renR_cons, renR_nil]
  rw [small_put _ ⟨rfl, rfl⟩ x hx, hk false _ ⟨rfl, rfl⟩, hk true _ ⟨rfl, rfl⟩, small_put _ ⟨rfl, rfl⟩ y hy]
  have hne : x ≠ [] := hx.1
  simp [lineF, flushF, ren0, flo0, hne, List.replicate]

/-! ExtractCase -/
/-- a text in brackets of a name, between two letters -/
theorem case_pieces (u v S : Txt) (t1 t2 : TokP) (hu : ∀ z, begT (u ++ z) ≠ 0 ∧ tagR (u ++ z) = some (t1, u.length)) (hv : ∀ z, begT (v ++ z) ≠ 0 ∧ tagR (v ++ z) = some (t2, v.length)) (h1 : ¬ SpecT t1) (h2 : ¬ SpecT t2) (h60 : 60 ∉ S) :
    drvP ([120] ++ (u ++ (S ++ (v ++ [121])))) = txtT [120] :: t1 :: (emitT (ddL false S) ++ t2 :: [txtT [121]]) := by
  rw [drv_ahead [120] _ (by decide) (next_tag _ (hu _).1), tpl_step u _ t1 (hu _) h1, drv_ahead S _ h60 (next_tag _ (hv _).1), tpl_step v _ t2 (hv _) h2, drv_plain20 [121] (by decide)]
  rfl
theorem case_spec (p : Txt × Int) (hp : p ∈ stTab) (h4 : p.2 ≠ 4) (u v S : Txt) (hu : ∀ z, begT (u ++ z) ≠ 0 ∧ tagR (u ++ z) = some (⟨1, p.1, [], [], false⟩, u.length)) (hv : ∀ z, begT (v ++ z) ≠ 0 ∧ tagR (v ++ z) = some (⟨2, p.1, [], [], false⟩, v.length) ∧ endR p.1 (v ++ z) = true)
    (hs : p.2 = 3 → (endR scL v = true ∧ ∀ j, comL.isPrefixOf (lowL (v.drop j)) = false)) (h60 : 60 ∉ S) :
    drvP ([120] ++ (u ++ (S ++ (v ++ [121])))) = txtT [120] :: (⟨1, p.1, [], [], false⟩ : TokP) :: (emitT (rawT (decide (p.2 = 1)) S) ++ (⟨2, p.1, [], [], false⟩ : TokP) :: [txtT [121]]) := by
  have hb := hu (S ++ (v ++ [121]))
  have hx := nx_tag _ hb.1
  rw [hb.2] at hx
  rw [drv_ahead [120] _ (by decide) (next_tag _ hb.1),
    drv_spec20 p hp h4 (u ++ (S ++ (v ++ [121]))) u.length (by rintro e; rw [e] at hb; exact hb.1 beg_nil) hx S v [121] List.drop_left h60 (hv _).2.2 hs (hv _).1 (hv _).2.1, drv_plain20 [121] (by decide)]
  rfl
/-- a short text in which no comment begins -/
theorem com_few (v : Txt) (h : ∀ k, k < v.length → comL.isPrefixOf (lowL (v.drop k)) = false) (j : Nat) : comL.isPrefixOf (lowL (v.drop j)) = false := by
  rcases Nat.lt_or_ge j v.length with h1 | h1
  · exact h j h1
  · rw [List.drop_eq_nil_of_le h1]; decide
def caseP : List (Txt × Txt) := [([112], [80]), ([100, 105, 118], [68, 73, 86]), ([112, 114, 101], [80, 82, 69]), ([115, 99, 114, 105, 112, 116], [83, 67, 82, 73, 80, 84]), ([115, 116, 121, 108, 101], [83, 84, 89, 76, 69]), ([116, 105, 116, 108, 101], [84, 73, 84, 76, 69]), ([116, 101, 120, 116, 97, 114, 101, 97], [84, 69, 88, 84, 65, 82, 69, 65]), ([98, 114], [66, 82]), ([108, 105], [76, 73]), ([104, 49], [72, 49]), ([116, 101, 109, 112, 108, 97, 116, 101], [84, 69, 77, 80, 76, 65, 84, 69]), ([120, 109, 112], [88, 77, 80])]
theorem case_form : ∀ p ∈ caseP, p.1.length ≤ 8 ∧ p.2.length ≤ 8 ∧ (∀ c ∈ p.1, c.toNat < 128 ∧ c ≠ 13) ∧ ∀ c ∈ p.2, c.toNat < 128 ∧ c ≠ 13 := by decide +kernel
/-- what stands in brackets is read by itself -/
theorem case_norm (u v s : Txt) (hu : u.getLast? = some 62) (hv : v.head? = some 60) (hu7 : ∀ c ∈ u, c.toNat < 128 ∧ c ≠ 13) (hv7 : ∀ c ∈ v, c.toNat < 128 ∧ c ≠ 13) :
    normL (dec ([120] ++ (u ++ (s ++ (v ++ [121]))))) = [120] ++ (u ++ (normL (dec0 s) ++ (v ++ [121]))) := by
  have hw7 : ∀ c ∈ v ++ [121], c.toNat < 128 ∧ c ≠ 13 := low_cat hv7 (by decide)
  have hx7 : ∀ c ∈ [120] ++ u, c.toNat < 128 ∧ c ≠ 13 := low_cat (by decide) hu7
  have hvh : (v ++ [121]).head? = some 60 := by
    cases v with
    | nil => cases hv
    | cons x v => exact hv
  have hwd : v ++ [121] = [] ∨ ((v ++ [121]).getD 0 0).toNat < 128 := .inr (by
    cases v with
    | nil => cases hv
    | cons x v => simp only [List.head?_cons, Option.some.injEq] at hv; rw [hv]; show (60 : UInt8).toNat < 128; decide)
  have e1 : [120] ++ (u ++ (s ++ (v ++ [121]))) = ([120] ++ u) ++ (s ++ (v ++ [121])) := by simp
  have hd : dec ([120] ++ (u ++ (s ++ (v ++ [121])))) = ([120] ++ u) ++ (dec0 s ++ (v ++ [121])) := by
    rw [dec_plain _ (show hasPrefix ([120] ++ (u ++ (s ++ (v ++ [121])))) markL = false from low_head 120 _ (by decide)), e1, dec0_right _ _ ([120] ++ u) (Nat.le_refl _) (sg_all _ fun c hc => (hx7 c hc).1), dec0_app _ hwd _ s (Nat.le_refl _), dec0_same _ (sg_all _ fun c hc => (hw7 c hc).1)]
  have hxl : ([120] ++ u).getLast? = some 62 := by rw [List.getLast?_append, hu]; rfl
  rw [hd, normL_app _ _ (fun e => by rw [hxl] at e; exact absurd e.1 (by decide)), normL_same _ (fun e => (hx7 13 e).2 rfl), normL_app _ _ (fun e => by rw [hvh] at e; exact absurd e.2 (by decide)), normL_same (v ++ [121]) (fun e => (hw7 13 e).2 rfl)]
  simp
set_option maxRecDepth 100000 in
theorem case_same (p : Txt × Txt) (hp : p ∈ caseP) (S : Txt) (h60 : 60 ∉ S) :
    drvP ([120] ++ ((60 :: (p.1 ++ [62])) ++ (S ++ ((60 :: 47 :: (p.1 ++ [62])) ++ [121])))) = drvP ([120] ++ ((60 :: (p.2 ++ [32, 62])) ++ (S ++ ((60 :: 47 :: (p.2 ++ [10, 62])) ++ [121])))) := by
  simp only [caseP, List.mem_cons, List.not_mem_nil, or_false] at hp
  rcases hp with rfl | rfl | rfl | rfl | rfl | rfl | rfl | rfl | rfl | rfl | rfl | rfl
  · exact (case_pieces [60, 112, 62] [60, 47, 112, 62] S ⟨1, [112], [], [], false⟩ ⟨2, [112], [], [], false⟩ (fun z => ⟨by show (1 : Nat) ≠ 0; decide, rfl⟩) (fun z => ⟨by show (2 : Nat) ≠ 0; decide, rfl⟩) (fun e => e.2 (by decide +kernel)) (fun e => absurd e.1 (by decide)) h60).trans (case_pieces [60, 80, 32, 62] [60, 47, 80, 10, 62] S ⟨1, [112], [], [], false⟩ ⟨2, [112], [], [], false⟩ (fun z => ⟨by show (1 : Nat) ≠ 0; decide, rfl⟩) (fun z => ⟨by show (2 : Nat) ≠ 0; decide, rfl⟩) (fun e => e.2 (by decide +kernel)) (fun e => absurd e.1 (by decide)) h60).symm
  · exact (case_pieces [60, 100, 105, 118, 62] [60, 47, 100, 105, 118, 62] S ⟨1, [100, 105, 118], [], [], false⟩ ⟨2, [100, 105, 118], [], [], false⟩ (fun z => ⟨by show (1 : Nat) ≠ 0; decide, rfl⟩) (fun z => ⟨by show (2 : Nat) ≠ 0; decide, rfl⟩) (fun e => e.2 (by decide +kernel)) (fun e => absurd e.1 (by decide)) h60).trans (case_pieces [60, 68, 73, 86, 32, 62] [60, 47, 68, 73, 86, 10, 62] S ⟨1, [100, 105, 118], [], [], false⟩ ⟨2, [100, 105, 118], [], [], false⟩ (fun z => ⟨by show (1 : Nat) ≠ 0; decide, rfl⟩) (fun z => ⟨by show (2 : Nat) ≠ 0; decide, rfl⟩) (fun e => e.2 (by decide +kernel)) (fun e => absurd e.1 (by decide)) h60).symm
  · exact (case_pieces [60, 112, 114, 101, 62] [60, 47, 112, 114, 101, 62] S ⟨1, [112, 114, 101], [], [], false⟩ ⟨2, [112, 114, 101], [], [], false⟩ (fun z => ⟨by show (1 : Nat) ≠ 0; decide, rfl⟩) (fun z => ⟨by show (2 : Nat) ≠ 0; decide, rfl⟩) (fun e => e.2 (by decide +kernel)) (fun e => absurd e.1 (by decide)) h60).trans (case_pieces [60, 80, 82, 69, 32, 62] [60, 47, 80, 82, 69, 10, 62] S ⟨1, [112, 114, 101], [], [], false⟩ ⟨2, [112, 114, 101], [], [], false⟩ (fun z => ⟨by show (1 : Nat) ≠ 0; decide, rfl⟩) (fun z => ⟨by show (2 : Nat) ≠ 0; decide, rfl⟩) (fun e => e.2 (by decide +kernel)) (fun e => absurd e.1 (by decide)) h60).symm
  · exact (case_spec ([115, 99, 114, 105, 112, 116], 3) (by decide +kernel) (by decide) [60, 115, 99, 114, 105, 112, 116, 62] [60, 47, 115, 99, 114, 105, 112, 116, 62] S (fun z => ⟨by show (1 : Nat) ≠ 0; decide, rfl⟩) (fun z => ⟨by show (2 : Nat) ≠ 0; decide, rfl, rfl⟩) (fun _ => ⟨by decide +kernel, fun j => com_few _ (by decide +kernel) j⟩) h60).trans (case_spec ([115, 99, 114, 105, 112, 116], 3) (by decide +kernel) (by decide) [60, 83, 67, 82, 73, 80, 84, 32, 62] [60, 47, 83, 67, 82, 73, 80, 84, 10, 62] S (fun z => ⟨by show (1 : Nat) ≠ 0; decide, rfl⟩) (fun z => ⟨by show (2 : Nat) ≠ 0; decide, rfl, rfl⟩) (fun _ => ⟨by decide +kernel, fun j => com_few _ (by decide +kernel) j⟩) h60).symm
  · exact (case_spec ([115, 116, 121, 108, 101], 2) (by decide +kernel) (by decide) [60, 115, 116, 121, 108, 101, 62] [60, 47, 115, 116, 121, 108, 101, 62] S (fun z => ⟨by show (1 : Nat) ≠ 0; decide, rfl⟩) (fun z => ⟨by show (2 : Nat) ≠ 0; decide, rfl, rfl⟩) (fun e => absurd e (by decide)) h60).trans (case_spec ([115, 116, 121, 108, 101], 2) (by decide +kernel) (by decide) [60, 83, 84, 89, 76, 69, 32, 62] [60, 47, 83, 84, 89, 76, 69, 10, 62] S (fun z => ⟨by show (1 : Nat) ≠ 0; decide, rfl⟩) (fun z => ⟨by show (2 : Nat) ≠ 0; decide, rfl, rfl⟩) (fun e => absurd e (by decide)) h60).symm
  · exact (case_spec ([116, 105, 116, 108, 101], 1) (by decide +kernel) (by decide) [60, 116, 105, 116, 108, 101, 62] [60, 47, 116, 105, 116, 108, 101, 62] S (fun z => ⟨by show (1 : Nat) ≠ 0; decide, rfl⟩) (fun z => ⟨by show (2 : Nat) ≠ 0; decide, rfl, rfl⟩) (fun e => absurd e (by decide)) h60).trans (case_spec ([116, 105, 116, 108, 101], 1) (by decide +kernel) (by decide) [60, 84, 73, 84, 76, 69, 32, 62] [60, 47, 84, 73, 84, 76, 69, 10, 62] S (fun z => ⟨by show (1 : Nat) ≠ 0; decide, rfl⟩) (fun z => ⟨by show (2 : Nat) ≠ 0; decide, rfl, rfl⟩) (fun e => absurd e (by decide)) h60).symm
  · exact (case_spec ([116, 101, 120, 116, 97, 114, 101, 97], 1) (by decide +kernel) (by decide) [60, 116, 101, 120, 116, 97, 114, 101, 97, 62] [60, 47, 116, 101, 120, 116, 97, 114, 101, 97, 62] S (fun z => ⟨by show (1 : Nat) ≠ 0; decide, rfl⟩) (fun z => ⟨by show (2 : Nat) ≠ 0; decide, rfl, rfl⟩) (fun e => absurd e (by decide)) h60).trans (case_spec ([116, 101, 120, 116, 97, 114, 101, 97], 1) (by decide +kernel) (by decide) [60, 84, 69, 88, 84, 65, 82, 69, 65, 32, 62] [60, 47, 84, 69, 88, 84, 65, 82, 69, 65, 10, 62] S (fun z => ⟨by show (1 : Nat) ≠ 0; decide, rfl⟩) (fun z => ⟨by show (2 : Nat) ≠ 0; decide, rfl, rfl⟩) (fun e => absurd e (by decide)) h60).symm
  · exact (case_pieces [60, 98, 114, 62] [60, 47, 98, 114, 62] S ⟨1, [98, 114], [], [], false⟩ ⟨2, [98, 114], [], [], false⟩ (fun z => ⟨by show (1 : Nat) ≠ 0; decide, rfl⟩) (fun z => ⟨by show (2 : Nat) ≠ 0; decide, rfl⟩) (fun e => e.2 (by decide +kernel)) (fun e => absurd e.1 (by decide)) h60).trans (case_pieces [60, 66, 82, 32, 62] [60, 47, 66, 82, 10, 62] S ⟨1, [98, 114], [], [], false⟩ ⟨2, [98, 114], [], [], false⟩ (fun z => ⟨by show (1 : Nat) ≠ 0; decide, rfl⟩) (fun z => ⟨by show (2 : Nat) ≠ 0; decide, rfl⟩) (fun e => e.2 (by decide +kernel)) (fun e => absurd e.1 (by decide)) h60).symm
  · exact (case_pieces [60, 108, 105, 62] [60, 47, 108, 105, 62] S ⟨1, [108, 105], [], [], false⟩ ⟨2, [108, 105], [], [], false⟩ (fun z => ⟨by show (1 : Nat) ≠ 0; decide, rfl⟩) (fun z => ⟨by show (2 : Nat) ≠ 0; decide, rfl⟩) (fun e => e.2 (by decide +kernel)) (fun e => absurd e.1 (by decide)) h60).trans (case_pieces [60, 76, 73, 32, 62] [60, 47, 76, 73, 10, 62] S ⟨1, [108, 105], [], [], false⟩ ⟨2, [108, 105], [], [], false⟩ (fun z => ⟨by show (1 : Nat) ≠ 0; decide, rfl⟩) (fun z => ⟨by show (2 : Nat) ≠ 0; decide, rfl⟩) (fun e => e.2 (by decide +kernel)) (fun e => absurd e.1 (by decide)) h60).symm
  · exact (case_pieces [60, 104, 49, 62] [60, 47, 104, 49, 62] S ⟨1, [104, 49], [], [], false⟩ ⟨2, [104, 49], [], [], false⟩ (fun z => ⟨by show (1 : Nat) ≠ 0; decide, rfl⟩) (fun z => ⟨by show (2 : Nat) ≠ 0; decide, rfl⟩) (fun e => e.2 (by decide +kernel)) (fun e => absurd e.1 (by decide)) h60).trans (case_pieces [60, 72, 49, 32, 62] [60, 47, 72, 49, 10, 62] S ⟨1, [104, 49], [], [], false⟩ ⟨2, [104, 49], [], [], false⟩ (fun z => ⟨by show (1 : Nat) ≠ 0; decide, rfl⟩) (fun z => ⟨by show (2 : Nat) ≠ 0; decide, rfl⟩) (fun e => e.2 (by decide +kernel)) (fun e => absurd e.1 (by decide)) h60).symm
  · exact (case_pieces [60, 116, 101, 109, 112, 108, 97, 116, 101, 62] [60, 47, 116, 101, 109, 112, 108, 97, 116, 101, 62] S ⟨1, [116, 101, 109, 112, 108, 97, 116, 101], [], [], false⟩ ⟨2, [116, 101, 109, 112, 108, 97, 116, 101], [], [], false⟩ (fun z => ⟨by show (1 : Nat) ≠ 0; decide, rfl⟩) (fun z => ⟨by show (2 : Nat) ≠ 0; decide, rfl⟩) (fun e => e.2 (by decide +kernel)) (fun e => absurd e.1 (by decide)) h60).trans (case_pieces [60, 84, 69, 77, 80, 76, 65, 84, 69, 32, 62] [60, 47, 84, 69, 77, 80, 76, 65, 84, 69, 10, 62] S ⟨1, [116, 101, 109, 112, 108, 97, 116, 101], [], [], false⟩ ⟨2, [116, 101, 109, 112, 108, 97, 116, 101], [], [], false⟩ (fun z => ⟨by show (1 : Nat) ≠ 0; decide, rfl⟩) (fun z => ⟨by show (2 : Nat) ≠ 0; decide, rfl⟩) (fun e => e.2 (by decide +kernel)) (fun e => absurd e.1 (by decide)) h60).symm
  · exact (case_spec ([120, 109, 112], 2) (by decide +kernel) (by decide) [60, 120, 109, 112, 62] [60, 47, 120, 109, 112, 62] S (fun z => ⟨by show (1 : Nat) ≠ 0; decide, rfl⟩) (fun z => ⟨by show (2 : Nat) ≠ 0; decide, rfl, rfl⟩) (fun e => absurd e (by decide)) h60).trans (case_spec ([120, 109, 112], 2) (by decide +kernel) (by decide) [60, 88, 77, 80, 32, 62] [60, 47, 88, 77, 80, 10, 62] S (fun z => ⟨by show (1 : Nat) ≠ 0; decide, rfl⟩) (fun z => ⟨by show (2 : Nat) ≠ 0; decide, rfl, rfl⟩) (fun e => absurd e (by decide)) h60).symm
theorem ext_case (p : Txt × Txt) (hp : p ∈ caseP) (s : Txt) (h60 : 60 ∉ s) :
    extL ([120] ++ ((60 :: (p.1 ++ [62])) ++ (s ++ ((60 :: 47 :: (p.1 ++ [62])) ++ [121])))) = extL ([120] ++ ((60 :: (p.2 ++ [32, 62])) ++ (s ++ ((60 :: 47 :: (p.2 ++ [10, 62])) ++ [121])))) := by
  obtain ⟨-, -, a1, a2⟩ := case_form p hp
  have hS : 60 ∉ normL (dec0 s) := norm_mem _ 60 (by decide) (dec0_mem 60 (by decide) _ s (Nat.le_refl _) h60)
  have k1 : ∀ (a z : Txt), (∀ c ∈ a, c.toNat < 128 ∧ c ≠ 13) → (∀ c ∈ z, c.toNat < 128 ∧ c ≠ 13) → ∀ c ∈ 60 :: (a ++ z), c.toNat < 128 ∧ c ≠ 13 := fun a z h1 h2 c hc => by
    rcases List.mem_cons.1 hc with rfl | hc
    · decide
    · exact low_cat h1 h2 c hc
  have k2 : ∀ (a z : Txt), (∀ c ∈ a, c.toNat < 128 ∧ c ≠ 13) → (∀ c ∈ z, c.toNat < 128 ∧ c ≠ 13) → ∀ c ∈ 60 :: 47 :: (a ++ z), c.toNat < 128 ∧ c ≠ 13 := fun a z h1 h2 c hc => by
    rcases List.mem_cons.1 hc with rfl | hc
    · decide
    · rcases List.mem_cons.1 hc with rfl | hc
      · decide
      · exact low_cat h1 h2 c hc
  have kl : ∀ (a z : Txt), z.getLast? = some 62 → (60 :: (a ++ z)).getLast? = some 62 := fun a z h => by
    rw [show 60 :: (a ++ z) = (60 :: a) ++ z from rfl, List.getLast?_append, h]; rfl
  rw [ext_eq, ext_eq, case_norm _ _ s (kl p.1 [62] rfl) rfl (k1 p.1 [62] a1 (by decide)) (k2 p.1 [62] a1 (by decide)), case_norm _ _ s (kl p.2 [32, 62] rfl) rfl (k1 p.2 [32, 62] a2 (by decide)) (k2 p.2 [10, 62] a2 (by decide)), case_same p hp _ hS]
end Go.Proofs.YtpmdcppnlggckaaGreatDoor
