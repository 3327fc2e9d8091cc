/-
  What pieces say as plain text: plain mathematics.
-/
import Derived.Test.YtappdjhhaohejaaKndMath
import Derived.Test.YtappdjhhaohejaaFloMath
import Derived.Test.YtappdjhhaohejaaPT
namespace Go.Proofs.Ytappdjhhaohejaa
open Go.RowKit Go.Lib

/-- which names are open, how often blanks are kept, what is told -/
structure RenP where
  opn : List Txt
  kept : Nat
  flow : FloP
def ren0 : RenP := ⟨[], 0, flo0⟩
def headL : Txt := [104, 101, 97, 100]
def bodyL : Txt := [98, 111, 100, 121]
def brL : Txt := [98, 114]
/-- the lines' ends about a tag -/
def brF (nm : Txt) (f : FloP) : FloP := if nm = brL then lineF f else f
def linesF (nm : Txt) (f : FloP) : FloP := if 0 < linN nm then brkF (linN nm) (brF nm f) else brF nm f
/-- where a name is last in a list -/
def lastN : List Txt → Txt → Option Nat
  | [], _ => none
  | x :: l, nm => match lastN l nm with | some k => some (k + 1) | none => if x = nm then some 0 else none
/-- what is open when a start tag is looked at -/
def openS (r : RenP) (nm : Txt) : List Txt := if nm = bodyL then r.opn.filter (fun n => decide (n ≠ headL)) else r.opn
def oneIf (b : Bool) : Nat := if b = true then 1 else 0
/-- P19.1: a piece -/
def renT (r : RenP) (t : TokP) : RenP :=
  if t.kind = 1 then
    (if hidN t.name = true then ⟨openS r t.name ++ [t.name], r.kept, r.flow⟩
     else if openS r t.name = [] then ⟨[], r.kept + oneIf (keeN t.name), linesF t.name r.flow⟩
     else ⟨openS r t.name, r.kept, r.flow⟩)
  else if t.kind = 2 then
    (match lastN r.opn t.name with
     | some k => ⟨r.opn.take k, r.kept, r.flow⟩
     | none => if r.opn = [] then ⟨[], r.kept - oneIf (keeN t.name), linesF t.name r.flow⟩ else r)
  else if t.kind = 0 ∧ r.opn = [] then ⟨[], r.kept, putL (decide (0 < r.kept)) r.flow t.text⟩
  else r
def renR (r : RenP) (L : List TokP) : RenP := L.foldl renT r
def renL (L : List TokP) : Txt := (renR ren0 L).flow.told

theorem renR_nil (r : RenP) : renR r [] = r := rfl
theorem renR_cons (r : RenP) (t : TokP) (L : List TokP) : renR r (t :: L) = renR (renT r t) L := rfl
theorem renR_app (r : RenP) (L M : List TokP) : renR r (L ++ M) = renR (renR r L) M := List.foldl_append
theorem renT_start (r : RenP) (t : TokP) (h : t.kind = 1) : renT r t = (if hidN t.name = true then ⟨openS r t.name ++ [t.name], r.kept, r.flow⟩ else if openS r t.name = [] then ⟨[], r.kept + oneIf (keeN t.name), linesF t.name r.flow⟩ else ⟨openS r t.name, r.kept, r.flow⟩) := by
  unfold renT; rw [if_pos h]
theorem renT_end (r : RenP) (t : TokP) (h : t.kind = 2) : renT r t = (match lastN r.opn t.name with | some k => ⟨r.opn.take k, r.kept, r.flow⟩ | none => if r.opn = [] then ⟨[], r.kept - oneIf (keeN t.name), linesF t.name r.flow⟩ else r) := by
  unfold renT; rw [if_neg (by rw [h]; decide), if_pos h]
theorem renT_text (r : RenP) (t : TokP) (h : t.kind = 0) : renT r t = (if r.opn = [] then ⟨[], r.kept, putL (decide (0 < r.kept)) r.flow t.text⟩ else r) := by
  unfold renT
  rw [if_neg (by rw [h]; decide), if_neg (by rw [h]; decide)]
  by_cases ho : r.opn = []
  · rw [if_pos ⟨h, ho⟩, if_pos ho]
  · rw [if_neg (fun e => ho e.2), if_neg ho]
theorem renT_other (r : RenP) (t : TokP) (h0 : t.kind ≠ 0) (h1 : t.kind ≠ 1) (h2 : t.kind ≠ 2) : renT r t = r := by
  unfold renT
  rw [if_neg h1, if_neg h2, if_neg (fun e => h0 e.1)]
/-- of a piece its kind, name and text say all -/
theorem renT_like (r : RenP) (t u : TokP) (hk : t.kind = u.kind) (hn : t.kind = 1 ∨ t.kind = 2 → t.name = u.name) (hx : t.kind = 0 → t.text = u.text) : renT r t = renT r u := by
  by_cases h1 : t.kind = 1
  · rw [renT_start r t h1, renT_start r u (hk ▸ h1), hn (.inl h1)]
  · by_cases h2 : t.kind = 2
    · rw [renT_end r t h2, renT_end r u (hk ▸ h2), hn (.inr h2)]
    · by_cases h0 : t.kind = 0
      · rw [renT_text r t h0, renT_text r u (hk ▸ h0), hx h0]
      · rw [renT_other r t h0 h1 h2, renT_other r u (hk ▸ h0) (hk ▸ h1) (hk ▸ h2)]

/-! what each step of a flow keeps -/
theorem Keeps.lines {M : FloP → Prop} (h : Keeps M) (nm : Txt) (f : FloP) (hf : M f) : M (linesF nm f) := by
  have hb : M (brF nm f) := by
    unfold brF
    split
    · exact h.line _ hf
    · exact hf
  unfold linesF
  split
  · exact h.brk _ _ hb
  · exact hb
theorem Keeps.ren {M : FloP → Prop} (h : Keeps M) (r : RenP) (t : TokP) (hm : M r.flow) : M (renT r t).flow := by
  unfold renT
  split
  · split
    · exact hm
    · split
      · exact h.lines _ _ hm
      · exact hm
  · split
    · split
      · exact hm
      · split
        · exact h.lines _ _ hm
        · exact hm
    · split
      · exact h.put _ _ _ hm
      · exact hm
theorem Keeps.renR {M : FloP → Prop} (h : Keeps M) : ∀ (L : List TokP) (r : RenP), M r.flow → M (renR r L).flow
  | [], _, hm => hm
  | t :: L, r, hm => h.renR L _ (h.ren r t hm)
/-- P19.2 -/
theorem ren_edged (L : List TokP) : Edged (renR ren0 L).flow := edged_keeps.renR L _ edged_flo0

theorem lines_grow (nm : Txt) (f : FloP) : (linesF nm f).size ≤ f.size + 101 := by
  have h1 := line_size f
  have hb : (brF nm f).size ≤ f.size + 1 := by unfold brF; split <;> omega
  have h2 := brk_size (linN nm) (brF nm f)
  unfold linesF
  split <;> omega
theorem renT_grow (r : RenP) (t : TokP) : (renT r t).flow.size ≤ r.flow.size + t.text.length + 101 := by
  have h1 := lines_grow t.name r.flow
  have h2 := putL_size (decide (0 < r.kept)) t.text r.flow
  unfold renT
  split
  · split
    · simp only; omega
    · split
      · simp only; omega
      · simp only; omega
  · split
    · split
      · simp only; omega
      · split
        · simp only; omega
        · omega
    · split
      · simp only; omega
      · omega
theorem renR_grow (n : Nat) : ∀ (L : List TokP) (r : RenP), (∀ t ∈ L, t.text.length ≤ n) → (renR r L).flow.size ≤ r.flow.size + L.length * (n + 101)
  | [], r, _ => by rw [renR_nil]; simp
  | t :: L, r, h => by
    rw [renR_cons]
    have h1 := renR_grow n L (renT r t) (fun u hu => h u (.tail _ hu))
    have h2 := renT_grow r t
    have h3 := h t (.head _)
    rw [List.length_cons, Nat.add_mul]
    omega
theorem ren_len (L : List TokP) (n : Nat) (h : ∀ t ∈ L, t.text.length ≤ n) : (renL L).length ≤ L.length * (n + 101) := by
  have h1 := renR_grow n L ren0 h
  have h2 : (renL L).length ≤ (renR ren0 L).flow.size := by unfold renL FloP.size; omega
  have h3 : ren0.flow.size = 0 := rfl
  omega

/-! what plays no part: RenderParts -/
/-- a piece as that statement cuts it -/
def partT (at' : Nat) (t : TokP) : List TokP :=
  if t.kind = 0 then [⟨0, [], t.text.take (at' % (t.text.length + 1)), [], false⟩, ⟨3, [], [120], [], false⟩, ⟨0, [], t.text.drop (at' % (t.text.length + 1)), [], false⟩]
  else if t.kind = 1 ∨ t.kind = 2 then [⟨t.kind, t.name, [], [([104, 105, 100, 100, 101, 110], [])], false⟩]
  else []
theorem ren_part (at' : Nat) (r : RenP) (t : TokP) : renR r (partT at' t) = renT r t := by
  unfold partT
  by_cases h0 : t.kind = 0
  · rw [if_pos h0, renT_text r t h0]
    have e3 : ∀ q : RenP, renT q ⟨3, [], [120], [], false⟩ = q := fun q => renT_other q _ (show ¬ (3 : Int) = 0 by decide) (show ¬ (3 : Int) = 1 by decide) (show ¬ (3 : Int) = 2 by decide)
    have e0 : ∀ (q : RenP) (x : Txt), renT q ⟨0, [], x, [], false⟩ = (if q.opn = [] then ⟨[], q.kept, putL (decide (0 < q.kept)) q.flow x⟩ else q) := fun q x => renT_text q _ rfl
    rw [renR_cons, renR_cons, renR_cons, renR_nil, e3, e0 r]
    by_cases ho : r.opn = []
    · rw [if_pos ho, if_pos ho, e0, if_pos rfl]
      simp only
      rw [← putL_app, List.take_append_drop]
    · rw [if_neg ho, if_neg ho, e0, if_neg ho]
  · rw [if_neg h0]
    by_cases h12 : t.kind = 1 ∨ t.kind = 2
    · rw [if_pos h12, renR_cons, renR_nil]
      exact renT_like r _ t rfl (fun _ => rfl) (fun e => absurd e h0)
    · rw [if_neg h12, renR_nil, renT_other r t h0 (fun e => h12 (.inl e)) (fun e => h12 (.inr e))]
theorem ren_parts (at' : Nat) : ∀ (L : List TokP) (r : RenP), renR r (L.flatMap (partT at')) = renR r L
  | [], _ => rfl
  | t :: L, r => by
    rw [List.flatMap_cons, renR_app, ren_part, ren_parts at' L, renR_cons]

/-! what is hidden: RenderHides -/
theorem last_none (nm : Txt) : ∀ l : List Txt, nm ∉ l → lastN l nm = none
  | [], _ => rfl
  | x :: l, h => by
    unfold lastN
    rw [last_none nm l (fun e => h (.tail _ e)), if_neg (fun e => h (by rw [e]; exact .head _))]
theorem last_app (nm : Txt) (a l : List Txt) (k : Nat) (h : lastN l nm = some k) : lastN (a ++ l) nm = some (a.length + k) := by
  induction a with
  | nil => rw [List.nil_append, h, List.length_nil, Nat.zero_add]
  | cons x a ih =>
    show lastN (x :: (a ++ l)) nm = _
    unfold lastN
    rw [ih, List.length_cons]
    simp only [Option.some.injEq]
    omega
theorem last_one (nm : Txt) (l : List Txt) (h : nm ∉ l) : lastN (nm :: l) nm = some 0 := by
  unfold lastN
  rw [last_none nm l h, if_pos rfl]
theorem last_some (nm : Txt) : ∀ (l : List Txt) (k : Nat), lastN l nm = some k → ∃ h : k < l.length, l[k] = nm
  | [], k, h => by cases h
  | x :: l, k, h => by
    unfold lastN at h
    cases h1 : lastN l nm with
    | some j =>
      rw [h1] at h
      obtain ⟨h2, h3⟩ := last_some nm l j h1
      have : j + 1 = k := by simpa using h
      subst this
      exact ⟨by rw [List.length_cons]; omega, h3⟩
    | none =>
      rw [h1] at h
      simp only at h
      split at h
      · rename_i hx
        have : 0 = k := by simpa using h
        subst this
        exact ⟨by rw [List.length_cons]; omega, hx⟩
      · cases h
theorem last_mem (nm : Txt) (l : List Txt) : lastN l nm = none ↔ nm ∉ l := by
  refine ⟨fun h e => ?_, last_none nm l⟩
  obtain ⟨a, b, rfl⟩ := List.append_of_mem e
  have : ∀ b : List Txt, lastN (nm :: b) nm ≠ none := fun b h => by
    unfold lastN at h
    split at h
    · cases h
    · rw [if_pos rfl] at h; cases h
  cases hb : lastN (nm :: b) nm with
  | none => exact this b hb
  | some k => rw [last_app nm a _ k hb] at h; cases h
/-- all that is open hides -/
def OpenOk (r : RenP) : Prop := ∀ n ∈ r.opn, hidN n = true
theorem open_ok (r : RenP) (t : TokP) (h : OpenOk r) : OpenOk (renT r t) := by
  have hs : ∀ n ∈ openS r t.name, hidN n = true := fun n hn => by
    unfold openS at hn
    split at hn
    · exact h n (List.mem_filter.1 hn).1
    · exact h n hn
  unfold renT
  split
  · split
    · rename_i hh
      intro n hn
      rcases List.mem_append.1 hn with hn | hn
      · exact hs n hn
      · rw [List.mem_singleton.1 hn]; exact hh
    · split
      · intro n hn; cases hn
      · exact hs
  · split
    · split
      · exact fun n hn => h n (List.mem_of_mem_take hn)
      · split
        · intro n hn; cases hn
        · exact h
    · split
      · intro n hn; cases hn
      · exact h
theorem open_okR : ∀ (L : List TokP) (r : RenP), OpenOk r → OpenOk (renR r L)
  | [], _, h => h
  | t :: L, r, h => open_okR L _ (open_ok r t h)
/-- how many start tags of a list hide -/
def hidesN (L : List TokP) : Nat := (L.filter fun t => decide (t.kind = 1) && hidN t.name).length
theorem none_open : ∀ (L : List TokP) (r : RenP), r.opn = [] → hidesN L = 0 → (renR r L).opn = []
  | [], _, h, _ => h
  | t :: L, r, h, hn => by
    unfold hidesN at hn
    rw [List.filter_cons] at hn
    by_cases ht : (decide (t.kind = 1) && hidN t.name) = true
    · rw [if_pos ht] at hn; simp at hn
    · rw [if_neg ht] at hn
      refine none_open L _ ?_ hn
      have hs : openS r t.name = [] := by
        unfold openS
        rw [h]; split <;> rfl
      by_cases h1 : t.kind = 1
      · have hh : ¬ hidN t.name = true := fun e => ht (by rw [e, decide_eq_true h1]; rfl)
        rw [renT_start r t h1, if_neg hh, if_pos hs]
      · by_cases h2 : t.kind = 2
        · rw [renT_end r t h2, h]
          show (if ([] : List Txt) = [] then (_ : RenP) else r).opn = []
          rw [if_pos rfl]
        · by_cases h0 : t.kind = 0
          · rw [renT_text r t h0, if_pos h]
          · rw [renT_other r t h0 h1 h2]; exact h
/-- within: what is open ahead, the name, and some names that are others -/
theorem ren_within (nm : Txt) (A : List Txt) (kept : Nat) (f : FloP) (hA : ∀ n ∈ A, hidN n = true) (hnm : hidN nm = true) (hb : nm ≠ bodyL) :
    ∀ (L : List TokP) (C : List Txt), (∀ n ∈ C, hidN n = true) → nm ∉ C → (∀ t ∈ L, t.name ≠ nm ∧ ¬ (t.kind = 1 ∧ t.name = bodyL)) → (A = [] ∨ ∀ t ∈ L, ¬ (t.kind = 2 ∧ hidN t.name = true)) →
      ∃ D, renR ⟨A ++ nm :: C, kept, f⟩ L = ⟨A ++ nm :: D, kept, f⟩ ∧ nm ∉ D
  | [], C, _, hC, _, _ => ⟨C, rfl, hC⟩
  | t :: L, C, hCh, hC, hL, hA2 => by
    obtain ⟨h1, h2⟩ := hL t (.head _)
    have hL' := fun u hu => hL u (List.mem_cons_of_mem t hu)
    have hA' : A = [] ∨ ∀ u ∈ L, ¬ (u.kind = 2 ∧ hidN u.name = true) := hA2.imp id (fun h u hu => h u (.tail _ hu))
    rw [renR_cons]
    have hne : A ++ nm :: C ≠ [] := by simp
    by_cases k1 : t.kind = 1
    · have hs : openS ⟨A ++ nm :: C, kept, f⟩ t.name = A ++ nm :: C := by
        unfold openS
        rw [if_neg (fun e => h2 ⟨k1, e⟩)]
      rw [renT_start _ t k1, hs, if_neg hne]
      by_cases hh : hidN t.name = true
      · rw [if_pos hh]
        have e : (A ++ nm :: C) ++ [t.name] = A ++ nm :: (C ++ [t.name]) := by simp
        rw [e]
        exact ren_within nm A kept f hA hnm hb L _ (fun n hn => (List.mem_append.1 hn).elim (hCh n) (fun h => by rw [List.mem_singleton.1 h]; exact hh)) (fun h => (List.mem_append.1 h).elim hC (fun h => h1 (List.mem_singleton.1 h).symm)) hL' hA'
      · rw [if_neg hh]
        exact ren_within nm A kept f hA hnm hb L C hCh hC hL' hA'
    · by_cases k2 : t.kind = 2
      · rw [renT_end _ t k2]
        by_cases hm : t.name ∈ A ++ nm :: C
        · have hh : hidN t.name = true := by
            rcases List.mem_append.1 hm with h | h
            · exact hA _ h
            · exact (List.mem_cons.1 h).elim (fun e => absurd e h1) (hCh _)
          have hA0 : A = [] := hA2.resolve_right (fun h => h t (.head _) ⟨k2, hh⟩)
          subst hA0
          have hmC : t.name ∈ C := by
            rw [List.nil_append] at hm
            exact (List.mem_cons.1 hm).resolve_left h1
          cases hl : lastN C t.name with
          | none => exact absurd hmC ((last_mem _ _).1 hl)
          | some j =>
            rw [show ([] ++ nm :: C : List Txt) = [nm] ++ C from rfl, last_app _ [nm] C j hl]
            show ∃ D, renR ⟨([nm] ++ C).take (1 + j), kept, f⟩ L = _ ∧ _
            rw [show ([nm] ++ C).take (1 + j) = [] ++ nm :: C.take j by rw [Nat.add_comm]; rfl]
            exact ren_within nm [] kept f hA hnm hb L _ (fun n hn => hCh n (List.mem_of_mem_take hn)) (fun h => hC (List.mem_of_mem_take h)) hL' hA'
        · rw [(last_mem _ _).2 hm]
          show ∃ D, renR (if A ++ nm :: C = [] then _ else _) L = _ ∧ _
          rw [if_neg hne]
          exact ren_within nm A kept f hA hnm hb L C hCh hC hL' hA'
      · have e : renT ⟨A ++ nm :: C, kept, f⟩ t = ⟨A ++ nm :: C, kept, f⟩ := by
          by_cases k0 : t.kind = 0
          · rw [renT_text _ t k0, if_neg hne]
          · exact renT_other _ t k0 k1 k2
        rw [e]
        exact ren_within nm A kept f hA hnm hb L C hCh hC hL' hA'
/-- P19.2: what is hidden plays no part -/
theorem ren_hides (nm : Txt) (a inner b : List TokP) (hnm : hidN nm = true) (hb : nm ≠ bodyL) (hL : ∀ t ∈ inner, t.name ≠ nm ∧ ¬ (t.kind = 1 ∧ t.name = bodyL))
    (ho : hidesN a = 0 ∨ ∀ t ∈ inner, ¬ (t.kind = 2 ∧ hidN t.name = true)) (u v : TokP) (hu : u.kind = 1 ∧ u.name = nm) (hv : v.kind = 2 ∧ v.name = nm) :
    renL (a ++ u :: (inner ++ v :: b)) = renL (a ++ b) := by
  unfold renL
  rw [renR_app, renR_app, renR_cons, renR_app, renR_cons]
  have hA : OpenOk (renR ren0 a) := open_okR a _ (fun n hn => by cases hn)
  have h0 : (renR ren0 a).opn = [] ∨ ∀ t ∈ inner, ¬ (t.kind = 2 ∧ hidN t.name = true) := ho.imp (none_open a _ rfl) id
  generalize renR ren0 a = r at hA h0 ⊢
  obtain ⟨A, kept, f⟩ := r
  have hA : ∀ n ∈ A, hidN n = true := hA
  have e1 : renT ⟨A, kept, f⟩ u = ⟨A ++ nm :: [], kept, f⟩ := by
    rw [renT_start _ u hu.1, hu.2, if_pos hnm]
    unfold openS
    rw [if_neg hb]
  rw [e1]
  obtain ⟨D, e2, hD⟩ := ren_within nm A kept f hA hnm hb inner [] (fun n hn => by cases hn) (fun h => by cases h) hL h0
  rw [e2]
  have e3 : renT ⟨A ++ nm :: D, kept, f⟩ v = ⟨A, kept, f⟩ := by
    rw [renT_end _ v hv.1, hv.2]
    simp only
    rw [last_app nm A _ 0 (last_one nm D hD)]
    simp
  rw [e3]

/-! about a block lines end: RenderLines -/
def lineToks (nm : Txt) (closes : Bool) : List TokP := [⟨0, [], [97, 32], [], false⟩, ⟨if closes = true then 2 else 1, nm, [], [], false⟩, ⟨0, [], [98], [], false⟩]
def lineWant (nm : Txt) (closes : Bool) : Txt :=
  if hidN nm = true ∧ closes = false then [97] else if nm = brL ∨ linN nm = 1 then [97, 10, 98] else if linN nm = 2 then [97, 10, 10, 98] else [97, 32, 98]
theorem ren_lines : ∀ nm ∈ nmL17, ∀ closes : Bool, renL (lineToks nm closes) = lineWant nm closes := by decide +kernel

/-! where blanks are kept they stay: RenderKeeps -/
/-- what stands between two words: so many blanks, or lines' ends -/
def gapN (n : Nat) : Txt := List.replicate (n % 4) (if 128 ≤ n then 10 else 32)
def keptL (l : List Nat) : Txt := 120 :: l.flatMap fun n => gapN n ++ [121]
def lostL (l : List Nat) : Txt := 120 :: l.flatMap fun n => (if 0 < n % 4 then [32] else []) ++ [121]
theorem word_y (keep : Bool) (f : FloP) (c : UInt8) (h0 : c ≠ 0) (hb : blkB c = false) : putB keep f c = ⟨tellF f c, 0, []⟩ := by
  unfold putB
  rw [if_neg h0, if_neg (by rw [hb]; exact Bool.false_ne_true)]
theorem kept_gap (T : Txt) (hT : T ≠ []) (n : Nat) : putL true ⟨T, 0, []⟩ (gapN n ++ [121]) = ⟨T ++ gapN n ++ [121], 0, []⟩ := by
  rw [putL_app]
  unfold gapN
  by_cases h : 128 ≤ n
  · rw [if_pos h, keep_ends _ _ rfl]
    show putB true _ 121 = _
    rw [word_y _ _ _ (by decide) (by decide)]
    unfold tellF
    rw [if_neg hT]
    simp
  · rw [if_neg h, keep_blanks _ _ (fun c hc => .inr (.inr (List.eq_of_mem_replicate hc)))]
    show putB true _ 121 = _
    rw [word_y _ _ _ (by decide) (by decide)]
    unfold tellF
    rw [if_neg hT]
    simp
theorem kept_all : ∀ (l : List Nat) (T : Txt), T ≠ [] → putL true ⟨T, 0, []⟩ (l.flatMap fun n => gapN n ++ [121]) = ⟨T ++ l.flatMap fun n => gapN n ++ [121], 0, []⟩
  | [], T, _ => by rw [List.flatMap_nil, List.append_nil]; rfl
  | n :: l, T, h => by
    rw [List.flatMap_cons, putL_app, kept_gap T h, kept_all l _ (by simp)]
    simp
theorem kept_told (l : List Nat) (e : Nat) : putL true ⟨[], e, []⟩ (keptL l) = ⟨keptL l, 0, []⟩ := by
  unfold keptL
  rw [putL_cons, word_y _ _ _ (by decide) (by decide)]
  show putL true ⟨[120], 0, []⟩ _ = _
  rw [kept_all l [120] (by decide)]
  rfl
theorem lost_some (T : Txt) (c : UInt8) (hc : c = 10 ∨ c = 32) : ∀ k : Nat, putL false ⟨T, 0, []⟩ (List.replicate (k + 1) c) = ⟨T, 0, [32]⟩ := by
  have hne : c ≠ 0 := by rcases hc with rfl | rfl <;> decide
  have hb : blkB c = true := by rcases hc with rfl | rfl <;> decide
  have h1 : putB false ⟨T, 0, []⟩ c = ⟨T, 0, [32]⟩ := by
    unfold putB
    rw [if_neg hne, if_pos hb, if_neg Bool.false_ne_true, if_pos ⟨rfl, rfl⟩]
  have h2 : putB false ⟨T, 0, [32]⟩ c = ⟨T, 0, [32]⟩ := by
    unfold putB
    rw [if_neg hne, if_pos hb, if_neg Bool.false_ne_true, if_neg (fun e => by cases e.2)]
  have h3 : ∀ k, putL false ⟨T, 0, [32]⟩ (List.replicate k c) = ⟨T, 0, [32]⟩ := by
    intro k
    induction k with
    | zero => rfl
    | succ k ih => rw [List.replicate_succ, putL_cons, h2, ih]
  intro k
  rw [List.replicate_succ, putL_cons, h1, h3]
theorem lost_gap (T : Txt) (hT : T ≠ []) (n : Nat) : putL false ⟨T, 0, []⟩ (gapN n ++ [121]) = ⟨T ++ (if 0 < n % 4 then [32] else []) ++ [121], 0, []⟩ := by
  rw [putL_app]
  unfold gapN
  by_cases h : 0 < n % 4
  · rw [if_pos h]
    obtain ⟨k, hk⟩ : ∃ k, n % 4 = k + 1 := ⟨n % 4 - 1, by omega⟩
    rw [hk, lost_some T _ (by split <;> simp) k]
    show putB false _ 121 = _
    rw [word_y _ _ _ (by decide) (by decide)]
    unfold tellF
    rw [if_neg hT]
    simp
  · rw [if_neg h, show n % 4 = 0 by omega]
    show putB false ⟨T, 0, []⟩ 121 = _
    rw [word_y _ _ _ (by decide) (by decide)]
    unfold tellF
    rw [if_neg hT]
    simp
theorem lost_all : ∀ (l : List Nat) (T : Txt), T ≠ [] → putL false ⟨T, 0, []⟩ (l.flatMap fun n => gapN n ++ [121]) = ⟨T ++ l.flatMap fun n => (if 0 < n % 4 then [32] else []) ++ [121], 0, []⟩
  | [], T, _ => by rw [List.flatMap_nil, List.flatMap_nil, List.append_nil]; rfl
  | n :: l, T, h => by
    rw [List.flatMap_cons, List.flatMap_cons, putL_app, lost_gap T h, lost_all l _ (by simp)]
    simp
theorem lost_told (l : List Nat) (e : Nat) : putL false ⟨[], e, []⟩ (keptL l) = ⟨lostL l, 0, []⟩ := by
  unfold keptL lostL
  rw [putL_cons, word_y _ _ _ (by decide) (by decide)]
  show putL false ⟨[120], 0, []⟩ _ = _
  rw [lost_all l [120] (by decide)]
  rfl
/-- the five names -/
theorem kee_tab : ∀ nm ∈ keeL, hidN nm = false ∧ keeN nm = true ∧ nm ≠ bodyL := by decide +kernel
theorem lines_told (nm : Txt) (f : FloP) : (linesF nm f).told = f.told := by
  have hb : (brF nm f).told = f.told := by unfold brF; split <;> rfl
  unfold linesF
  split
  · exact hb
  · exact hb
theorem lines_zero (nm : Txt) (e : Nat) : ∃ e', linesF nm ⟨[], e, []⟩ = ⟨[], e', []⟩ := by
  have hb : ∃ e', brF nm ⟨[], e, []⟩ = ⟨[], e', []⟩ := by
    unfold brF
    split
    · exact ⟨_, rfl⟩
    · exact ⟨_, rfl⟩
  obtain ⟨e', hb⟩ := hb
  unfold linesF
  rw [hb]
  split
  · exact ⟨_, rfl⟩
  · exact ⟨_, rfl⟩
theorem ren_kept (nm : Txt) (h : nm ∈ keeL) (l : List Nat) : renL [⟨1, nm, [], [], false⟩, ⟨0, [], keptL l, [], false⟩, ⟨2, nm, [], [], false⟩] = keptL l := by
  obtain ⟨h1, h2, h3⟩ := kee_tab nm h
  unfold renL
  rw [renR_cons, renR_cons, renR_cons, renR_nil, renT_start ren0 ⟨1, nm, [], [], false⟩ rfl]
  have hs : openS ren0 nm = [] := by unfold openS; rw [if_neg h3]; rfl
  simp only
  rw [if_neg (by rw [h1]; exact Bool.false_ne_true), if_pos hs, h2, renT_text _ ⟨0, [], keptL l, [], false⟩ rfl, if_pos rfl]
  obtain ⟨e', he⟩ := lines_zero nm 0
  rw [show linesF nm ren0.flow = ⟨[], e', []⟩ from he]
  simp only
  rw [show (decide (0 < ren0.kept + oneIf true)) = true from rfl, kept_told, renT_end _ ⟨2, nm, [], [], false⟩ rfl]
  simp only
  rw [show lastN [] nm = none from rfl]
  simp only [if_true]
  exact lines_told nm _
theorem ren_lost (l : List Nat) : renL [⟨1, [98], [], [], false⟩, ⟨0, [], keptL l, [], false⟩] = lostL l := by
  unfold renL
  rw [renR_cons, renR_cons, renR_nil, show renT ren0 ⟨1, [98], [], [], false⟩ = ren0 by rfl, renT_text _ _ rfl]
  rw [show ren0.opn = [] from rfl, if_pos rfl]
  show (putL false ⟨[], 0, []⟩ (keptL l)).told = _
  rw [lost_told]
end Go.Proofs.Ytappdjhhaohejaa
