/-
  A flow of blanks and lines: plain mathematics.
-/
import Derived.Test.YtappdjhhaohejaaP3
namespace Go.Proofs.Ytappdjhhaohejaa

/-- what is told, how many lines' ends wait, which blanks -/
structure FloP where
  told : Txt
  ends : Nat
  blanks : Txt
def flo0 : FloP := ⟨[], 0, []⟩
def blkB (c : UInt8) : Bool := c == 9 || c == 10 || c == 12 || c == 13 || c == 32
/-- what is told when a byte that is no blank comes -/
def tellF (f : FloP) (c : UInt8) : Txt := (if f.told = [] then [] else f.told ++ List.replicate f.ends 10 ++ f.blanks) ++ [c]
/-- P18.2: a byte -/
def putB (keep : Bool) (f : FloP) (c : UInt8) : FloP :=
  if c = 0 then f
  else if blkB c = true then
    if keep = true then (if c = 10 ∨ c = 13 then ⟨f.told, f.ends + 1, []⟩ else ⟨f.told, f.ends, f.blanks ++ [c]⟩)
    else if f.ends = 0 ∧ f.blanks = [] then ⟨f.told, 0, [32]⟩ else f
  else ⟨tellF f c, 0, []⟩
def putL (keep : Bool) (f : FloP) (s : Txt) : FloP := s.foldl (putB keep) f
def brkF (n : Int) (f : FloP) : FloP := ⟨f.told, max f.ends (min n 100).toNat, []⟩
def lineF (f : FloP) : FloP := ⟨f.told, f.ends + 1, []⟩
/-- a thing that is done -/
structure ActP where
  kind : Int
  s : Txt
  keep : Bool
  n : Int
/-- a number of Go's -/
def ActOk (a : ActP) : Prop := -9223372036854775808 ≤ a.n ∧ a.n ≤ 9223372036854775807
def actF (f : FloP) (a : ActP) : FloP := if a.kind = 0 then putL a.keep f a.s else if a.kind = 1 then brkF a.n f else if a.kind = 2 then lineF f else f
def actsF (f : FloP) (l : List ActP) : FloP := l.foldl actF f

theorem putL_nil (keep : Bool) (f : FloP) : putL keep f [] = f := rfl
theorem putL_cons (keep : Bool) (f : FloP) (c : UInt8) (s : Txt) : putL keep f (c :: s) = putL keep (putB keep f c) s := rfl
theorem putL_app (keep : Bool) (f : FloP) (a b : Txt) : putL keep f (a ++ b) = putL keep (putL keep f a) b := List.foldl_append
theorem actsF_nil (f : FloP) : actsF f [] = f := rfl
theorem actsF_cons (f : FloP) (a : ActP) (l : List ActP) : actsF f (a :: l) = actsF (actF f a) l := rfl
theorem actsF_app (f : FloP) (a b : List ActP) : actsF f (a ++ b) = actsF (actsF f a) b := List.foldl_append

/-! what holds of every flow: it is kept by each byte and each act -/
/-- a property that each step keeps -/
structure Keeps (M : FloP → Prop) : Prop where
  byte : ∀ keep f c, M f → M (putB keep f c)
  brk : ∀ n f, M f → M (brkF n f)
  line : ∀ f, M f → M (lineF f)
theorem Keeps.put {M : FloP → Prop} (h : Keeps M) (keep : Bool) : ∀ (s : Txt) (f : FloP), M f → M (putL keep f s)
  | [], _, hf => hf
  | c :: s, f, hf => h.put keep s _ (h.byte keep f c hf)
theorem Keeps.act {M : FloP → Prop} (h : Keeps M) (f : FloP) (a : ActP) (hf : M f) : M (actF f a) := by
  unfold actF
  split
  · exact h.put _ _ _ hf
  · split
    · exact h.brk _ _ hf
    · split
      · exact h.line _ hf
      · exact hf
theorem Keeps.acts {M : FloP → Prop} (h : Keeps M) : ∀ (l : List ActP) (f : FloP), M f → M (actsF f l)
  | [], _, hf => hf
  | a :: l, f, hf => h.acts l _ (h.act f a hf)

/-- P18.3: no byte 0, no 13, no blank at an edge; what waits has none of them, and no line's end -/
structure Edged (f : FloP) : Prop where
  told : ∀ c ∈ f.told, c ≠ 0 ∧ c ≠ 13
  first : ∀ c, f.told.head? = some c → blkB c = false
  last : ∀ c, f.told.getLast? = some c → blkB c = false
  blanks : ∀ c ∈ f.blanks, c = 9 ∨ c = 12 ∨ c = 32
theorem blk_is (c : UInt8) : blkB c = true ↔ c = 9 ∨ c = 10 ∨ c = 12 ∨ c = 13 ∨ c = 32 := by
  unfold blkB; simp [or_assoc]
theorem edged_put (f : FloP) (h : Edged f) (c : UInt8) (h0 : c ≠ 0) (hb : blkB c = false) : Edged ⟨tellF f c, 0, []⟩ := by
  have h13 : c ≠ 13 := by rintro rfl; cases hb
  refine ⟨fun d hd => ?_, fun d hd => ?_, fun d hd => ?_, fun d hd => (by cases hd)⟩
  · unfold tellF at hd
    rcases List.mem_append.1 hd with hd | hd
    · split at hd
      · cases hd
      · rcases List.mem_append.1 hd with hd | hd
        · rcases List.mem_append.1 hd with hd | hd
          · exact h.told d hd
          · rw [List.mem_replicate] at hd
            rw [hd.2]; decide
        · rcases h.blanks d hd with e | e | e <;> (rw [e]; decide)
    · simp only [List.mem_cons, List.not_mem_nil, or_false] at hd
      rw [hd]; exact ⟨h0, h13⟩
  · unfold tellF at hd
    split at hd
    · simp at hd; rw [← hd]; exact hb
    · rename_i hne
      refine h.first d ?_
      cases ht : f.told with
      | nil => exact absurd ht hne
      | cons x t => rw [ht] at hd; simpa using hd
  · unfold tellF at hd
    rw [List.getLast?_append] at hd
    simp at hd
    rw [← hd]; exact hb
theorem edged_keeps : Keeps Edged := by
  refine ⟨fun keep f c h => ?_, fun n f h => ⟨h.told, h.first, h.last, fun d hd => (by cases hd)⟩, fun f h => ⟨h.told, h.first, h.last, fun d hd => (by cases hd)⟩⟩
  unfold putB
  split
  · exact h
  · rename_i h0
    split
    · rename_i hb
      rw [blk_is] at hb
      split
      · split
        · exact ⟨h.told, h.first, h.last, fun d hd => (by cases hd)⟩
        · rename_i hc
          refine ⟨h.told, h.first, h.last, fun d hd => ?_⟩
          rcases List.mem_append.1 hd with hd | hd
          · exact h.blanks d hd
          · simp only [List.mem_cons, List.not_mem_nil, or_false] at hd
            rw [hd]
            rcases hb with e | e | e | e | e
            · exact .inl e
            · exact absurd (.inl e) hc
            · exact .inr (.inl e)
            · exact absurd (.inr e) hc
            · exact .inr (.inr e)
      · split
        · exact ⟨h.told, h.first, h.last, fun d hd => by
            simp only [List.mem_cons, List.not_mem_nil, or_false] at hd
            exact .inr (.inr hd)⟩
        · exact h
    · rename_i hb
      exact edged_put f h c h0 (by simpa using hb)
theorem edged_flo0 : Edged flo0 := ⟨fun c h => (by cases h), fun c h => (by cases h), fun c h => (by cases h), fun c h => (by cases h)⟩
theorem edged_acts (l : List ActP) : Edged (actsF flo0 l) := edged_keeps.acts l _ edged_flo0

/-! words -/
def wordB (c : UInt8) : Bool := !(c == 0) && !(blkB c)
def wordsL (s : Txt) : Txt := s.filter wordB
theorem words_app (a b : Txt) : wordsL (a ++ b) = wordsL a ++ wordsL b := List.filter_append ..
theorem words_none (l : Txt) (h : ∀ c ∈ l, wordB c = false) : wordsL l = [] := by
  unfold wordsL
  rw [List.filter_eq_nil_iff]
  intro c hc; rw [h c hc]; exact Bool.false_ne_true
theorem words_put (keep : Bool) (f : FloP) (hf : Edged f) (c : UInt8) : wordsL (putB keep f c).told = wordsL f.told ++ wordsL [c] := by
  unfold putB
  split
  · rename_i h; subst h; simp [wordsL, wordB]
  · rename_i h0
    split
    · rename_i hb
      have : wordsL [c] = [] := words_none _ (fun d hd => by
        simp only [List.mem_cons, List.not_mem_nil, or_false] at hd
        subst hd
        unfold wordB; rw [hb]; simp)
      rw [this, List.append_nil]
      split
      · split <;> rfl
      · split <;> rfl
    · unfold tellF
      rw [words_app]
      congr 1
      split
      · rename_i h; rw [h]
      · rw [words_app, words_app, words_none (List.replicate f.ends 10) (fun d hd => by rw [(List.mem_replicate.1 hd).2]; decide), words_none f.blanks (fun d hd => by
          rcases hf.blanks d hd with e | e | e <;> (rw [e]; decide))]
        simp
theorem words_putL (keep : Bool) : ∀ (s : Txt) (f : FloP), Edged f → wordsL (putL keep f s).told = wordsL f.told ++ wordsL s
  | [], f, _ => by simp [putL, wordsL]
  | c :: s, f, hf => by
    rw [putL_cons, words_putL keep s _ (edged_keeps.byte keep f c hf), words_put keep f hf c, List.append_assoc, ← words_app]; rfl
/-- what is put, in all -/
def saidL (l : List ActP) : Txt := l.flatMap fun a => if a.kind = 0 then wordsL a.s else []
theorem words_acts : ∀ (l : List ActP) (f : FloP), Edged f → wordsL (actsF f l).told = wordsL f.told ++ saidL l
  | [], f, _ => by simp [actsF, saidL]
  | a :: l, f, hf => by
    rw [actsF_cons, words_acts l _ (edged_keeps.act f a hf)]
    unfold saidL
    rw [List.flatMap_cons, ← List.append_assoc]
    congr 1
    unfold actF
    split
    · exact words_putL _ _ _ hf
    · split
      · simp [brkF]
      · split
        · simp [lineF]
        · simp

/-! told again -/
/-- put and kept it is told again -/
def Again (f : FloP) : Prop := (∀ c ∈ f.blanks, c = 9 ∨ c = 12 ∨ c = 32) ∧ putL true flo0 f.told = ⟨f.told, 0, []⟩
theorem keep_ends : ∀ (k : Nat) (f : FloP), f.blanks = [] → putL true f (List.replicate k 10) = ⟨f.told, f.ends + k, []⟩
  | 0, f, h => by rw [List.replicate_zero, putL_nil, Nat.add_zero, ← h]
  | k + 1, f, h => by
    rw [List.replicate_succ, putL_cons]
    have : putB true f 10 = ⟨f.told, f.ends + 1, []⟩ := rfl
    rw [this, keep_ends k _ rfl]
    simp only [FloP.mk.injEq, true_and, and_true]; omega
theorem keep_blanks : ∀ (b : Txt) (f : FloP), (∀ c ∈ b, c = 9 ∨ c = 12 ∨ c = 32) → putL true f b = ⟨f.told, f.ends, f.blanks ++ b⟩
  | [], f, _ => by simp [putL]
  | c :: b, f, h => by
    rw [putL_cons]
    have hc := h c (.head _)
    have : putB true f c = ⟨f.told, f.ends, f.blanks ++ [c]⟩ := by
      rcases hc with e | e | e <;> (subst e; rfl)
    rw [this, keep_blanks b _ (fun d hd => h d (.tail _ hd))]
    simp
theorem again_word (f : FloP) (h : Again f) (c : UInt8) (h0 : c ≠ 0) (hb : blkB c = false) : Again ⟨tellF f c, 0, []⟩ := by
  refine ⟨fun d hd => (by cases hd), ?_⟩
  have one : ∀ g : FloP, putL true g [c] = ⟨tellF g c, 0, []⟩ := fun g => by
    rw [putL_cons, putL_nil]; unfold putB; rw [if_neg h0, hb, if_neg Bool.false_ne_true]
  by_cases hn : f.told = []
  · have : tellF f c = [c] := by unfold tellF; rw [if_pos hn]; rfl
    rw [this, one]
    rfl
  · have e1 : tellF f c = f.told ++ (List.replicate f.ends 10 ++ (f.blanks ++ [c])) := by
      unfold tellF; rw [if_neg hn]; simp
    conv => lhs; rw [e1]
    rw [putL_app, h.2, putL_app, keep_ends _ _ rfl, putL_app, keep_blanks _ _ h.1, one]
    have : tellF ⟨f.told, 0 + f.ends, [] ++ f.blanks⟩ c = tellF f c := by unfold tellF; simp
    simp only [this]
theorem again_keeps : Keeps Again := by
  refine ⟨fun keep f c h => ?_, fun n f h => ⟨fun d hd => (by cases hd), h.2⟩, fun f h => ⟨fun d hd => (by cases hd), h.2⟩⟩
  unfold putB
  split
  · exact h
  · rename_i h0
    split
    · rename_i hb
      rw [blk_is] at hb
      split
      · split
        · exact ⟨fun d hd => (by cases hd), h.2⟩
        · rename_i hc
          refine ⟨fun d hd => ?_, h.2⟩
          rcases List.mem_append.1 hd with hd | hd
          · exact h.1 d hd
          · simp only [List.mem_cons, List.not_mem_nil, or_false] at hd
            rw [hd]
            rcases hb with e | e | e | e | e
            · exact .inl e
            · exact absurd (.inl e) hc
            · exact .inr (.inl e)
            · exact absurd (.inr e) hc
            · exact .inr (.inr e)
      · split
        · exact ⟨fun d hd => by
            simp only [List.mem_cons, List.not_mem_nil, or_false] at hd
            exact .inr (.inr hd), h.2⟩
        · exact h
    · rename_i hb
      exact again_word f h c h0 (by simpa using hb)
theorem again_acts (l : List ActP) : (putL true flo0 (actsF flo0 l).told).told = (actsF flo0 l).told := by
  rw [(again_keeps.acts l flo0 ⟨fun c h => (by cases h), rfl⟩).2]
/-- without being kept: one blank, no line's end -/
structure Thin (f : FloP) : Prop where
  blanks : f.blanks = [] ∨ f.blanks = [32]
  ends : f.ends = 0
  only : ∀ c ∈ f.told, blkB c = true → c = 32
  last : ∀ c, f.told.getLast? = some c → blkB c = false
  apart : ∀ i : Nat, f.told[i]? = some (32 : UInt8) → f.told[i + 1]? ≠ some (32 : UInt8)
theorem thin_put (f : FloP) (h : Thin f) (c : UInt8) : Thin (putB false f c) := by
  unfold putB
  split
  · exact h
  · rename_i h0
    split
    · rw [if_neg Bool.false_ne_true]
      split
      · exact ⟨.inr rfl, rfl, h.only, h.last, h.apart⟩
      · exact h
    · rename_i hb
      have hb : blkB c = false := by simpa using hb
      have hc32 : c ≠ 32 := by rintro rfl; cases hb
      have e1 : tellF f c = if f.told = [] then [c] else f.told ++ (f.blanks ++ [c]) := by
        unfold tellF
        split
        · rfl
        · rw [h.ends]; simp
      refine ⟨.inl rfl, rfl, fun d hd hk => ?_, fun d hd => ?_, fun i hi => ?_⟩
      · simp only [e1] at hd
        split at hd
        · simp only [List.mem_cons, List.not_mem_nil, or_false] at hd
          subst hd; rw [hb] at hk; cases hk
        · rcases List.mem_append.1 hd with hd | hd
          · exact h.only d hd hk
          · rcases List.mem_append.1 hd with hd | hd
            · rcases h.blanks with e | e
              · rw [e] at hd; cases hd
              · rw [e] at hd; simpa using hd
            · simp only [List.mem_cons, List.not_mem_nil, or_false] at hd
              subst hd; rw [hb] at hk; cases hk
      · simp only [tellF] at hd
        rw [List.getLast?_append] at hd
        simp at hd
        rw [← hd]; exact hb
      · simp only [e1] at hi ⊢
        split at hi
        · cases i with
          | zero => simp at hi; exact absurd hi hc32
          | succ i => simp at hi
        · rename_i hne
          rw [if_neg hne]
          by_cases h1 : i + 1 < f.told.length
          · rw [List.getElem?_append_left (by omega)] at hi
            rw [List.getElem?_append_left h1]
            exact h.apart i hi
          · by_cases h2 : i < f.told.length
            · rw [List.getElem?_append_left h2] at hi
              have hl : f.told.getLast? = some 32 := by
                rw [List.getLast?_eq_getElem?, show f.told.length - 1 = i by omega]; exact hi
              have := h.last 32 hl
              cases this
            · rw [List.getElem?_append_right (by omega)] at hi
              rw [List.getElem?_append_right (by omega)]
              rcases h.blanks with e | e
              · rw [e] at hi ⊢
                simp only [List.nil_append] at hi ⊢
                have : i - f.told.length = 0 := by
                  have := (List.getElem?_eq_some_iff.1 hi).1
                  simp at this; omega
                rw [this] at hi
                simp at hi; exact absurd hi hc32
              · rw [e] at hi ⊢
                have hlt := (List.getElem?_eq_some_iff.1 hi).1
                simp at hlt
                have h3 : i - f.told.length = 0 ∨ i - f.told.length = 1 := by omega
                rcases h3 with h3 | h3
                · rw [show i + 1 - f.told.length = 1 by omega]
                  simp; exact hc32
                · rw [h3] at hi
                  simp at hi; exact absurd hi hc32
theorem thin_putL : ∀ (s : Txt) (f : FloP), Thin f → Thin (putL false f s)
  | [], _, hf => hf
  | c :: s, f, hf => thin_putL s _ (thin_put f hf c)
theorem thin_flo0 : Thin flo0 := ⟨.inl rfl, rfl, fun c h => (by cases h), fun c h => (by cases h), fun i h => (by cases h)⟩

/-! lines -/
theorem lines_many : ∀ (k : Nat) (f : FloP), f.blanks = [] → (List.replicate k ()).foldl (fun f _ => lineF f) f = ⟨f.told, f.ends + k, []⟩
  | 0, f, h => by rw [List.replicate_zero, List.foldl_nil, Nat.add_zero, ← h]
  | k + 1, f, h => by
    rw [List.replicate_succ, List.foldl_cons, lines_many k _ rfl]
    simp only [lineF, FloP.mk.injEq, true_and, and_true]; omega

/-! how much there is -/
theorem put_few (keep : Bool) (f : FloP) (c : UInt8) : (putB keep f c).ends ≤ f.ends + 1 ∧ (putB keep f c).blanks.length ≤ f.blanks.length + 1 ∧ (putB keep f c).told.length ≤ f.told.length + f.ends + f.blanks.length + 1 := by
  unfold putB
  split
  · omega
  · split
    · split
      · split
        · simp; omega
        · simp; omega
      · split
        · simp; omega
        · omega
    · unfold tellF
      split <;> simp <;> omega
/-- told, ends and blanks, in all -/
def FloP.size (f : FloP) : Nat := f.told.length + f.ends + f.blanks.length
theorem put_size (keep : Bool) (f : FloP) (c : UInt8) : (putB keep f c).size ≤ f.size + 1 := by
  unfold putB FloP.size
  split
  · omega
  · split
    · split
      · split
        · simp; omega
        · simp; omega
      · split
        · simp; omega
        · omega
    · unfold tellF
      split
      · rename_i h; simp [h]
      · simp; omega
theorem putL_size (keep : Bool) : ∀ (s : Txt) (f : FloP), (putL keep f s).size ≤ f.size + s.length
  | [], f => Nat.le_refl _
  | c :: s, f => by
    have h1 := put_size keep f c
    have h2 := putL_size keep s (putB keep f c)
    rw [putL_cons, List.length_cons]; omega
theorem brk_size (n : Int) (f : FloP) : (brkF n f).size ≤ f.size + 100 := by
  unfold brkF FloP.size; simp; omega
theorem line_size (f : FloP) : (lineF f).size ≤ f.size + 1 := by
  unfold lineF FloP.size; simp; omega
theorem act_size (f : FloP) (a : ActP) : (actF f a).size ≤ f.size + a.s.length + 100 := by
  unfold actF
  split
  · have := putL_size a.keep a.s f; omega
  · split
    · have := brk_size a.n f; omega
    · split
      · have := line_size f; omega
      · omega
end Go.Proofs.Ytappdjhhaohejaa
