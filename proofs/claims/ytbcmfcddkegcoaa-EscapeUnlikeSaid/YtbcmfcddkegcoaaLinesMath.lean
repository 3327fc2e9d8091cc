/-
  Lists of bytes with their lines' ends made one (normL), and with the byte 0 told otherwise (cleanL): plain mathematics.
-/
import Derived.WalkKit
namespace Go.Proofs.Ytbcmfcddkegcoaa

/-- ends of lines made one -/
def normL : List UInt8 → List UInt8
  | [] => []
  | c :: r => if c ≠ 13 then c :: normL r else if r.head? = some 10 then normL r else 10 :: normL r
/-- the same, told by what stands ahead -/
def normP : Bool → List UInt8 → List UInt8
  | _, [] => []
  | p, c :: r => if c = 13 then 10 :: normP true r else if c = 10 ∧ p = true then normP false r else c :: normP false r
/-- api.Bad for the byte 0 -/
def cleanL : List UInt8 → List UInt8
  | [] => []
  | c :: r => if c = 0 then 239 :: 191 :: 189 :: cleanL r else c :: cleanL r

theorem normP_eq : ∀ l : List UInt8, normP false l = normL l ∧ 10 :: normP true l = normL (13 :: l)
  | [] => ⟨rfl, rfl⟩
  | c :: r => by
    obtain ⟨h1, h2⟩ := normP_eq r
    by_cases h : c = 13
    · subst h
      have e1 : normP false (13 :: r) = 10 :: normP true r := by simp [normP]
      have e2 : normP true (13 :: r) = 10 :: normP true r := by simp [normP]
      refine ⟨by rw [e1, h2], ?_⟩
      rw [e2, h2]
      rw [show normL (13 :: 13 :: r) = 10 :: normL (13 :: r) from by rw [normL]; simp]
    · have e1 : normP false (c :: r) = c :: normP false r := by simp [normP, h]
      have e0 : normL (c :: r) = c :: normL r := by rw [normL]; simp [h]
      refine ⟨by rw [e1, e0, h1], ?_⟩
      by_cases h' : c = 10
      · subst h'
        have e2 : normP true (10 :: r) = normP false r := by simp [normP]
        rw [e2, h1, show normL (13 :: 10 :: r) = normL (10 :: r) from by rw [normL]; simp, e0]
      · have e2 : normP true (c :: r) = c :: normP false r := by simp [normP, h, h']
        rw [e2, h1, show normL (13 :: c :: r) = 10 :: normL (c :: r) from by rw [normL]; simp [h'], e0]
theorem normP_false (l : List UInt8) : normP false l = normL l := (normP_eq l).1

theorem normP_no13 : ∀ (p : Bool) (l : List UInt8), 13 ∉ normP p l
  | _, [] => by simp [normP]
  | p, c :: r => by
    rw [normP]
    split
    · have := normP_no13 true r
      simp only [List.mem_cons, not_or]; exact ⟨by decide, this⟩
    · split
      · exact normP_no13 false r
      · rename_i h1 h2
        simp only [List.mem_cons, not_or]; exact ⟨fun h => h1 h.symm, normP_no13 false r⟩
theorem normL_no13 (l : List UInt8) : 13 ∉ normL l := by rw [← normP_false]; exact normP_no13 false l
theorem normL_same : ∀ l : List UInt8, 13 ∉ l → normL l = l
  | [], _ => rfl
  | c :: r, h => by
    simp only [List.mem_cons, not_or] at h
    rw [normL, if_pos (fun e => h.1 e.symm), normL_same r h.2]
theorem normL_iff (l : List UInt8) : normL l = l ↔ 13 ∉ l := ⟨fun h => h ▸ normL_no13 l, normL_same l⟩
theorem normL_twice (l : List UInt8) : normL (normL l) = normL l := normL_same _ (normL_no13 l)
theorem normP_len : ∀ (p : Bool) (l : List UInt8), (normP p l).length ≤ l.length
  | _, [] => by simp [normP]
  | p, c :: r => by
    have h1 := normP_len true r
    have h2 := normP_len false r
    rw [normP]; repeat' split
    all_goals simp; try omega
theorem normL_len (l : List UInt8) : (normL l).length ≤ l.length := by rw [← normP_false]; exact normP_len false l

theorem cleanL_no0 : ∀ l : List UInt8, 0 ∉ cleanL l
  | [] => by simp [cleanL]
  | c :: r => by
    have := cleanL_no0 r
    rw [cleanL]; split
    · simp only [List.mem_cons, not_or]; exact ⟨by decide, by decide, by decide, this⟩
    · rename_i h
      simp only [List.mem_cons, not_or]; exact ⟨fun e => h e.symm, this⟩
theorem cleanL_same : ∀ l : List UInt8, 0 ∉ l → cleanL l = l
  | [], _ => rfl
  | c :: r, h => by
    simp only [List.mem_cons, not_or] at h
    rw [cleanL, if_neg (fun e => h.1 e.symm), cleanL_same r h.2]
theorem cleanL_iff (l : List UInt8) : cleanL l = l ↔ 0 ∉ l := ⟨fun h => h ▸ cleanL_no0 l, cleanL_same l⟩
theorem cleanL_twice (l : List UInt8) : cleanL (cleanL l) = cleanL l := cleanL_same _ (cleanL_no0 l)
theorem cleanL_len : ∀ l : List UInt8, l.length ≤ (cleanL l).length ∧ (cleanL l).length ≤ 3 * l.length
  | [] => by simp [cleanL]
  | c :: r => by
    have := cleanL_len r
    rw [cleanL]; split <;> simp <;> omega
theorem cleanL_app : ∀ a b : List UInt8, cleanL (a ++ b) = cleanL a ++ cleanL b
  | [], _ => rfl
  | c :: r, b => by
    have := cleanL_app r b
    rw [List.cons_append, cleanL, cleanL]; split <;> simp [this]

/-- texts behind texts, but where 13 and 10 meet -/
theorem normL_app : ∀ (a b : List UInt8), ¬ (a.getLast? = some 13 ∧ b.head? = some 10) → normL (a ++ b) = normL a ++ normL b
  | [], _, _ => rfl
  | [c], b, h => by
    by_cases hc : c = 13
    · subst hc
      have hb : b.head? ≠ some 10 := fun e => h ⟨rfl, e⟩
      show normL (13 :: b) = normL [13] ++ normL b
      rw [normL]; simp only [ne_eq, not_true_eq_false, if_false, if_neg hb]
      rfl
    · show normL (c :: b) = normL [c] ++ normL b
      rw [normL, if_pos hc, show normL [c] = [c] from by rw [normL, if_pos hc]; rfl]; rfl
  | c :: d :: r, b, h => by
    have ih := normL_app (d :: r) b (by rwa [List.getLast?_cons_cons] at h)
    rw [List.cons_append, normL, normL, ih]
    simp only [List.cons_append, List.head?_cons]
    by_cases hc : c ≠ 13
    · simp [if_pos hc]
    · simp only [if_neg hc]
      by_cases hd : d = 10
      · simp [hd]
      · simp [hd]
theorem normL_meet (a b : List UInt8) (ha : a.getLast? = some 13) : normL (a ++ 10 :: b) = normL a ++ normL b := by
  obtain ⟨x, rfl⟩ : ∃ x, a = x ++ [13] := by
    rcases List.eq_nil_or_concat a with rfl | ⟨x, y, rfl⟩
    · simp at ha
    · refine ⟨x, ?_⟩
      rw [List.concat_eq_append, List.getLast?_concat] at ha
      injection ha with ha; subst ha; simp
  rw [List.append_assoc, normL_app x _ (by simp), normL_app x [13] (by simp), List.append_assoc]
  rfl

/-- lines' ends, and what is none, by what stands ahead -/
def endsP : Bool → List UInt8 → Nat
  | _, [] => 0
  | p, c :: r => if c = 13 then endsP true r + 1 else if c = 10 ∧ p = false then endsP false r + 1 else endsP false r
def restL (l : List UInt8) : List UInt8 := l.filter (fun c => c != 13 && c != 10)
theorem count_normP : ∀ (p : Bool) (l : List UInt8), (normP p l).count 10 = endsP p l
  | _, [] => rfl
  | p, c :: r => by
    have h1 := count_normP true r
    have h2 := count_normP false r
    rw [normP, endsP]
    by_cases h : c = 13
    · rw [if_pos h, if_pos h, List.count_cons_self, h1]
    · rw [if_neg h, if_neg h]
      by_cases h' : c = 10
      · cases p <;> simp [h', h2]
      · simp [h', h2]
theorem rest_normP : ∀ (p : Bool) (l : List UInt8), (normP p l).filter (fun c => c != 10) = restL l
  | _, [] => rfl
  | p, c :: r => by
    have h1 := rest_normP true r
    have h2 := rest_normP false r
    unfold restL at *
    rw [normP]
    by_cases h : c = 13
    · rw [if_pos h]; subst h; simp [h1]
    · rw [if_neg h]
      by_cases h' : c = 10
      · cases p <;> simp [h', h2]
      · simp [h', h2, h]
theorem clean_norm (l : List UInt8) : normL (cleanL l) = cleanL (normL l) := by
  induction l with
  | nil => rfl
  | cons c r ih =>
    by_cases h : c = 13
    · subst h
      have hh : (cleanL r).head? = some 10 ↔ r.head? = some 10 := by
        cases r with
        | nil => simp [cleanL]
        | cons d t =>
          rw [cleanL]; split
          · rename_i hd; subst hd; simp
          · simp
      have e : cleanL (13 :: r) = 13 :: cleanL r := by rw [cleanL]; simp
      rw [e, normL, normL]
      by_cases h10 : r.head? = some 10
      · have := hh.2 h10; simp [h10, this, ih]
      · have : ¬ (cleanL r).head? = some 10 := fun x => h10 (hh.1 x)
        simp only [ne_eq, not_true_eq_false, if_false, if_neg h10, if_neg this, ih]
        rw [cleanL]; simp
    · have e : normL (c :: r) = c :: normL r := by rw [normL, if_pos h]
      rw [e, cleanL, cleanL]
      split
      · rw [normL, if_pos (by decide), normL, if_pos (by decide), normL, if_pos (by decide), ih]
      · rw [normL, if_pos h, ih]

end Go.Proofs.Ytbcmfcddkegcoaa
