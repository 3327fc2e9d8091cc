/-
  Attributes as they are written: in quotes, without, with a number's reference: plain mathematics.
-/
import Derived.Test.YtpdmnnfbdeiejaaDoorAttRead
namespace Go.Proofs.YtpdmnnfbdeiejaaDoor
open Go.RowKit Go.Lib

/-- one attribute in quotes, a blank ahead; its name of two bytes -/
def oneL (q : UInt8) (p : Ln) : Txt := 32 :: (p.1 ++ 61 :: q :: (p.2 ++ [q]))
def wrL (q : UInt8) (ps : List Ln) : Txt := ps.flatMap (oneL q)
theorem wrL_snoc (q : UInt8) (ps : List Ln) (p : Ln) : wrL q (ps ++ [p]) = wrL q ps ++ oneL q p := by unfold wrL; rw [List.flatMap_append, List.flatMap_singleton]
structure Plain2 (q : UInt8) (p : Ln) : Prop where
  name : ∃ c d, p.1 = [c, d] ∧ spB c = false ∧ c ≠ 62 ∧ c ≠ 47 ∧ endB d = false ∧ tellN [c, d] = [c, d]
  quote : q ∉ p.2
  amp : 38 ∉ p.2
  zero : 0 ∉ p.2
def addW (l : List Ln) (p : Ln) : List Ln := if l.any (fun r => r.1 == p.1) then l else l ++ [p]
theorem addL_plain {q : UInt8} {p : Ln} (h : Plain2 q p) (l : List Ln) : addL l p.1 p.2 = addW l p := by
  obtain ⟨c, d, e, -, -, -, -, ht⟩ := h.name
  unfold addL addW
  rw [tellV_plain p.2 h.amp h.zero, show tellN p.1 = p.1 by rw [e]; exact ht]
theorem run_one (q : UInt8) (hq : q = 34 ∨ q = 39) (p : Ln) (h : Plain2 q p) (l : List Ln) (rest : Txt) : runA (.s0 l) (oneL q p ++ rest) = (runA (.s0 (addW l p)) rest).map (upN (oneL q p).length) := by
  obtain ⟨c, d, e, h1, h2, h3, h4, -⟩ := h.name
  have e1 : oneL q p ++ rest = 32 :: c :: d :: 61 :: q :: (p.2 ++ q :: rest) := by unfold oneL; rw [e]; simp
  have e2 : (oneL q p).length = p.2.length + 6 := by unfold oneL; rw [e]; simp
  rw [e1, e2, run_more (go0_space (by decide)), run_more (go0_name h1 h2 h3), run_more (go1_more h4), run_more ((go1_end (by decide)).trans (go2_eq rfl)), run_more (go3_quote hq),
    run_quote _ _ q rest p.2 [] h.quote, up_up, up_up, up_up, up_up, up_up, List.nil_append, List.cons_append, List.nil_append, ← e, addL_plain h]
theorem run_list (q : UInt8) (hq : q = 34 ∨ q = 39) (rest : Txt) : ∀ (ps : List Ln) (l : List Ln), (∀ p ∈ ps, Plain2 q p) → runA (.s0 l) (wrL q ps ++ rest) = (runA (.s0 (ps.foldl addW l)) rest).map (upN (wrL q ps).length)
  | [], l, _ => (up_zero _).symm
  | p :: ps, l, h => by
    have e : wrL q (p :: ps) = oneL q p ++ wrL q ps := rfl
    rw [e, List.append_assoc, run_one q hq p (h p List.mem_cons_self), run_list q hq rest ps _ (fun x hx => h x (List.mem_cons_of_mem _ hx)), up_up, List.length_append, List.foldl_cons, Nat.add_comm]
theorem run_gt (l : List Ln) : runA (.s0 l) [62] = some (l, false, 1) := run_done (go0_end rfl)
theorem run_self (l : List Ln) : runA (.s0 l) [32, 47, 62] = some (l, true, 3) := by
  rw [run_more (go0_space (by decide)), run_done (go0_self rfl rfl)]; rfl
/-- AttrsWritten's three texts -/
theorem written (q : UInt8) (hq : q = 34 ∨ q = 39) (ps : List Ln) (h : ∀ p ∈ ps, Plain2 q p) :
    runA (.s0 []) (wrL q ps ++ [62]) = some (ps.foldl addW [], false, (wrL q ps).length + 1) ∧ runA (.s0 []) (wrL q ps ++ [32, 47, 62]) = some (ps.foldl addW [], true, (wrL q ps).length + 3) ∧ runA (.s0 []) (wrL q ps) = none := by
  refine ⟨?_, ?_, ?_⟩
  · rw [run_list q hq _ ps [] h, run_gt]
    simp [upN, Nat.add_comm]
  · rw [run_list q hq _ ps [] h, run_self]
    simp [upN, Nat.add_comm]
  · have := run_list q hq [] ps [] h
    rw [List.append_nil, run_nil] at this
    exact this

/-- AttrsPlain's two texts -/
theorem plain_one (v : Txt) (hne : v ≠ []) (hv : ∀ x ∈ v, (spB x || x == 62) = false ∧ x ≠ 34 ∧ x ≠ 39 ∧ x ≠ 38 ∧ x ≠ 0) (l : List Ln) (nm : Txt) (e : UInt8) (rest : Txt) (he : (spB e || e == 62) = true) :
    runA (.s3 l nm) (v ++ e :: rest) = (runA (.s0 (addL l nm v)) (e :: rest)).map (upN v.length) := by
  cases v with
  | nil => exact absurd rfl hne
  | cons c t =>
    obtain ⟨k1, k2, k3, -, -⟩ := hv c List.mem_cons_self
    rw [Bool.or_eq_false_iff] at k1
    have e1 : runA (.s3 l nm) ((c :: t) ++ e :: rest) = runA (.s5 l nm []) ((c :: t) ++ e :: rest) := run_same (go3_else k1.1 (by rintro (h | h); exact k2 h; exact k3 h) (by simpa using k1.2))
    rw [e1, run_bare l nm e rest he (c :: t) [] (fun x hx => (hv x hx).1), List.nil_append]
theorem plain_tell (v : Txt) (hv : ∀ x ∈ v, (spB x || x == 62) = false ∧ x ≠ 34 ∧ x ≠ 39 ∧ x ≠ 38 ∧ x ≠ 0) : tellV v = v :=
  tellV_plain v (fun h => (hv 38 h).2.2.2.1 rfl) (fun h => (hv 0 h).2.2.2.2 rfl)
theorem plain_first (v : Txt) (hne : v ≠ []) (hv : ∀ x ∈ v, (spB x || x == 62) = false ∧ x ≠ 34 ∧ x ≠ 39 ∧ x ≠ 38 ∧ x ≠ 0) :
    runA (.s0 []) (117 :: 61 :: (v ++ [62])) = some ([([117], v)], false, v.length + 3) := by
  have e1 : addL [] [117] v = [([117], v)] := by unfold addL; rw [plain_tell v hv]; rfl
  rw [run_more (go0_name (by decide) (by decide) (by decide)), run_more ((go1_end (by decide)).trans (go2_eq rfl)), plain_one v hne hv [] [117] 62 [] (by decide), e1, run_gt]
  simp [upN]; omega
theorem plain_second (v : Txt) (hne : v ≠ []) (hv : ∀ x ∈ v, (spB x || x == 62) = false ∧ x ≠ 34 ∧ x ≠ 39 ∧ x ≠ 38 ∧ x ≠ 0) :
    runA (.s0 []) (117 :: 32 :: 61 :: 32 :: (v ++ [32, 119, 62])) = some ([([117], v), ([119], [])], false, v.length + 7) := by
  have e1 : addL [] [117] v = [([117], v)] := by unfold addL; rw [plain_tell v hv]; rfl
  have e2 : addL [([117], v)] [119] [] = [([117], v), ([119], [])] := rfl
  have e3 : runA (.s1 [([117], v)] [119]) [62] = some ([([117], v), ([119], [])], false, 1) := by
    rw [run_same (go1_end (by decide)), run_same (go2_else (by decide) (by decide)), e2, run_gt]
  rw [run_more (go0_name (by decide) (by decide) (by decide)), run_more ((go1_end (by decide)).trans (go2_space (by decide))), run_more (go2_eq rfl), run_more (go3_space (by decide)), plain_one v hne hv [] [117] 32 [119, 62] (by decide), e1,
    run_more (go0_space (by decide)), run_more (go0_name (by decide) (by decide) (by decide)), e3]
  simp [upN]; omega

/-- no sign but one has the byte 0 -/
theorem enc_no0 (r : Int) (h : r ≠ 0) : 0 ∉ encodeRune r := by
  have hz : ∀ x ∈ encodeRuneZ r, 1 ≤ x ∧ x ≤ 255 := by
    intro x hx
    unfold encodeRuneZ at hx
    split at hx
    · simp only [List.mem_singleton] at hx; omega
    · split at hx
      · simp only [List.mem_cons, List.not_mem_nil, or_false] at hx; omega
      · split at hx
        · simp only [List.mem_cons, List.not_mem_nil, or_false] at hx; omega
        · split at hx
          · simp only [List.mem_cons, List.not_mem_nil, or_false] at hx; omega
          · simp only [List.mem_cons, List.not_mem_nil, or_false] at hx; omega
  intro h0
  unfold encodeRune at h0
  obtain ⟨x, hx, e⟩ := List.mem_map.1 h0
  have h1 := hz x hx
  have h2 : (x.toNat.toUInt8).toNat = 0 := by rw [e]; rfl
  rw [show x.toNat.toUInt8 = UInt8.ofNat x.toNat from rfl, UInt8.toNat_ofNat'] at h2
  omega
theorem tab_ne0 : ∀ i, i < 32 → tabL.getD i 0 ≠ 0 := by decide
theorem fix_no0 (n : Nat) : 0 ∉ (fixS (n : Int)).data.toList := by
  refine enc_no0 _ ?_
  unfold fixN
  by_cases h : (n : Int) = 0
  · rw [if_pos h]; decide
  · rw [if_neg h]
    by_cases h2 : (128 : Int) ≤ n ∧ (n : Int) < 160
    · rw [if_pos h2]; exact tab_ne0 _ (by omega)
    · rw [if_neg h2]; exact h
theorem fixS_capN (n : Nat) : fixS (capN n : Int) = fixS (n : Int) := by
  unfold capN
  by_cases h : 1114111 < n
  · rw [if_pos h]
    have e : fixS (n : Int) = ⟨#[239, 191, 189]⟩ := by
      unfold fixS fixN
      rw [if_neg (by omega), if_neg (by omega), encodeRune, encodeRuneZ_bad (.inr (.inr (by omega)))]; rfl
    rw [e]; exact fixS_cap
  · rw [if_neg h]
/-- AttrsClean's number in quotes -/
theorem number_told (n : Nat) : runA (.s0 []) (97 :: 61 :: 39 :: ((38 :: 35 :: decL n) ++ [39, 62])) = some ([([97], (fixS (n : Int)).data.toList)], false, (decL n).length + 7) := by
  obtain ⟨d1, d2, -, d4⟩ := decL_dig n n (Nat.le_refl _)
  have hq : 39 ∉ 38 :: 35 :: decL n := by
    simp only [List.mem_cons, not_or]
    refine ⟨by decide, by decide, fun h => ?_⟩
    have := d1 39 h
    revert this; decide
  obtain ⟨k1, k2⟩ := num_ends (decL n) [] true d1 d2 (.inl rfl)
  rw [show ([] : Txt).getD 0 0 = 0 from rfl, if_neg (by decide), List.append_nil] at k1
  rw [List.append_nil, d4, fixS_capN] at k2
  have e1 : tellV (38 :: 35 :: decL n) = (fixS (n : Int)).data.toList := by
    unfold tellV
    rw [dd_amp, k1, k2, List.drop_eq_nil_of_le (by simp), dd_nil, List.append_nil]
    exact (cleanL_iff _).2 (fix_no0 n)
  have e2 : addL [] [97] (38 :: 35 :: decL n) = [([97], (fixS (n : Int)).data.toList)] := by unfold addL; rw [e1]; rfl
  rw [run_more (go0_name (by decide) (by decide) (by decide)), run_more ((go1_end (by decide)).trans (go2_eq rfl)), run_more (go3_quote (.inr rfl)), run_quote _ _ 39 [62] _ [] hq, List.nil_append, e2, run_gt]
  simp [upN]; omega
end Go.Proofs.YtpdmnnfbdeiejaaDoor
