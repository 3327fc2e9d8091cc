/-
  The law TagWritten of flail/flaillaw09 answers true for every input, and changes nothing that was there. Condition, which the card ties to the program's text: when the call begins, the package variables that the row lists hold what that text lays in them (math/bits.deBruijn32tab, math/bits.deBruijn64tab, internal/strconv.uint64pow10, strconv.ErrRange, strconv.ErrSyntax, flail/number.others).
-/
import Derived.Test.YtdgebenkhcaijaaDoorRows
import Derived.Test.YtdgebenkhcaijaaDoorTagAwake
import Derived.Test.YtdgebenkhcaijaaDoorP8
import Derived.Test.YtdgebenkhcaijaaDoorP1
import Derived.Test.YtdgebenkhcaijaaDoorCards
import Derived.Test.YtdgebenkhcaijaaDoorP6
import Derived.WalkKit
import Derived.ProofKit
import Derived.OpenShut
import Derived.ShutString
import Derived.ChangeOld
import Derived.Below
namespace Go.Proofs.YtdgebenkhcaijaaDoor.tagWritten
open Go.ChangeShapes Go.WideShapes Go.ChangeAt Go.RowKit
open Go.ChangeMaps (open_string shut_string)
set_option linter.unusedVariables false

theorem own : ownKnob Tryd.prog.godebug = none := by kernel_rfl
theorem laidOut : laidOutB Tryd.prog = true := by kernel_rfl

/-- WHAT THE WALK IS TOLD OF A SLICE OF INTEGERS THAT CAME IN: it is nil; or it leads to a row of 'cap' cells, the numbers 'zs' (the first 'len' are its elements, the rest its spare room), each fitting its kind. -/
def IsRow (k : IntKind) (w : World) (a : Option Addr) (len cap : Nat) (zs : List Int) : Prop :=
  (a = none ∧ len = 0 ∧ cap = 0 ∧ zs = []) ∨
  ∃ x, a = some x ∧ len ≤ cap ∧ cap ≤ maxLen ∧ zs.length = cap ∧ (∀ i, i < zs.length → w.cell? (x.add i) = some (.int k (zs.getD i 0))) ∧ ∀ n ∈ zs, (Lit.int k n).wf = true

theorem low_of_cell {w : World} {x : Addr} {v : Value} (h : w.cell? x = some v) : x.block < w.heap.size := by
  rcases Nat.lt_or_ge x.block w.heap.size with h' | h'
  · exact h'
  · simp [World.cell?, Array.getElem?_eq_none h'] at h
theorem add_block (x : Addr) (i : Nat) : (x.add i).block = x.block := by unfold Addr.add; split <;> rfl
theorem oneAt (w : World) (g : Nat) (q : Int) (c : UInt8) (hg : w.heap.size = g) (h : (c.toNat : Int) = q) :
    (convert 32 9 (.slice (some ⟨g, 0, none⟩) 1 1)).run Tryd.prog (w.alloc (.cells #[.int .u8 q] 5)) = .ok (.string ⟨#[c]⟩) (w.alloc (.cells #[.int .u8 q] 5)) := by
  subst hg; exact oneByte w q c h
theorem letters : ∀ n, n < 26 → letB (UInt8.ofNat (97 + n)) = true ∧ letB (UInt8.ofNat (65 + n)) = true ∧ lowB (UInt8.ofNat (97 + n)) = UInt8.ofNat (97 + n) ∧ lowB (UInt8.ofNat (65 + n)) = UInt8.ofNat (97 + n) := by decide +kernel
theorem letter_of (q : Int) (b : Nat) (h0 : 0 ≤ q % 26) (h1 : q % 26 < 26) (hb : b < 200) : ∃ n : Nat, n < 26 ∧ q % 26 = n ∧ ((UInt8.ofNat (b + n)).toNat : Int) = (b : Int) + q % 26 := by
  refine ⟨(q % 26).toNat, by omega, by omega, ?_⟩
  rw [UInt8.toNat_ofNat', Nat.mod_eq_of_lt (by omega)]; omega
theorem low_all (S : Txt) (h : ∀ x ∈ S, letB x = true) : tellN S = lowL S := by
  unfold tellN
  refine (cleanL_iff _).2 fun h0 => ?_
  unfold lowL at h0
  obtain ⟨x, hx, e⟩ := List.mem_map.1 h0
  have := (let_is x (h x hx)).2.1
  rw [e] at this
  exact absurd this (by decide)
theorem wr_told (pre S sf : Txt) (k : Nat) (hk : pre = [60] ∧ k = 1 ∨ pre = [60, 47] ∧ k = 2) (hS : S ≠ []) (hall : ∀ x ∈ S, letB x = true) (hsf : sf = [] ∨ sf = [47]) :
    tagV (pre ++ S ++ (sf ++ [62, 120])) 0 = (tokT k S [] (decide (sf = [47])), ((pre ++ S ++ sf).length : Int) + 1, true) ∧ tagV (pre ++ S ++ sf) 0 = (zeroT, ((pre ++ S ++ sf).length : Int), false) := by
  have hb : ∀ rest : Txt, begT (pre ++ S ++ rest) = k := by
    intro rest
    cases S with
    | nil => exact absurd rfl hS
    | cons c t =>
      have hc := hall c List.mem_cons_self
      have h47 : c ≠ 47 := by rintro rfl; exact absurd hc (by decide)
      rcases hk with ⟨rfl, rfl⟩ | ⟨rfl, rfl⟩
      · unfold begT; simp [hc, h47]
      · unfold begT; simp [hc]
  have hpl : pre.length = k := by rcases hk with ⟨rfl, rfl⟩ | ⟨rfl, rfl⟩ <;> rfl
  have hkn : k ≠ 0 := by rcases hk with ⟨-, rfl⟩ | ⟨-, rfl⟩ <;> decide
  have ht : ∀ x ∈ S, tagB x = true := fun x hx => (let_is x (hall x hx)).1
  refine ⟨?_, ?_⟩
  · have h1 := (tag_is k pre S (sf ++ [62, 120]) hpl (hb _) ht (by rcases hsf with rfl | rfl <;> (intro c hc; injection hc with hc; subst hc; decide))).2
    have h2 : runA (.s0 []) (sf ++ [62, 120]) = some ([], decide (sf = [47]), sf.length + 1) := by rcases hsf with rfl | rfl <;> rfl
    rw [h2] at h1
    have := tag_some (pre ++ S ++ (sf ++ [62, 120])) 0 (by rw [List.drop_zero, hb]; exact hkn) _ _ (by rw [List.drop_zero]; exact h1)
    rw [show ((0 : Nat) : Int) = 0 from rfl] at this
    rw [this, List.length_append, List.length_append, hpl]
    simp only [Prod.mk.injEq, true_and, and_true]
    omega
  · have h1 := (tag_is k pre S sf hpl (hb _) ht (by rcases hsf with rfl | rfl <;> (intro c hc; first | (injection hc with hc; subst hc; decide) | cases hc))).2
    have h2 : runA (.s0 []) sf = none := by rcases hsf with rfl | rfl <;> rfl
    rw [h2] at h1
    exact tag_none (pre ++ S ++ sf) 0 (by rw [List.drop_zero, hb]; exact hkn) (by rw [List.drop_zero]; exact h1)
theorem wr_text (T S : ByteArray) (nm pre sf : Txt) (k : Nat) (hT : T.data.toList = pre ++ S.data.toList ++ sf) (hk : pre = [60] ∧ k = 1 ∨ pre = [60, 47] ∧ k = 2) (hS : S.data.toList ≠ []) (hall : ∀ x ∈ S.data.toList, letB x = true) (hn : lowL S.data.toList = nm) (hsf : sf = [] ∨ sf = [47]) :
    tagV (T ++ ⟨#[62, 120]⟩ : ByteArray).data.toList 0 = (⟨if k = 1 then 1 else 2, nm, [], [], decide (k = 1 ∧ sf = [47])⟩, (T.size : Int) + 1, true) ∧ tagV T.data.toList 0 = (zeroT, (T.size : Int), false) := by
  obtain ⟨h1, h2⟩ := wr_told pre S.data.toList sf k hk hS hall hsf
  have e1 : (T ++ ⟨#[62, 120]⟩ : ByteArray).data.toList = pre ++ S.data.toList ++ (sf ++ [62, 120]) := by
    rw [ByteArray.data_append, Array.toList_append, hT, List.append_assoc]
  rw [e1, h1, hT, h2, Lib.size_eq T, hT]
  refine ⟨?_, rfl⟩
  unfold tokT
  rw [low_all _ hall, hn]
  rcases hk with ⟨-, rfl⟩ | ⟨-, rfl⟩
  · simp
  · simp
theorem txt_of (L : ByteArray) : ∃ nm : Txt, L.data.toList = nm ∧ L = ⟨nm.toArray⟩ := ⟨_, rfl, str_ext (by rw [List.toList_toArray])⟩
set_option maxRecDepth 100000 in
set_option maxHeartbeats 8000000 in
theorem walk (a0 : Option Addr) (len0 cap0 : Nat) (z0 : List Int) (a1 : Bool) (a2 : Bool) (w : World) (hT : LaidAt w) (w0 : IsRow .u8 w a0 len0 cap0 z0) :
    Calls Tryd.prog 4 #[.slice a0 len0 cap0, .bool a1, .bool a2] w fun e w' => e = .returned (.bool true) ∧ Below w.heap.size w w' := by
  have HS0 := Lib.hid hT
  clear hT
  by_cases hl60 : 60 < len0 ∨ len0 = 0
  · have hc : decide ((60 : Int) < (len0 : Int)) = true ∨ decide ((60 : Int) < (len0 : Int)) = false ∧ ((len0 : Int) == 0) = true := by
      simp only [decide_eq_true_eq, decide_eq_false_iff_not, beq_iff_eq]; omega
    clear w0 hl60
    rcases hc with hc | ⟨hc, hd⟩
    all_goals
      go_enter Tryd.func4, Tryd.ntmps4
      go_wp2_with (fail)
      refine (tagAwake_any w HS0.out).mono ?_
      rintro e w1 ⟨rfl, c1⟩
      go_wp2
      go_ret
      exact ⟨rfl, c1⟩
  rcases w0 with ⟨rfl, h, -, -⟩ | ⟨x, rfl, hlc, hcm, hzl, hcell, hwf⟩
  · exact absurd (Or.inr h) hl60
  have hl1 : ((len0 : Int) == 0) = false := beq_eq_false_iff_ne.2 (by omega)
  have hl2 : decide ((60 : Int) < (len0 : Int)) = false := decide_eq_false (by omega)
  have hq : ∀ i, i < len0 → 0 ≤ z0.getD i 0 ∧ z0.getD i 0 < 256 := fun i hi => by
    have hi' : i < z0.length := by omega
    have hw := hwf z0[i] (List.getElem_mem hi')
    have hb : 0 ≤ z0[i] ∧ z0[i] ≤ 255 := by simpa [Lit.wf, IntKind.min, IntKind.max, IntKind.signed, IntKind.bits] using hw
    rw [List.getD_eq_getElem?_getD, List.getElem?_eq_getElem hi']
    exact ⟨hb.1, by have := hb.2; show z0[i] < 256; omega⟩
  have HQ := Lib.hid hq
  have hlow : x.block < w.heap.size := by
    have := low_of_cell (hcell 0 (by omega))
    rwa [add_block] at this
  have HC0 : Hid (∀ W : World, Below w.heap.size w W → ∀ i, i < len0 → W.cell? (x.add i) = some (.int .u8 (z0.getD i 0))) := Lib.hid (fun W hW i hi => by
    rw [hW.cell (p := x.add i) (by rw [add_block]; exact hlow)]; exact hcell i (by omega))
  have h60 : len0 ≤ 60 := by omega
  have h01 : 1 ≤ len0 := by omega
  clear hq hlow hcell hwf hzl hl60
  unfold maxLen at hcm
  go_enter Tryd.func4, Tryd.ntmps4
  go_wp2_with (fail)
  refine (tagAwake_any w HS0.out).mono ?_
  rintro e w1 ⟨rfl, hb1⟩
  go_wp2
  clear hl1 hl2
  go_loopw [8, 9, 10] (fun a b c wr => ∃ (i : Nat) (S L : ByteArray), i ≤ len0 ∧ a = .string S ∧ b = .string L ∧ c = .int .i64 (i : Int) ∧ Hid (lowL S.data.toList = L.data.toList) ∧ Hid (∀ y ∈ S.data.toList, letB y = true) ∧ S.size = i ∧ L.size = i ∧ Below w.heap.size w wr) (fun _ _ c _ => len0 - (intOf c).toNat)
  case atStart => exact ⟨0, ⟨#[]⟩, ⟨#[]⟩, by omega, rfl, rfl, rfl, Lib.hid rfl, Lib.hid (by intro y hy; cases hy), rfl, rfl, hb1⟩
  case round =>
    obtain ⟨i, S, L, hi, rfl, rfl, rfl, HSL, HSA, hsz, hlz, hbw⟩ := hrel
    by_cases hlt : i < len0
    · have hc := HC0.out _ hbw i hlt
      obtain ⟨q0, q1⟩ := HQ.out i hlt
      obtain ⟨q, hqq⟩ : ∃ q, z0.getD i 0 = q := ⟨_, rfl⟩
      rw [hqq] at hc q0 q1
      have i0 : 0 ≤ q % 26 := Int.emod_nonneg _ (by decide)
      have i1 : q % 26 < 26 := Int.emod_lt_of_pos _ (by decide)
      obtain ⟨n, hn, hqn, h97⟩ := letter_of q 97 i0 i1 (by decide)
      obtain ⟨n', hn', hqn', h65⟩ := letter_of q 65 i0 i1 (by decide)
      obtain rfl : n = n' := by omega
      obtain ⟨t1, t2, t3, t4⟩ := letters n hn
      obtain ⟨lc, hlc'⟩ : ∃ c, UInt8.ofNat (97 + n) = c := ⟨_, rfl⟩
      obtain ⟨uc, huc⟩ : ∃ c, UInt8.ofNat (65 + n) = c := ⟨_, rfl⟩
      rw [hlc'] at t1 t3 t4 h97
      rw [huc] at t2 t4 h65
      rw [show ((97 : Nat) : Int) = 97 from rfl] at h97
      rw [show ((65 : Nat) : Int) = 65 from rfl] at h65
      have H97 := Lib.hid h97
      have H65 := Lib.hid h65
      have hc2 := HC0.out (wr.alloc (.cells #[.int .u8 (97 + q % 26)] 5)) (hbw.alloc hbw.size _) i hlt
      rw [hqq] at hc2
      have HL2 : Hid (lowL (S ++ ⟨#[lc]⟩ : ByteArray).data.toList = (L ++ ⟨#[lc]⟩ : ByteArray).data.toList) := Lib.hid (by
        rw [ByteArray.data_append, Array.toList_append, lowL_app, HSL.out, ByteArray.data_append, Array.toList_append]
        show _ ++ [lowB lc] = _ ++ [lc]
        rw [t3])
      have HU2 : Hid (lowL (S ++ ⟨#[uc]⟩ : ByteArray).data.toList = (L ++ ⟨#[lc]⟩ : ByteArray).data.toList) := Lib.hid (by
        rw [ByteArray.data_append, Array.toList_append, lowL_app, HSL.out, ByteArray.data_append, Array.toList_append]
        show _ ++ [lowB uc] = _ ++ [lc]
        rw [t4])
      have hall : ∀ c, letB c = true → Hid (∀ y ∈ (S ++ ⟨#[c]⟩ : ByteArray).data.toList, letB y = true) := fun c hc => Lib.hid (by
        intro y hy
        rw [ByteArray.data_append, Array.toList_append, List.mem_append] at hy
        rcases hy with hy | hy
        · exact HSA.out y hy
        · have : y = c := by simpa using hy
          rw [this]; exact hc)
      have HA1 := hall lc t1
      have HA2 := hall uc t2
      have z1 : ∀ (A : ByteArray) (c : UInt8), (A ++ ⟨#[c]⟩ : ByteArray).size = A.size + 1 := fun A c => by rw [ByteArray.size_append]; rfl
      have Z1 := Lib.hid z1
      have g1 : ¬ 9223372036854775807 < L.size + (ByteArray.mk #[lc]).size := by rw [show (ByteArray.mk #[lc]).size = 1 from rfl]; omega
      have g2 : ¬ 9223372036854775807 < S.size + (ByteArray.mk #[lc]).size := by rw [show (ByteArray.mk #[lc]).size = 1 from rfl]; omega
      have g3 : ¬ 9223372036854775807 < S.size + (ByteArray.mk #[uc]).size := by rw [show (ByteArray.mk #[uc]).size = 1 from rfl]; omega
      have HSZ := Lib.hid hsz
      have HLZ := Lib.hid hlz
      clear hqq h97 h65 hqn hqn' hn hn' t1 t2 t3 t4 hlc' huc hall z1 hsz hlz
      by_cases h128 : 128 ≤ q
      · go_wp2
        rw [oneByte _ _ _ H97.out]
        simp only [Result.andThen]
        rw [Oper.upon_value]
        go_wp2
        rw [oneAt (wr.alloc (.cells #[.int .u8 (97 + q % 26)] 5)) (wr.heap.size + 1) _ _ (by simp) H65.out]
        simp only [Result.andThen]
        rw [Oper.upon_value]
        go_wp2
        go_roundw
        case rel => exact ⟨i + 1, _, _, by omega, rfl, rfl, by go_num, HU2, HA2, by rw [Z1.out, HSZ.out], by rw [Z1.out, HLZ.out], (hbw.alloc hbw.size _).alloc (by have := hbw.size; simp; omega) _⟩
        case measure => simp [intOf]; omega
      · go_wp2
        rw [oneByte _ _ _ H97.out]
        simp only [Result.andThen]
        rw [Oper.upon_value]
        go_wp2
        rw [oneAt (wr.alloc (.cells #[.int .u8 (97 + q % 26)] 5)) (wr.heap.size + 1) _ _ (by simp) H97.out]
        simp only [Result.andThen]
        rw [Oper.upon_value]
        go_wp2
        go_roundw
        case rel => exact ⟨i + 1, _, _, by omega, rfl, rfl, by go_num, HL2, HA1, by rw [Z1.out, HSZ.out], by rw [Z1.out, HLZ.out], (hbw.alloc hbw.size _).alloc (by have := hbw.size; simp; omega) _⟩
        case measure => simp [intOf]; omega
    · obtain rfl : i = len0 := by omega
      have hne : S.data.toList ≠ [] := fun h => by rw [Lib.size_eq, h] at hsz; simp at hsz; omega
      obtain ⟨nm, hnm, rfl⟩ := txt_of L
      rw [hnm] at HSL
      have z1 : (ByteArray.mk #[60]).size = 1 := rfl
      have z2 : (ByteArray.mk #[60, 47]).size = 2 := rfl
      have z3 : (ByteArray.mk #[47]).size = 1 := rfl
      have z4 : (ByteArray.mk #[62, 120]).size = 2 := rfl
      have hA1 : (⟨#[60]⟩ ++ S : ByteArray).size = S.size + 1 := by rw [ByteArray.size_append, z1]; omega
      have hA2 : (⟨#[60, 47]⟩ ++ S : ByteArray).size = S.size + 2 := by rw [ByteArray.size_append, z2]; omega
      have hA3 : (⟨#[60]⟩ ++ S ++ ⟨#[47]⟩ : ByteArray).size = S.size + 2 := by rw [ByteArray.size_append, hA1, z3]
      have hA4 : (⟨#[60, 47]⟩ ++ S ++ ⟨#[47]⟩ : ByteArray).size = S.size + 3 := by rw [ByteArray.size_append, hA2, z3]
      have g1 : ¬ 9223372036854775807 < (ByteArray.mk #[60]).size + S.size := by rw [z1]; omega
      have g2 : ¬ 9223372036854775807 < (ByteArray.mk #[60, 47]).size + S.size := by rw [z2]; omega
      have l1 : (⟨#[60]⟩ ++ S : ByteArray).data.toList = [60] ++ S.data.toList := by rw [ByteArray.data_append, Array.toList_append]
      have l2 : (⟨#[60, 47]⟩ ++ S : ByteArray).data.toList = [60, 47] ++ S.data.toList := by rw [ByteArray.data_append, Array.toList_append]
      have l3 : ∀ A : ByteArray, (A ++ ⟨#[47]⟩ : ByteArray).data.toList = A.data.toList ++ [47] := fun A => by rw [ByteArray.data_append, Array.toList_append]
      have HB := Lib.hid hbw
      cases a1 <;> cases a2
      · have HT1 := wr_text (⟨#[60]⟩ ++ S) S nm [60] [] 1 (by rw [l1, List.append_nil]) (.inl ⟨rfl, rfl⟩) hne HSA.out HSL.out (.inl rfl)
        have HV1 := Lib.hid HT1.1
        have HV2 := Lib.hid HT1.2
        have hTs : (⟨#[60]⟩ ++ S : ByteArray).size ≤ 63 := by omega
        have HR1 := fun w h => Lib.hid (tag_any (⟨#[60]⟩ ++ S ++ ⟨#[62, 120]⟩) 0 w (by rw [ByteArray.size_append, z4]; omega) (by decide) h)
        have HR2 := fun w h => Lib.hid (tag_any (⟨#[60]⟩ ++ S) 0 w (by omega) (by decide) h)
        have g3 : ¬ 9223372036854775807 < (⟨#[60]⟩ ++ S : ByteArray).size + (ByteArray.mk #[62, 120]).size := by rw [z4]; omega
        obtain ⟨T, hTT⟩ : ∃ T : ByteArray, ⟨#[60]⟩ ++ S = T := ⟨_, rfl⟩
        have HTT := Lib.hid hTT
        rw [hTT] at HV1 HV2 HR1 HR2 hTs
        have hT1 : (T.size : Int) + 1 ≤ 9223372036854775807 := by omega
        clear hTT
        clear HT1 hne hnm HSL HSA hsz hlz z1 z2 z3 z4 hA1 hA2 hA3 hA4 l1 l2 l3 hTs hbw
        go_wp2_with (fail)
        rw [HTT.out]
        clear g1 g2 g3
        have B1 := Lib.hid (below_new HB.out (.cells #[.int .i64 1, .string ⟨nm.toArray⟩, .string ⟨#[]⟩, .slice none 0 0, .bool false] 26))
        refine (HR1 _ (HS0.out.below B1.out)).out.mono ?_
        rintro e w2 ⟨t, ad, len, cap, n, ok, rfl, hr, hv, b2⟩
        rw [HV1.out] at hv
        simp only [Prod.mk.injEq] at hv
        obtain ⟨rfl, rfl, rfl⟩ := hv
        have T1 := Lib.hid ((tokAt_new wr ⟨1, nm, [], [], false⟩ none 0 0 26).below b2 (by simp))
        have lt1 : wr.heap.size < w2.heap.size := by have := b2.size; simp at this; omega
        have B2 := Lib.hid (B1.out.trans (b2.mono B1.out.size))
        have K2 := Lib.hid hr
        clear hr b2
        unfold tokA
        go_wp2_with (fail)
        have B3 := Lib.hid (below_new B2.out (.cells #[.int .i64 1, .string ⟨nm.toArray⟩, .string ⟨#[]⟩, .slice ad len cap, .bool false] 26))
        refine (HR2 _ (HS0.out.below B3.out)).out.mono ?_
        rintro e w3 ⟨t, ad2, len2, cap2, n, ok, rfl, hr, hv, b3⟩
        rw [HV2.out] at hv
        simp only [Prod.mk.injEq] at hv
        obtain ⟨rfl, rfl, rfl⟩ := hv
        have T2 := Lib.hid ((tokAt_new w2 ⟨1, nm, [], [], false⟩ ad len cap 26).below b3 (by simp))
        have D3 := Lib.hid (((Below.refl w2.heap.size w2).alloc (Nat.le_refl _) _).trans (b3.mono (by simp)))
        have lt2 : w2.heap.size < w3.heap.size := by have := b3.size; simp at this; omega
        have B4 := Lib.hid (B3.out.trans (b3.mono B3.out.size))
        have K3 := Lib.hid hr
        have A3 := Lib.hid ((Below.refl w3.heap.size w3).alloc (Nat.le_refl _) (.cells #[.int .i64 zeroT.kind, .string ⟨zeroT.name.toArray⟩, .string ⟨zeroT.text.toArray⟩, .slice ad2 len2 cap2, .bool zeroT.self] 26))
        clear hr b3
        obtain ⟨x0, x1, x2, x3, x4⟩ := (T1.out.below D3.out lt1).below A3.out (Nat.lt_trans lt1 lt2)
        obtain ⟨y0, y1, y2, y3, y4⟩ := T2.out.below A3.out lt2
        simp only at x0 x1 x2 x3 x4 y0 y1 y2 y3 y4
        unfold tokA
        go_wp2_with (fail)
        refine (refSame9_any ⟨1, nm, [], [], false⟩ ⟨1, nm, [], [], false⟩ _ _ _ _ _ _ _ ((K2.out.below D3.out (Nat.le_refl _)).below A3.out (Nat.le_refl _)) (isRows_none _)).mono ?_
        rintro e w4 ⟨rfl, b4⟩
        clear x0 x1 x2 x3 x4 y0 y1 y2 y3 y4
        have T3 := (tokAt_new w3 zeroT ad2 len2 cap2 26).below b4 (by simp)
        have D4 := Lib.hid (A3.out.trans (b4.mono (by simp)))
        have B5 := Lib.hid (B4.out.trans (D4.out.mono B4.out.size))
        obtain ⟨p0, p1, p2, p3, p4⟩ := T3
        go_wp2_with (fail)
        refine (refSame9_any zeroT zeroT _ _ _ _ _ _ _ (K3.out.below D4.out (Nat.le_refl _)) (isRows_none _)).mono ?_
        rintro e w5 ⟨rfl, b5⟩
        go_wp2
        go_ret
        exact ⟨ret_bool (by simp), B5.out.trans (b5.mono B5.out.size)⟩
      · have HT1 := wr_text (⟨#[60]⟩ ++ S ++ ⟨#[47]⟩) S nm [60] [47] 1 (by rw [l3, l1]) (.inl ⟨rfl, rfl⟩) hne HSA.out HSL.out (.inr rfl)
        have HV1 := Lib.hid HT1.1
        have HV2 := Lib.hid HT1.2
        have hTs : (⟨#[60]⟩ ++ S ++ ⟨#[47]⟩ : ByteArray).size ≤ 63 := by omega
        have HR1 := fun w h => Lib.hid (tag_any (⟨#[60]⟩ ++ S ++ ⟨#[47]⟩ ++ ⟨#[62, 120]⟩) 0 w (by rw [ByteArray.size_append, z4]; omega) (by decide) h)
        have HR2 := fun w h => Lib.hid (tag_any (⟨#[60]⟩ ++ S ++ ⟨#[47]⟩) 0 w (by omega) (by decide) h)
        have g3 : ¬ 9223372036854775807 < (⟨#[60]⟩ ++ S ++ ⟨#[47]⟩ : ByteArray).size + (ByteArray.mk #[62, 120]).size := by rw [z4]; omega
        have g4 : ¬ 9223372036854775807 < (⟨#[60]⟩ ++ S : ByteArray).size + (ByteArray.mk #[47]).size := by rw [z3]; omega
        obtain ⟨T, hTT⟩ : ∃ T : ByteArray, ⟨#[60]⟩ ++ S ++ ⟨#[47]⟩ = T := ⟨_, rfl⟩
        have HTT := Lib.hid hTT
        rw [hTT] at HV1 HV2 HR1 HR2 hTs
        have hT1 : (T.size : Int) + 1 ≤ 9223372036854775807 := by omega
        clear hTT
        clear HT1 hne hnm HSL HSA hsz hlz z1 z2 z3 z4 hA1 hA2 hA3 hA4 l1 l2 l3 hTs hbw
        go_wp2_with (fail)
        rw [HTT.out]
        clear g1 g2 g3 g4
        have B1 := Lib.hid (below_new HB.out (.cells #[.int .i64 1, .string ⟨nm.toArray⟩, .string ⟨#[]⟩, .slice none 0 0, .bool true] 26))
        refine (HR1 _ (HS0.out.below B1.out)).out.mono ?_
        rintro e w2 ⟨t, ad, len, cap, n, ok, rfl, hr, hv, b2⟩
        rw [HV1.out] at hv
        simp only [Prod.mk.injEq] at hv
        obtain ⟨rfl, rfl, rfl⟩ := hv
        have T1 := Lib.hid ((tokAt_new wr ⟨1, nm, [], [], true⟩ none 0 0 26).below b2 (by simp))
        have lt1 : wr.heap.size < w2.heap.size := by have := b2.size; simp at this; omega
        have B2 := Lib.hid (B1.out.trans (b2.mono B1.out.size))
        have K2 := Lib.hid hr
        clear hr b2
        unfold tokA
        go_wp2_with (fail)
        have B3 := Lib.hid (below_new B2.out (.cells #[.int .i64 1, .string ⟨nm.toArray⟩, .string ⟨#[]⟩, .slice ad len cap, .bool true] 26))
        refine (HR2 _ (HS0.out.below B3.out)).out.mono ?_
        rintro e w3 ⟨t, ad2, len2, cap2, n, ok, rfl, hr, hv, b3⟩
        rw [HV2.out] at hv
        simp only [Prod.mk.injEq] at hv
        obtain ⟨rfl, rfl, rfl⟩ := hv
        have T2 := Lib.hid ((tokAt_new w2 ⟨1, nm, [], [], true⟩ ad len cap 26).below b3 (by simp))
        have D3 := Lib.hid (((Below.refl w2.heap.size w2).alloc (Nat.le_refl _) _).trans (b3.mono (by simp)))
        have lt2 : w2.heap.size < w3.heap.size := by have := b3.size; simp at this; omega
        have B4 := Lib.hid (B3.out.trans (b3.mono B3.out.size))
        have K3 := Lib.hid hr
        have A3 := Lib.hid ((Below.refl w3.heap.size w3).alloc (Nat.le_refl _) (.cells #[.int .i64 zeroT.kind, .string ⟨zeroT.name.toArray⟩, .string ⟨zeroT.text.toArray⟩, .slice ad2 len2 cap2, .bool zeroT.self] 26))
        clear hr b3
        obtain ⟨x0, x1, x2, x3, x4⟩ := (T1.out.below D3.out lt1).below A3.out (Nat.lt_trans lt1 lt2)
        obtain ⟨y0, y1, y2, y3, y4⟩ := T2.out.below A3.out lt2
        simp only at x0 x1 x2 x3 x4 y0 y1 y2 y3 y4
        unfold tokA
        go_wp2_with (fail)
        refine (refSame9_any ⟨1, nm, [], [], true⟩ ⟨1, nm, [], [], true⟩ _ _ _ _ _ _ _ ((K2.out.below D3.out (Nat.le_refl _)).below A3.out (Nat.le_refl _)) (isRows_none _)).mono ?_
        rintro e w4 ⟨rfl, b4⟩
        clear x0 x1 x2 x3 x4 y0 y1 y2 y3 y4
        have T3 := (tokAt_new w3 zeroT ad2 len2 cap2 26).below b4 (by simp)
        have D4 := Lib.hid (A3.out.trans (b4.mono (by simp)))
        have B5 := Lib.hid (B4.out.trans (D4.out.mono B4.out.size))
        obtain ⟨p0, p1, p2, p3, p4⟩ := T3
        go_wp2_with (fail)
        refine (refSame9_any zeroT zeroT _ _ _ _ _ _ _ (K3.out.below D4.out (Nat.le_refl _)) (isRows_none _)).mono ?_
        rintro e w5 ⟨rfl, b5⟩
        go_wp2
        go_ret
        exact ⟨ret_bool (by simp), B5.out.trans (b5.mono B5.out.size)⟩
      · have HT1 := wr_text (⟨#[60, 47]⟩ ++ S) S nm [60, 47] [] 2 (by rw [l2, List.append_nil]) (.inr ⟨rfl, rfl⟩) hne HSA.out HSL.out (.inl rfl)
        have HV1 := Lib.hid HT1.1
        have HV2 := Lib.hid HT1.2
        have hTs : (⟨#[60, 47]⟩ ++ S : ByteArray).size ≤ 63 := by omega
        have HR1 := fun w h => Lib.hid (tag_any (⟨#[60, 47]⟩ ++ S ++ ⟨#[62, 120]⟩) 0 w (by rw [ByteArray.size_append, z4]; omega) (by decide) h)
        have HR2 := fun w h => Lib.hid (tag_any (⟨#[60, 47]⟩ ++ S) 0 w (by omega) (by decide) h)
        have g3 : ¬ 9223372036854775807 < (⟨#[60, 47]⟩ ++ S : ByteArray).size + (ByteArray.mk #[62, 120]).size := by rw [z4]; omega
        obtain ⟨T, hTT⟩ : ∃ T : ByteArray, ⟨#[60, 47]⟩ ++ S = T := ⟨_, rfl⟩
        have HTT := Lib.hid hTT
        rw [hTT] at HV1 HV2 HR1 HR2 hTs
        have hT1 : (T.size : Int) + 1 ≤ 9223372036854775807 := by omega
        clear hTT
        clear HT1 hne hnm HSL HSA hsz hlz z1 z2 z3 z4 hA1 hA2 hA3 hA4 l1 l2 l3 hTs hbw
        go_wp2_with (fail)
        rw [HTT.out]
        clear g1 g2 g3
        have B1 := Lib.hid (below_new HB.out (.cells #[.int .i64 2, .string ⟨nm.toArray⟩, .string ⟨#[]⟩, .slice none 0 0, .bool false] 26))
        refine (HR1 _ (HS0.out.below B1.out)).out.mono ?_
        rintro e w2 ⟨t, ad, len, cap, n, ok, rfl, hr, hv, b2⟩
        rw [HV1.out] at hv
        simp only [Prod.mk.injEq] at hv
        obtain ⟨rfl, rfl, rfl⟩ := hv
        have T1 := Lib.hid ((tokAt_new wr ⟨2, nm, [], [], false⟩ none 0 0 26).below b2 (by simp))
        have lt1 : wr.heap.size < w2.heap.size := by have := b2.size; simp at this; omega
        have B2 := Lib.hid (B1.out.trans (b2.mono B1.out.size))
        have K2 := Lib.hid hr
        clear hr b2
        unfold tokA
        go_wp2_with (fail)
        have B3 := Lib.hid (below_new B2.out (.cells #[.int .i64 2, .string ⟨nm.toArray⟩, .string ⟨#[]⟩, .slice ad len cap, .bool false] 26))
        refine (HR2 _ (HS0.out.below B3.out)).out.mono ?_
        rintro e w3 ⟨t, ad2, len2, cap2, n, ok, rfl, hr, hv, b3⟩
        rw [HV2.out] at hv
        simp only [Prod.mk.injEq] at hv
        obtain ⟨rfl, rfl, rfl⟩ := hv
        have T2 := Lib.hid ((tokAt_new w2 ⟨2, nm, [], [], false⟩ ad len cap 26).below b3 (by simp))
        have D3 := Lib.hid (((Below.refl w2.heap.size w2).alloc (Nat.le_refl _) _).trans (b3.mono (by simp)))
        have lt2 : w2.heap.size < w3.heap.size := by have := b3.size; simp at this; omega
        have B4 := Lib.hid (B3.out.trans (b3.mono B3.out.size))
        have K3 := Lib.hid hr
        have A3 := Lib.hid ((Below.refl w3.heap.size w3).alloc (Nat.le_refl _) (.cells #[.int .i64 zeroT.kind, .string ⟨zeroT.name.toArray⟩, .string ⟨zeroT.text.toArray⟩, .slice ad2 len2 cap2, .bool zeroT.self] 26))
        clear hr b3
        obtain ⟨x0, x1, x2, x3, x4⟩ := (T1.out.below D3.out lt1).below A3.out (Nat.lt_trans lt1 lt2)
        obtain ⟨y0, y1, y2, y3, y4⟩ := T2.out.below A3.out lt2
        simp only at x0 x1 x2 x3 x4 y0 y1 y2 y3 y4
        unfold tokA
        go_wp2_with (fail)
        refine (refSame9_any ⟨2, nm, [], [], false⟩ ⟨2, nm, [], [], false⟩ _ _ _ _ _ _ _ ((K2.out.below D3.out (Nat.le_refl _)).below A3.out (Nat.le_refl _)) (isRows_none _)).mono ?_
        rintro e w4 ⟨rfl, b4⟩
        clear x0 x1 x2 x3 x4 y0 y1 y2 y3 y4
        have T3 := (tokAt_new w3 zeroT ad2 len2 cap2 26).below b4 (by simp)
        have D4 := Lib.hid (A3.out.trans (b4.mono (by simp)))
        have B5 := Lib.hid (B4.out.trans (D4.out.mono B4.out.size))
        obtain ⟨p0, p1, p2, p3, p4⟩ := T3
        go_wp2_with (fail)
        refine (refSame9_any zeroT zeroT _ _ _ _ _ _ _ (K3.out.below D4.out (Nat.le_refl _)) (isRows_none _)).mono ?_
        rintro e w5 ⟨rfl, b5⟩
        go_wp2
        go_ret
        exact ⟨ret_bool (by simp), B5.out.trans (b5.mono B5.out.size)⟩
      · have HT1 := wr_text (⟨#[60, 47]⟩ ++ S ++ ⟨#[47]⟩) S nm [60, 47] [47] 2 (by rw [l3, l2]) (.inr ⟨rfl, rfl⟩) hne HSA.out HSL.out (.inr rfl)
        have HV1 := Lib.hid HT1.1
        have HV2 := Lib.hid HT1.2
        have hTs : (⟨#[60, 47]⟩ ++ S ++ ⟨#[47]⟩ : ByteArray).size ≤ 63 := by omega
        have HR1 := fun w h => Lib.hid (tag_any (⟨#[60, 47]⟩ ++ S ++ ⟨#[47]⟩ ++ ⟨#[62, 120]⟩) 0 w (by rw [ByteArray.size_append, z4]; omega) (by decide) h)
        have HR2 := fun w h => Lib.hid (tag_any (⟨#[60, 47]⟩ ++ S ++ ⟨#[47]⟩) 0 w (by omega) (by decide) h)
        have g3 : ¬ 9223372036854775807 < (⟨#[60, 47]⟩ ++ S ++ ⟨#[47]⟩ : ByteArray).size + (ByteArray.mk #[62, 120]).size := by rw [z4]; omega
        have g4 : ¬ 9223372036854775807 < (⟨#[60, 47]⟩ ++ S : ByteArray).size + (ByteArray.mk #[47]).size := by rw [z3]; omega
        obtain ⟨T, hTT⟩ : ∃ T : ByteArray, ⟨#[60, 47]⟩ ++ S ++ ⟨#[47]⟩ = T := ⟨_, rfl⟩
        have HTT := Lib.hid hTT
        rw [hTT] at HV1 HV2 HR1 HR2 hTs
        have hT1 : (T.size : Int) + 1 ≤ 9223372036854775807 := by omega
        clear hTT
        clear HT1 hne hnm HSL HSA hsz hlz z1 z2 z3 z4 hA1 hA2 hA3 hA4 l1 l2 l3 hTs hbw
        go_wp2_with (fail)
        rw [HTT.out]
        clear g1 g2 g3 g4
        have B1 := Lib.hid (below_new HB.out (.cells #[.int .i64 2, .string ⟨nm.toArray⟩, .string ⟨#[]⟩, .slice none 0 0, .bool false] 26))
        refine (HR1 _ (HS0.out.below B1.out)).out.mono ?_
        rintro e w2 ⟨t, ad, len, cap, n, ok, rfl, hr, hv, b2⟩
        rw [HV1.out] at hv
        simp only [Prod.mk.injEq] at hv
        obtain ⟨rfl, rfl, rfl⟩ := hv
        have T1 := Lib.hid ((tokAt_new wr ⟨2, nm, [], [], false⟩ none 0 0 26).below b2 (by simp))
        have lt1 : wr.heap.size < w2.heap.size := by have := b2.size; simp at this; omega
        have B2 := Lib.hid (B1.out.trans (b2.mono B1.out.size))
        have K2 := Lib.hid hr
        clear hr b2
        unfold tokA
        go_wp2_with (fail)
        have B3 := Lib.hid (below_new B2.out (.cells #[.int .i64 2, .string ⟨nm.toArray⟩, .string ⟨#[]⟩, .slice ad len cap, .bool false] 26))
        refine (HR2 _ (HS0.out.below B3.out)).out.mono ?_
        rintro e w3 ⟨t, ad2, len2, cap2, n, ok, rfl, hr, hv, b3⟩
        rw [HV2.out] at hv
        simp only [Prod.mk.injEq] at hv
        obtain ⟨rfl, rfl, rfl⟩ := hv
        have T2 := Lib.hid ((tokAt_new w2 ⟨2, nm, [], [], false⟩ ad len cap 26).below b3 (by simp))
        have D3 := Lib.hid (((Below.refl w2.heap.size w2).alloc (Nat.le_refl _) _).trans (b3.mono (by simp)))
        have lt2 : w2.heap.size < w3.heap.size := by have := b3.size; simp at this; omega
        have B4 := Lib.hid (B3.out.trans (b3.mono B3.out.size))
        have K3 := Lib.hid hr
        have A3 := Lib.hid ((Below.refl w3.heap.size w3).alloc (Nat.le_refl _) (.cells #[.int .i64 zeroT.kind, .string ⟨zeroT.name.toArray⟩, .string ⟨zeroT.text.toArray⟩, .slice ad2 len2 cap2, .bool zeroT.self] 26))
        clear hr b3
        obtain ⟨x0, x1, x2, x3, x4⟩ := (T1.out.below D3.out lt1).below A3.out (Nat.lt_trans lt1 lt2)
        obtain ⟨y0, y1, y2, y3, y4⟩ := T2.out.below A3.out lt2
        simp only at x0 x1 x2 x3 x4 y0 y1 y2 y3 y4
        unfold tokA
        go_wp2_with (fail)
        refine (refSame9_any ⟨2, nm, [], [], false⟩ ⟨2, nm, [], [], false⟩ _ _ _ _ _ _ _ ((K2.out.below D3.out (Nat.le_refl _)).below A3.out (Nat.le_refl _)) (isRows_none _)).mono ?_
        rintro e w4 ⟨rfl, b4⟩
        clear x0 x1 x2 x3 x4 y0 y1 y2 y3 y4
        have T3 := (tokAt_new w3 zeroT ad2 len2 cap2 26).below b4 (by simp)
        have D4 := Lib.hid (A3.out.trans (b4.mono (by simp)))
        have B5 := Lib.hid (B4.out.trans (D4.out.mono B4.out.size))
        obtain ⟨p0, p1, p2, p3, p4⟩ := T3
        go_wp2_with (fail)
        refine (refSame9_any zeroT zeroT _ _ _ _ _ _ _ (K3.out.below D4.out (Nat.le_refl _)) (isRows_none _)).mono ?_
        rintro e w5 ⟨rfl, b5⟩
        go_wp2
        go_ret
        exact ⟨ret_bool (by simp), B5.out.trans (b5.mono B5.out.size)⟩

theorem laid_met (os : Os) : laidMet Tryd.prog Rows.tagWrittenRow.laid ((laidWorld os).forCall (fun _ _ => 0) ⟨#[], #[.slice none 0 0, .bool false, .bool false], []⟩).memory :=
  laidMet_of_run' 8 (by kernel_rfl) (by kernel_rfl)
theorem reads (os : Os) {H : Type} (enc : TypeId × Value → H) : ∃ places, DataW.whole enc Tryd.prog ((laidWorld os).forCall (fun _ _ => 0) ⟨#[], #[.slice none 0 0, .bool false, .bool false], []⟩).memory Tryd.f4.params.toList Rows.tagWrittenSpec.vars false (#[.slice none 0 0, .bool false, .bool false] : Array Value).toList 8 = some ([.nil, .lit (.bool false), .lit (.bool false)], [], places) :=
  ⟨[], by kernel_rfl⟩
set_option maxRecDepth 100000 in
theorem lifted (os : Os) (started : os.Started) (H : Type) (enc : TypeId × Value → H) (F : Stop.Interp) :
    ReturnsInHanded {} Tryd.checked os 4 .any ((OpenSpec.ofChange Rows.tagWrittenSpec).preRow enc Tryd.prog Tryd.f4 Rows.tagWrittenRow.domain false Rows.tagWrittenRow.laid) (((OpenSpec.ofChange Rows.tagWrittenSpec).at F).post enc Tryd.prog Tryd.f4 false true false false) := by
  obtain ⟨places, hx⟩ := reads os enc
  refine returnsInHanded_of_row (C := Tryd.checked) (s := OpenSpec.ofChange Rows.tagWrittenSpec) own started (by kernel_rfl) Tryd.func4
    (witness_row_at (enc := enc) (C := Tryd.checked) false (laidWorld os) #[.slice none 0 0, .bool false, .bool false] rfl (by kernel_rfl) (by kernel_rfl) (by kernel_rfl)
      (OpenSpec.preRow_of_cond 8 hx (by kernel_rfl) (fun k hk => by cases hk) (by kernel_rfl) (laid_met os))) ?_
  intro W base args ds gs before hval0 hW _ _ _ hL _ _
  have hval : ∀ (j : Nat) t v, Tryd.f4.params[j]? = some t → args[j]? = some v → Value.okWide Tryd.prog W .any base t v := hval0
  have hW' := hW
  obtain ⟨p, q, hA0, hV, rfl, hfz, hnd⟩ := hW
  have hA : DataW.TrodAll enc Tryd.prog W 0 (fun _ => true) true Tryd.f4.params.toList args.toList ds p := hA0
  rw [Tryd.params4] at hA hval
  obtain ⟨v0, vs0, d0, ds0, p0, q0, hargs, rfl, rfl, h0, r0⟩ := trodAll_cons hA
  obtain ⟨v1, vs1, d1, ds1, p1, q1, rfl, rfl, rfl, h1, r1⟩ := trodAll_cons r0
  obtain ⟨v2, vs2, d2, ds2, p2, q2, rfl, rfl, rfl, h2, r2⟩ := trodAll_cons r1
  obtain ⟨rfl, rfl, rfl⟩ := trodAll_nil r2
  obtain rfl : args = #[v0, v1, v2] := by cases args; simp_all
  obtain ⟨rfl, rfl⟩ := trodVars_none hV
  obtain ⟨a0, len0, cap0, rfl⟩ := okWide_slice Tryd.underlying32 (hval 0 32 v0 rfl rfl)
  have k0 := h0
  have lt0 : ∀ x ∈ p0, x.block < W.heap.size := by obtain ⟨m, hm⟩ := k0; exact DataW.trod_lt m _ _ _ hm
  obtain ⟨z0, w0⟩ : ∃ zs, IsRow .u8 W a0 len0 cap0 zs := by
    obtain ⟨fuel, hf⟩ := h0
    rcases open_ints Tryd.underlying32 Tryd.underlying5 (by kernel_rfl) hf with ⟨hcs, _⟩ | ⟨x, l, c, zs, hcs, _, hl, hm, hz, _, hcell, hwz⟩
    · simp [Value.cells] at hcs
      obtain ⟨rfl, rfl, rfl⟩ := hcs
      exact ⟨[], .inl ⟨rfl, rfl, rfl, rfl⟩⟩
    · simp [Value.cells] at hcs
      obtain ⟨rfl, rfl, rfl⟩ := hcs
      exact ⟨zs, .inr ⟨_, rfl, hl, hm, by simpa using hz, hcell, hwz⟩⟩
  obtain ⟨a1, rfl, rfl, rfl⟩ := open_bool Tryd.underlying4 (hval 1 4 v1 rfl rfl) h1
  obtain ⟨a2, rfl, rfl, rfl⟩ := open_bool Tryd.underlying4 (hval 2 4 v2 rfl rfl) h2
  clear hA0 hval0
  refine (walk a0 len0 cap0 z0 a1 a2 W (tabAt_of hL) w0).mono fun e W' ⟨he, bel⟩ => ?_
  subst he
  exact ⟨_, rfl, _, _, _, [], _, [], hW', trodAll_mk1 (shut_bool Tryd.underlying4 _), (trodAll_cons_mk (Below.trod laidOut (by kernel_rfl) (of_decide_eq_true (by kernel_rfl)) k0 bel lt0) (trodAll_cons_mk (shut_bool Tryd.underlying4 _) (trodAll_cons_mk (shut_bool Tryd.underlying4 _) trodAll_mk0))), rfl, bel.frame _, fun h => by cases h⟩

theorem said : Rows.TagWrittenSaid :=
  OpenClaim.holds_of_cond 4 Tryd.f4 rfl rfl rfl rfl rfl rfl rfl ⟨rfl, rfl, rfl, rfl, rfl⟩ rfl rfl rfl rfl rfl (by kernel_rfl) Tryd.func4 (by kernel_rfl)
    (of_decide_eq_true (by kernel_rfl)) (by unfold Func.isWrapper; first | (rw [if_pos (by decide +kernel)]; kernel_rfl) | (rw [if_neg (by decide +kernel)]; exact ⟨rfl, rfl⟩))
    (fun os started H enc _ F => by rw [OpenClaim.pre_eq_preRow]; exact lifted os started H enc F)
theorem plain (f : FuncId) (fn : Func) (hf : Tryd.pinned.checked.prog.funcNamed "flail/flaillaw09.TagWritten" = some f) (hfn : Tryd.pinned.checked.prog.funcs[f]? = some fn) :
    true = Tryd.pinned.checked.prog.looks [] ∧ ∀ (j : Nat) t, fn.params[j]? = some t → Tryd.pinned.checked.prog.wantsStandIn t = false := by
  obtain rfl : f = 4 := Option.some.inj ((show Tryd.prog.funcNamed "flail/flaillaw09.TagWritten" = some 4 by kernel_rfl).symm.trans hf) |>.symm
  obtain rfl : fn = Tryd.f4 := (Option.some.inj (Tryd.func4.symm.trans hfn)).symm
  refine ⟨by kernel_rfl, fun j t ht => ?_⟩
  rw [Tryd.params4] at ht
  have hm : t ∈ [32, 4] := by simpa using Array.mem_of_getElem? ht
  have hall : ([32, 4].all fun u => !Tryd.prog.wantsStandIn u) = true := by kernel_rfl
  exact (show Tryd.prog.wantsStandIn t = false by simpa using List.all_eq_true.1 hall t hm)
/-- the statement: the row's card -/
theorem proved : Rows.TagWrittenCardSaid :=
  Claim7.holds_tied_plain_at .later [] _ _ _ _ said (fun _ h => by cases h) (by kernel_rfl) (fun _ h => by cases h) tagWritten_row_tie rfl ⟨rfl, rfl⟩ (by kernel_rfl) rfl plain (by kernel_rfl)
end Go.Proofs.YtdgebenkhcaijaaDoor.tagWritten
