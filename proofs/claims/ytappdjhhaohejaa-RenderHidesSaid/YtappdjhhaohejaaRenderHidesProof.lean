/-
  The law RenderHides of flail/flaillaw19 answers true for every input, and changes nothing that was there. No condition.
-/
import Derived.Test.YtappdjhhaohejaaRows
import Derived.Test.YtappdjhhaohejaaRenAwake
import Derived.Test.YtappdjhhaohejaaTkFew
import Derived.Test.YtappdjhhaohejaaTkArg
import Derived.WalkKit
import Derived.ProofKit
import Derived.OpenShut
import Derived.ShutString
import Derived.ChangeOld
import Derived.Below
namespace Go.Proofs.Ytappdjhhaohejaa.renderHides
open Go.ChangeShapes Go.WideShapes Go.ChangeAt Go.RowKit
open Go.ChangeMaps (open_string shut_string)
set_option linter.unusedVariables false

theorem own : ownKnob Try.prog.godebug = none := by kernel_rfl
theorem laidOut : laidOutB Try.prog = true := by kernel_rfl

def hidLit : Array Value := #[.string ⟨#[104, 101, 97, 100]⟩, .string ⟨#[105, 102, 114, 97, 109, 101]⟩, .string ⟨#[110, 111, 101, 109, 98, 101, 100]⟩, .string ⟨#[110, 111, 102, 114, 97, 109, 101, 115]⟩, .string ⟨#[110, 111, 115, 99, 114, 105, 112, 116]⟩, .string ⟨#[115, 99, 114, 105, 112, 116]⟩, .string ⟨#[115, 116, 121, 108, 101]⟩, .string ⟨#[116, 101, 109, 112, 108, 97, 116, 101]⟩, .string ⟨#[116, 105, 116, 108, 101]⟩]
theorem hid_lit : hidLit = (hidL.map fun n => Value.string ⟨n.toArray⟩).toArray := by rfl
theorem hid_cell (i : Nat) (h : i < hidL.length) : hidLit[i]? = some (.string ⟨hidL[i].toArray⟩) := by
  rw [hid_lit, List.getElem?_toArray, List.getElem?_map, List.getElem?_eq_getElem h]; rfl
theorem hid_all : ∀ n ∈ hidL, hidN n = true ∧ n ≠ bodyL := by decide +kernel
/-- what may stand within -/
def innP (nm : Txt) (t : TokP) : Bool := decide (t.name ≠ nm) && !(decide (t.kind = 1) && decide (t.name = bodyL))
theorem inn_step (nm : Txt) (l : List TokP) (i : Nat) (h : i < l.length) : (l.take (i + 1)).filter (innP nm) = (l.take i).filter (innP nm) ++ (if innP nm l[i] = true then [l[i]] else []) := by
  rw [List.take_succ_eq_append_getElem h, List.filter_append, List.filter_cons, List.filter_nil]
theorem hides_step (l : List TokP) (i : Nat) (h : i < l.length) : hidesN (l.take (i + 1)) = hidesN (l.take i) + oneIf (decide (l[i].kind = 1) && hidN l[i].name) := by
  unfold hidesN oneIf
  rw [List.take_succ_eq_append_getElem h, List.filter_append, List.length_append, List.filter_cons, List.filter_nil]
  split <;> simp
theorem hides_le (l : List TokP) : hidesN l ≤ l.length := List.length_filter_le _ _
/-- one bare token, as an append reads it -/
theorem src_one (w : World) (q : TkV) : Src Try.prog 5 22 (.slice (some ⟨w.heap.size, 0, none⟩) 1 1) 1 (cellsT [q]) (w.alloc (.cells q.five.toArray 29)) :=
  Src.ofSlice _ Try.underlying22 ⟨w.heap.size, 0, none⟩ 1 1 (cellsT [q]) rfl (new_five w q 29) (five_one _)
theorem made_alloc {w0 w : World} {S : Own} (h : Made w0 w S) (hS : Lies S) (o : Obj) : Made w0 (w.alloc o) S := h.below hS ((Below.refl _ w).alloc (Nat.le_refl _) o)
theorem fewJ {b : Bool} {len : Nat} {L : List TokP} (h : b = true → len ≤ 60 ∧ ∀ t ∈ L, t.text.length ≤ 200) (hb : b = true) : len ≤ 60 ∧ ∀ t ∈ L, t.text.length ≤ 65536 := ⟨(h hb).1, fun t ht => Nat.le_trans ((h hb).2 t ht) (by decide)⟩
set_option maxRecDepth 100000 in
set_option maxHeartbeats 8000000 in
theorem walk (a0 : Option Addr) (len0 cap0 : Nat) (l0 : List TokP) (a1 : Option Addr) (len1 cap1 : Nat) (l1 : List TokP) (a2 : Option Addr) (len2 cap2 : Nat) (l2 : List TokP) (a3 : Int) (w : World) (w0 : IsToks w a0 len0 cap0 l0) (w1 : IsToks w a1 len1 cap1 l1) (w2 : IsToks w a2 len2 cap2 l2) (w3 : (Lit.int .u8 a3).wf = true) :
    Calls Try.prog 5 #[.slice a0 len0 cap0, .slice a1 len1 cap1, .slice a2 len2 cap2, .int .u8 a3] w fun e w' => e = .returned (.bool true) ∧ Below w.heap.size w w' := by
  have hb3 : 0 ≤ a3 ∧ a3 ≤ 255 := by simpa [Lit.wf, IntKind.min, IntKind.max, IntKind.signed, IntKind.bits] using w3
  obtain ⟨hb30, hb31⟩ := hb3
  have hHT := (ren_here w)
  have HW := Lib.hid hHT
  clear hHT
  skip
  have HL0 := Lib.hid w0
  have hll0 := w0.1
  have hlc0 := w0.2.1
  have hm0 := w0.2.2.1
  have HL1 := Lib.hid w1
  have hll1 := w1.1
  have hlc1 := w1.2.1
  have hm1 := w1.2.2.1
  have HL2 := Lib.hid w2
  have hll2 := w2.1
  have hlc2 := w2.2.1
  have hm2 := w2.2.2.1
  unfold maxLen at hm0 hm1 hm2
  clear w0 w1 w2 w3
  obtain ⟨R, hR⟩ : ∃ R : Nat, a3 % 9 = (R : Int) := ⟨(a3 % 9).toNat, by omega⟩
  have hR2 : R < 9 := by omega
  have hRT : R < hidL.length := hR2
  have hcell0 := hid_cell R hRT
  obtain ⟨hh1, hh2⟩ := hid_all _ (List.getElem_mem hRT)
  obtain ⟨nmm, hnm⟩ : ∃ nm, hidL[R] = nm := ⟨_, rfl⟩
  rw [hnm] at hcell0 hh1 hh2
  obtain ⟨N, hN⟩ : ∃ N : ByteArray, (⟨nmm.toArray⟩ : ByteArray) = N := ⟨_, rfl⟩
  have hN2 : N.data.toList = nmm := by rw [← hN, List.toList_toArray]
  rw [hN] at hcell0
  have HNM := Lib.hid hN
  have HN2 := Lib.hid hN2
  have HH1 := Lib.hid hh1
  have HH2 := Lib.hid hh2
  obtain ⟨hlt', hget⟩ := List.getElem?_eq_some_iff.1 (show ([.string ⟨#[104, 101, 97, 100]⟩, .string ⟨#[105, 102, 114, 97, 109, 101]⟩, .string ⟨#[110, 111, 101, 109, 98, 101, 100]⟩, .string ⟨#[110, 111, 102, 114, 97, 109, 101, 115]⟩, .string ⟨#[110, 111, 115, 99, 114, 105, 112, 116]⟩, .string ⟨#[115, 99, 114, 105, 112, 116]⟩, .string ⟨#[115, 116, 121, 108, 101]⟩, .string ⟨#[116, 101, 109, 112, 108, 97, 116, 101]⟩, .string ⟨#[116, 105, 116, 108, 101]⟩] : List Value)[R]? = some (.string N) from by rw [← hcell0, ← Array.getElem?_toList]; rfl)
  clear hcell0 hnm hN hN2 hRT hh1 hh2
  go_enter Try.func5, Try.ntmps5
  go_wp2_with (fail)
  refine (renAwake_any w HW.out).mono ?_
  rintro e w4 ⟨rfl, c1⟩
  have B4 := Lib.hid c1
  clear c1
  go_wp2_with (fail)
  refine (refFew15_any a0 len0 cap0 l0 w4 (HL0.out.below B4.out (Nat.le_refl _))).mono ?_
  rintro e w5 ⟨⟨few0, rfl, hfew0⟩, c5⟩
  have B5 := Lib.hid (B4.out.trans (c5.mono B4.out.size))
  have HF0 := Lib.hid hfew0
  clear c5 hfew0
  go_wp2_with (fail)
  refine (refFew15_any a1 len1 cap1 l1 w5 (HL1.out.below B5.out (Nat.le_refl _))).mono ?_
  rintro e w6 ⟨⟨few1, rfl, hfew1⟩, c6⟩
  have B6 := Lib.hid (B5.out.trans (c6.mono B5.out.size))
  have HF1 := Lib.hid hfew1
  clear c6 hfew1
  go_wp2_with (fail)
  refine (refFew15_any a2 len2 cap2 l2 w6 (HL2.out.below B6.out (Nat.le_refl _))).mono ?_
  rintro e w7 ⟨⟨few2, rfl, hfew2⟩, c7⟩
  have B7 := Lib.hid (B6.out.trans (c7.mono B6.out.size))
  have HF2 := Lib.hid hfew2
  clear c7 hfew2
  by_cases hfew : few0 = true ∧ few1 = true ∧ few2 = true
  case neg =>
    have HB := Lib.hid B7.out
    clear hget hR
    cases few0 <;> cases few1 <;> cases few2
    all_goals first
      | (exact absurd ⟨rfl, rfl, rfl⟩ hfew)
      | (clear hfew
         go_wp2
         go_ret
         exact ⟨rfl, HB.out⟩)
  obtain ⟨rfl, rfl, rfl⟩ := hfew
  obtain ⟨h60a, hta⟩ := fewJ HF0.out rfl
  obtain ⟨h60b, htb⟩ := fewJ HF1.out rfl
  obtain ⟨h60c, htc⟩ := fewJ HF2.out rfl
  have HTA := Lib.hid hta
  have HTB := Lib.hid htb
  have HTC := Lib.hid htc
  have B8 := Lib.hid (B7.out.alloc B7.out.size (.cells #[.string ⟨#[104, 101, 97, 100]⟩, .string ⟨#[105, 102, 114, 97, 109, 101]⟩, .string ⟨#[110, 111, 101, 109, 98, 101, 100]⟩, .string ⟨#[110, 111, 102, 114, 97, 109, 101, 115]⟩, .string ⟨#[110, 111, 115, 99, 114, 105, 112, 116]⟩, .string ⟨#[115, 99, 114, 105, 112, 116]⟩, .string ⟨#[115, 116, 121, 108, 101]⟩, .string ⟨#[116, 101, 109, 112, 108, 97, 116, 101]⟩, .string ⟨#[116, 105, 116, 108, 101]⟩] 9))
  have M8 := Lib.hid (tokO_nil (Made.none B8.out) Lies.emp)
  clear hta htb htc HF0 HF1 HF2
  go_wp2
  clear hget hR hlt' hR2
  obtain ⟨w8, hw8⟩ : ∃ w8, w7.alloc (.cells #[.string ⟨#[104, 101, 97, 100]⟩, .string ⟨#[105, 102, 114, 97, 109, 101]⟩, .string ⟨#[110, 111, 101, 109, 98, 101, 100]⟩, .string ⟨#[110, 111, 102, 114, 97, 109, 101, 115]⟩, .string ⟨#[110, 111, 115, 99, 114, 105, 112, 116]⟩, .string ⟨#[115, 99, 114, 105, 112, 116]⟩, .string ⟨#[115, 116, 121, 108, 101]⟩, .string ⟨#[116, 101, 109, 112, 108, 97, 116, 101]⟩, .string ⟨#[116, 105, 116, 108, 101]⟩] 9) = w8 := ⟨_, rfl⟩
  rw [hw8] at M8 ⊢
  clear hw8 B8
  go_loopw [15, 16] (fun v15 v16 wr => ∃ i : Nat, v16 = .int .i64 (i : Int) ∧ i ≤ len1 ∧ Hid (Made w wr (Sep (TokO v15 ((l1.take i).filter (innP nmm))) Emp))) (fun _ v _ => len1 - (intOf v).toNat)
  case atStart => exact ⟨0, rfl, Nat.zero_le _, M8⟩
  case round =>
    obtain ⟨i, rfl, hi, HM⟩ := hrel
    by_cases hlt : i < len1
    · have hiT : i < l1.length := by omega
      obtain ⟨x, ad, ln, cp, rfl, xc, -⟩ := HL1.out.2.2.2 i hiT
      obtain ⟨x0, x1, x2, x3, x4⟩ := (xc.below HM.out.bel (Nat.le_refl _)).asked
      simp only at x0 x1 x2 x3 x4
      have hst := inn_step nmm l1 i hiT
      have hpl : ((l1.take i).filter (innP nmm)).length ≤ i := Nat.le_trans (List.length_filter_le _ _) (by rw [List.length_take]; omega)
      obtain ⟨t, ht⟩ : ∃ t, l1[i] = t := ⟨_, rfl⟩
      rw [ht] at x0 x1 x2 x4 hst
      obtain ⟨P0, hP0⟩ : ∃ P0, (l1.take i).filter (innP nmm) = P0 := ⟨_, rfl⟩
      rw [hP0] at hst hpl HM
      obtain ⟨P1, hP1⟩ : ∃ P1, (l1.take (i + 1)).filter (innP nmm) = P1 := ⟨_, rfl⟩
      rw [hP1] at hst
      have HP1 := Lib.hid hP1
      have HST := Lib.hid hst
      obtain ⟨nm, hnm⟩ : ∃ nm : ByteArray, (⟨t.name.toArray⟩ : ByteArray) = nm := ⟨_, rfl⟩
      have hnm2 : nm.data.toList = t.name := by rw [← hnm, List.toList_toArray]
      obtain ⟨X, hX⟩ : ∃ X : ByteArray, (⟨t.text.toArray⟩ : ByteArray) = X := ⟨_, rfl⟩
      obtain ⟨K, hK⟩ : ∃ K, t.kind = K := ⟨_, rfl⟩
      obtain ⟨sf, hsf⟩ : ∃ b, t.self = b := ⟨_, rfl⟩
      rw [hnm] at x1
      rw [hX] at x2
      rw [hK] at x0
      rw [hsf] at x4
      have hq1 : (nm.toList == N.toList) = decide (t.name = nmm) := by rw [str_beq, hnm2, HN2.out]
      have hq2 : (nm.toList == [98, 111, 100, 121]) = decide (t.name = bodyL) := by
        rw [ByteArray.toList_eq, hnm2]
        exact Bool.eq_iff_iff.2 (by rw [beq_iff_eq, decide_eq_true_iff]; exact Iff.rfl)
      have hfive : (TkV.five ⟨t, ad, ln, cp⟩).toArray = #[.int .i64 K, .string nm, .string X, .slice ad ln cp, .bool sf] := by
        unfold TkV.five
        simp only
        rw [hK, hnm, hX, hsf]
      have hin : innP nmm t = (!(nm.toList == N.toList) && !((K == 1) && (nm.toList == [98, 111, 100, 121]))) := by
        unfold innP
        rw [hq1, hq2, hK, decide_not]
        congr 2
        try (rw [Bool.eq_iff_iff]; simp)
      have HIN := Lib.hid hin
      obtain ⟨e1, he1⟩ : ∃ e1, (nm.toList == N.toList) = e1 := ⟨_, rfl⟩
      obtain ⟨e2, he2⟩ : ∃ e2, (nm.toList == [98, 111, 100, 121]) = e2 := ⟨_, rfl⟩
      obtain ⟨e3, he3⟩ : ∃ e3, (K == 1) = e3 := ⟨_, rfl⟩
      rw [he1, he2, he3] at HIN
      have he1' : (nm.toList != N.toList) = !e1 := by rw [bne, he1]
      obtain ⟨w5, hw5⟩ : ∃ w5, wr.alloc (.cells #[.int .i64 K, .string nm, .string X, .slice ad ln cp, .bool sf] 29) = w5 := ⟨_, rfl⟩
      have M5 := Lib.hid (show Made w w5 (Sep (TokO u15 P0) Emp) by rw [← hw5]; exact made_alloc HM.out ((tokO_lies u15 P0).sep Lies.emp) _)
      have M6 := Lib.hid (made_alloc M5.out ((tokO_lies u15 P0).sep Lies.emp) (.cells (TkV.five ⟨t, ad, ln, cp⟩).toArray 29))
      have S6 := Lib.hid (src_one w5 ⟨t, ad, ln, cp⟩)
      rw [hfive] at M6 S6
      have hz5 : wr.heap.size + 1 = w5.heap.size := by rw [← hw5]; simp
      have HW5 := Lib.hid hw5
      clear ht hP0 hP1 hst hnm hnm2 hX hK hsf hq1 hq2 hfive hin xc hw5
      cases e1
      · cases e3
        · have HPP := Lib.hid (show P0 ++ [(⟨t, ad, ln, cp⟩ : TkV)].map TkV.t = P1 by rw [HST.out, HIN.out]; rfl)
          go_wp2_with (first
            | (rw [HW5.out]; at_builtin; refine wpList_append_tokO (by first | rfl | (simp [Region.wanted, yielded]; done)) _ _ rfl u15 P0 Emp Lies.emp rfl M6.out _ 1 _ rfl S6.out (by (try simp); omega) ?_; intro v7 w7 m7)
            | (at_builtin; refine wpList_append_tokO (by first | rfl | (simp [Region.wanted, yielded]; done)) _ _ rfl u15 P0 Emp Lies.emp rfl M6.out _ 1 _ rfl S6.out (by (try simp); omega) ?_; intro v7 w7 m7))
          have M7 := Lib.hid (show Made w w7 (Sep (TokO v7 P1) Emp) by rw [← HPP.out]; exact m7)
          clear m7
          go_wp2
          go_roundw
          case rel => exact ⟨i + 1, by go_num, by omega, Lib.hid (by rw [HP1.out]; exact M7.out)⟩
          case measure => simp [intOf]; omega
        · cases e2
          · have HPP := Lib.hid (show P0 ++ [(⟨t, ad, ln, cp⟩ : TkV)].map TkV.t = P1 by rw [HST.out, HIN.out]; rfl)
            go_wp2_with (first
              | (rw [HW5.out]; at_builtin; refine wpList_append_tokO (by first | rfl | (simp [Region.wanted, yielded]; done)) _ _ rfl u15 P0 Emp Lies.emp rfl M6.out _ 1 _ rfl S6.out (by (try simp); omega) ?_; intro v7 w7 m7)
              | (at_builtin; refine wpList_append_tokO (by first | rfl | (simp [Region.wanted, yielded]; done)) _ _ rfl u15 P0 Emp Lies.emp rfl M6.out _ 1 _ rfl S6.out (by (try simp); omega) ?_; intro v7 w7 m7))
            have M7 := Lib.hid (show Made w w7 (Sep (TokO v7 P1) Emp) by rw [← HPP.out]; exact m7)
            clear m7
            go_wp2
            go_roundw
            case rel => exact ⟨i + 1, by go_num, by omega, Lib.hid (by rw [HP1.out]; exact M7.out)⟩
            case measure => simp [intOf]; omega
          · have HPP := Lib.hid (show P0 = P1 by rw [HST.out, HIN.out]; exact (List.append_nil _).symm)
            go_wp2
            rw [HW5.out]
            go_roundw
            case rel => exact ⟨i + 1, by go_num, by omega, Lib.hid (by rw [HP1.out, ← HPP.out]; exact M5.out)⟩
            case measure => simp [intOf]; omega
      · have HPP := Lib.hid (show P0 = P1 by rw [HST.out, HIN.out]; exact (List.append_nil _).symm)
        go_wp2
        rw [HW5.out]
        go_roundw
        case rel => exact ⟨i + 1, by go_num, by omega, Lib.hid (by rw [HP1.out, ← HPP.out]; exact M5.out)⟩
        case measure => simp [intOf]; omega
    · obtain rfl : i = len1 := by omega
      have e1 : l1.take i = l1 := List.take_of_length_le (by omega)
      rw [e1] at HM
      obtain ⟨I, hI⟩ : ∃ I, l1.filter (innP nmm) = I := ⟨_, rfl⟩
      rw [hI] at HM
      have hIl : I.length ≤ 60 := by rw [← hI]; exact Nat.le_trans (List.length_filter_le _ _) (by omega)
      have HI := Lib.hid hI
      have HIx := Lib.hid (show ∀ t ∈ I, t.text.length ≤ 65536 from fun t ht => by rw [← hI] at ht; exact HTB.out t (List.mem_filter.1 ht).1)
      obtain ⟨ai, ci, hvi, -⟩ := tokO_is HM.out
      obtain ⟨nI, hnI⟩ : ∃ n, I.length = n := ⟨_, rfl⟩
      rw [hnI] at hvi hIl
      subst hvi
      have HNI := Lib.hid hnI
      have HBI := Lib.hid (show ∀ (u : World) (v : Value) (L : List TokP), Made w u (Sep (TokO v L) (Sep (TokO (.slice ai nI ci) I) Emp)) → IsBare u ai nI ci I from fun u v L h => by
        obtain ⟨a', c', hv', hb'⟩ := tokO_is (h.imp (Imp.turn _ _ _))
        rw [hnI] at hv' hb'
        simp only [Value.slice.injEq] at hv'
        obtain ⟨rfl, -, rfl⟩ := hv'
        exact hb')
      have hRL : Lies (Sep (TokO (.slice ai nI ci) I) Emp) := (tokO_lies _ _).sep Lies.emp
      have MA1 := Lib.hid (tokO_empty HM.out hRL)
      obtain ⟨QA, hqa, sa⟩ := isBare_src (HL0.out.bare.below MA1.out.bel (Nat.le_refl _))
      have hqal : QA.length = len0 := by rw [← hll0, ← hqa, List.length_map]
      have SA1 := Lib.hid sa
      have HQA := Lib.hid hqa
      obtain ⟨uq, huq⟩ : ∃ uq : TkV, uq = ⟨⟨1, nmm, [], [], false⟩, none, 0, 0⟩ := ⟨_, rfl⟩
      obtain ⟨vq, hvq⟩ : ∃ vq : TkV, vq = ⟨⟨2, nmm, [], [], false⟩, none, 0, 0⟩ := ⟨_, rfl⟩
      have HU5 := Lib.hid (show uq.five.toArray = #[.int .i64 1, .string N, .string ⟨#[]⟩, .slice none 0 0, .bool false] by rw [huq, ← HNM.out]; rfl)
      have HV5 := Lib.hid (show vq.five.toArray = #[.int .i64 2, .string N, .string ⟨#[]⟩, .slice none 0 0, .bool false] by rw [hvq, ← HNM.out]; rfl)
      have HUT := Lib.hid (show uq.t = ⟨1, nmm, [], [], false⟩ by rw [huq])
      have HVT := Lib.hid (show vq.t = ⟨2, nmm, [], [], false⟩ by rw [hvq])
      clear hI hnI sa hqa huq hvq e1
      go_wp2_with (first
        | (at_builtin; refine wpList_append_tokO (by first | rfl | (simp [Region.wanted, yielded]; done)) _ _ rfl _ [] _ hRL rfl MA1.out _ len0 QA rfl SA1.out (by (try simp); omega) ?_
           intro v1 y1 m1
           have m1' : Made w y1 (Sep (TokO v1 l0) (Sep (TokO (.slice ai nI ci) I) Emp)) := by rw [← HQA.out]; exact m1
           have MA2 := Lib.hid (made_alloc m1' ((tokO_lies _ _).sep hRL) (.cells uq.five.toArray 29))
           have SA2 := Lib.hid (src_one y1 uq)
           rw [HU5.out] at MA2 SA2
           clear m1 m1')
        | (at_builtin; refine wpList_append_tokO (by first | rfl | (simp [Region.wanted, yielded]; done)) _ _ rfl v1 l0 _ hRL rfl MA2.out _ 1 [uq] rfl SA2.out (by (try simp); omega) ?_
           intro v2 y2 m2
           have MA3 := Lib.hid (show Made w y2 (Sep (TokO v2 (l0 ++ [uq.t])) (Sep (TokO (.slice ai nI ci) I) Emp)) from m2)
           obtain ⟨QI, hqi, si⟩ := isBare_src (HBI.out _ _ _ m2)
           have hqil : QI.length = nI := by rw [← HNI.out, ← hqi, List.length_map]
           have SA3 := Lib.hid si
           have HQI := Lib.hid hqi
           clear m2 si hqi)
        | (at_builtin; refine wpList_append_tokO (by first | rfl | (simp [Region.wanted, yielded]; done)) _ _ rfl v2 (l0 ++ [uq.t]) _ hRL rfl MA3.out _ nI QI rfl SA3.out (by (try simp); omega) ?_
           intro v3 y3 m3
           have m3' : Made w y3 (Sep (TokO v3 (l0 ++ [uq.t] ++ I)) (Sep (TokO (.slice ai nI ci) I) Emp)) := by rw [← HQI.out]; rw [HQI.out]; rw [HQI.out] at m3; exact m3
           have MA4 := Lib.hid (made_alloc m3' ((tokO_lies _ _).sep hRL) (.cells vq.five.toArray 29))
           have SA4 := Lib.hid (src_one y3 vq)
           rw [HV5.out] at MA4 SA4
           clear m3 m3')
        | (at_builtin; refine wpList_append_tokO (by first | rfl | (simp [Region.wanted, yielded]; done)) _ _ rfl v3 (l0 ++ [uq.t] ++ I) _ hRL rfl MA4.out _ 1 [vq] rfl SA4.out (by have := HNI.out; simp; omega) ?_
           intro v4 y4 m4
           have MA5 := Lib.hid (show Made w y4 (Sep (TokO v4 (l0 ++ [uq.t] ++ I ++ [vq.t])) (Sep (TokO (.slice ai nI ci) I) Emp)) from m4)
           obtain ⟨QC, hqc, sc⟩ := isBare_src (HL2.out.bare.below m4.bel (Nat.le_refl _))
           have hqcl : QC.length = len2 := by rw [← hll2, ← hqc, List.length_map]
           have SA5 := Lib.hid sc
           have HQC := Lib.hid hqc
           clear m4 sc hqc)
        | (at_builtin; refine wpList_append_tokO (by first | rfl | (simp [Region.wanted, yielded]; done)) _ _ rfl v4 (l0 ++ [uq.t] ++ I ++ [vq.t]) _ hRL rfl MA5.out _ len2 QC rfl SA5.out (by have := HNI.out; simp; omega) ?_
           intro v5 y5 m5
           have MA6 := Lib.hid (show Made w y5 (Sep (TokO v5 (l0 ++ [uq.t] ++ I ++ [vq.t] ++ l2)) (Sep (TokO (.slice ai nI ci) I) Emp)) by rw [← HQC.out]; exact m5)
           clear m5))
      obtain ⟨ALL, hALL⟩ : ∃ ALL, l0 ++ [uq.t] ++ I ++ [vq.t] ++ l2 = ALL := ⟨_, rfl⟩
      rw [hALL] at MA6
      have HALL := Lib.hid hALL
      have hal : ALL.length ≤ 200 := by have := HNI.out; rw [← hALL]; simp; omega
      have hS6 : Lies (Sep (TokO v5 ALL) (Sep (TokO (.slice ai nI ci) I) Emp)) := (tokO_lies _ _).sep hRL
      clear hALL MA5 MA4 MA3 MA2 MA1 SA1 SA2 SA3 SA4 SA5
      go_loopw [19, 20] (fun v19 v20 wr => ∃ i : Nat, v20 = .int .i64 (i : Int) ∧ v19 = .int .i64 (hidesN (l0.take i) : Int) ∧ i ≤ len0 ∧ Hid (Made w wr (Sep (TokO v5 ALL) (Sep (TokO (.slice ai nI ci) I) Emp)))) (fun _ v _ => len0 - (intOf v).toNat)
      case atStart => exact ⟨0, rfl, rfl, Nat.zero_le _, MA6⟩
      case round =>
        obtain ⟨j, rfl, rfl, hj, HMj⟩ := hrel
        by_cases hlt2 : j < len0
        · have hjT : j < l0.length := by omega
          obtain ⟨x, ad, ln, cp, rfl, xc, -⟩ := HL0.out.2.2.2 j hjT
          obtain ⟨x0, x1, -, -, -⟩ := (xc.below HMj.out.bel (Nat.le_refl _)).asked
          simp only at x0 x1
          have hst := hides_step l0 j hjT
          have hole := hides_le (l0.take j)
          rw [List.length_take] at hole
          obtain ⟨t, ht⟩ : ∃ t, l0[j] = t := ⟨_, rfl⟩
          rw [ht] at x0 x1 hst
          obtain ⟨nm, hnm⟩ : ∃ nm : ByteArray, (⟨t.name.toArray⟩ : ByteArray) = nm := ⟨_, rfl⟩
          have hnm2 : nm.data.toList = t.name := by rw [← hnm, List.toList_toArray]
          obtain ⟨K, hK⟩ : ∃ K, t.kind = K := ⟨_, rfl⟩
          rw [hnm] at x1
          rw [hK] at x0 hst
          have CH := fun w h => Lib.hid (kHides_any nm w h)
          rw [hnm2] at CH
          obtain ⟨hh, hhh⟩ : ∃ hh, hidN t.name = hh := ⟨_, rfl⟩
          rw [hhh] at CH hst
          obtain ⟨C, hC⟩ : ∃ C, hidesN (l0.take j) = C := ⟨_, rfl⟩
          rw [hC] at hst hole ⊢
          have HST := Lib.hid hst
          clear ht hnm hnm2 hK hhh hC hst xc
          by_cases hk1 : K = 1
          · subst hk1
            go_wp2_with (fail)
            refine (CH _ (RenLaid.knd (HW.out.below HMj.out.bel))).out.mono ?_
            rintro e z1 ⟨rfl, cz⟩
            have MZ := Lib.hid (HMj.out.below hS6 cz)
            clear cz
            cases hh
            · have HE : Hid (hidesN (l0.take (j + 1)) = C) := Lib.hid (by rw [HST.out]; rfl)
              go_wp2
              go_roundw
              case rel => exact ⟨j + 1, by go_num, by rw [HE.out], by omega, MZ⟩
              case measure => simp [intOf]; omega
            · have HE : Hid (hidesN (l0.take (j + 1)) = C + 1) := Lib.hid (by rw [HST.out]; rfl)
              go_wp2
              go_roundw
              case rel => exact ⟨j + 1, by go_num, by rw [HE.out]; rfl, by omega, MZ⟩
              case measure => simp [intOf]; omega
          · have bk1 : (K == 1) = false := beq_eq_false_iff_ne.2 hk1
            have HE : Hid (hidesN (l0.take (j + 1)) = C) := Lib.hid (by rw [HST.out, decide_eq_false hk1]; rfl)
            clear hk1
            go_wp2
            go_roundw
            case rel => exact ⟨j + 1, by go_num, by rw [HE.out], by omega, HMj⟩
            case measure => simp [intOf]; omega
        · obtain rfl : j = len0 := by omega
          have e2 : l0.take j = l0 := List.take_of_length_le (by omega)
          rw [e2]
          obtain ⟨O, hO⟩ : ∃ O, hidesN l0 = O := ⟨_, rfl⟩
          have HO := Lib.hid hO
          rw [hO]
          clear hO e2
          go_wp2
          go_loopw [21] (fun v21 wr => ∃ i : Nat, v21 = .int .i64 (i : Int) ∧ i ≤ nI ∧ Hid (Made w wr (Sep (TokO v5 ALL) (Sep (TokO (.slice ai nI ci) I) Emp))) ∧ Hid (O = 0 ∨ ∀ k (h : k < I.length), k < i → ¬ (I[k].kind = 2 ∧ hidN I[k].name = true))) (fun v _ => nI - (intOf v).toNat)
          case atStart => exact ⟨0, rfl, Nat.zero_le _, HMj, Lib.hid (.inr fun k _ h => absurd h (by omega))⟩
          case round =>
            obtain ⟨k, rfl, hk, HMk, HF⟩ := hrel
            by_cases hlt3 : k < nI
            · have hkT : k < I.length := by have := HNI.out; omega
              obtain ⟨x9, ad9, ln9, cp9, hx9, xc9⟩ := (HBI.out _ _ _ HMk.out).2.2.2 k hkT
              subst hx9
              obtain ⟨x0, x1, -, -, -⟩ := xc9.asked
              simp only at x0 x1
              obtain ⟨t, ht⟩ : ∃ t, I[k] = t := ⟨_, rfl⟩
              rw [ht] at x0 x1
              have HTK := Lib.hid ht
              obtain ⟨nm, hnm⟩ : ∃ nm : ByteArray, (⟨t.name.toArray⟩ : ByteArray) = nm := ⟨_, rfl⟩
              have hnm2 : nm.data.toList = t.name := by rw [← hnm, List.toList_toArray]
              obtain ⟨K, hK⟩ : ∃ K, t.kind = K := ⟨_, rfl⟩
              rw [hnm] at x1
              rw [hK] at x0
              have CH := fun w h => Lib.hid (kHides_any nm w h)
              rw [hnm2] at CH
              obtain ⟨hh, hhh⟩ : ∃ hh, hidN t.name = hh := ⟨_, rfl⟩
              rw [hhh] at CH
              have HNX := Lib.hid (show ¬ (K = 2 ∧ hh = true) → O = 0 ∨ ∀ q (h : q < I.length), q < k + 1 → ¬ (I[q].kind = 2 ∧ hidN I[q].name = true) from fun hno => by
                rcases HF.out with h0 | h0
                · exact .inl h0
                · refine .inr fun q hq hqk => ?_
                  rcases Nat.lt_or_eq_of_le (Nat.le_of_lt_succ hqk) with h1 | rfl
                  · exact h0 q hq h1
                  · rw [HTK.out, hK, hhh]; exact hno)
              have HN0 := Lib.hid (show O = 0 → O = 0 ∨ ∀ q (h : q < I.length), q < k + 1 → ¬ (I[q].kind = 2 ∧ hidN I[q].name = true) from .inl)
              clear ht hnm hnm2 hK hhh xc9
              by_cases hk2 : K = 2
              · subst hk2
                go_wp2_with (fail)
                refine (CH _ (RenLaid.knd (HW.out.below HMk.out.bel))).out.mono ?_
                rintro e z1 ⟨rfl, cz⟩
                have MZ := Lib.hid (HMk.out.below hS6 cz)
                clear cz
                cases hh
                · have HE := Lib.hid (HNX.out (by simp))
                  go_wp2
                  go_roundw
                  case rel => exact ⟨k + 1, by go_num, by omega, MZ, HE⟩
                  case measure => simp [intOf]; omega
                · by_cases hO0 : O = 0
                  · have HE := Lib.hid (HN0.out hO0)
                    have dO : decide ((0 : Int) < (O : Int)) = false := decide_eq_false (by omega)
                    have hOn : ¬ 0 < O := by omega
                    have dO2 : decide (0 < O) = false := decide_eq_false hOn
                    clear hO0
                    go_wp2
                    go_roundw
                    case rel => exact ⟨k + 1, by go_num, by omega, MZ, HE⟩
                    case measure => simp [intOf]; omega
                  · have dO : decide ((0 : Int) < (O : Int)) = true := decide_eq_true (by omega)
                    have hOn : 0 < O := by omega
                    have dO2 : decide (0 < O) = true := decide_eq_true hOn
                    clear hO0
                    go_wp2
                    go_ret
                    exact ⟨rfl, MZ.out.bel⟩
              · have bk2 : (K == 2) = false := beq_eq_false_iff_ne.2 hk2
                have HE := Lib.hid (HNX.out (fun e => hk2 e.1))
                clear hk2
                go_wp2
                go_roundw
                case rel => exact ⟨k + 1, by go_num, by omega, HMk, HE⟩
                case measure => simp [intOf]; omega
            · obtain rfl : k = nI := by omega
              have htold : renL ALL = renL (l0 ++ l2) := by
                have e3 : ALL = l0 ++ uq.t :: (I ++ vq.t :: l2) := by rw [← HALL.out]; simp
                rw [e3]
                refine ren_hides nmm l0 I l2 HH1.out HH2.out ?_ ?_ uq.t vq.t (by rw [HUT.out]; exact ⟨rfl, rfl⟩) (by rw [HVT.out]; exact ⟨rfl, rfl⟩)
                · intro t ht
                  rw [← HI.out] at ht
                  have := (List.mem_filter.1 ht).2
                  unfold innP at this
                  simp only [Bool.and_eq_true, decide_eq_true_eq, Bool.not_eq_true', Bool.and_eq_false_iff, decide_eq_false_iff_not] at this
                  exact ⟨this.1, fun e => this.2.elim (fun h => h e.1) (fun h => h e.2)⟩
                · rcases HF.out with h0 | h0
                  · exact .inl (by rw [HO.out]; exact h0)
                  · refine .inr fun t ht => ?_
                    obtain ⟨q, hq, rfl⟩ := List.getElem_of_mem ht
                    exact h0 q hq (by rw [← HNI.out]; exact hq)
              have htx : ∀ t ∈ ALL, t.text.length ≤ 65536 := by
                intro t ht
                rw [← HALL.out] at ht
                simp only [List.mem_append, List.mem_cons, List.not_mem_nil, or_false] at ht
                rcases ht with (((h | h) | h) | h) | h
                · exact HTA.out t h
                · rw [h, HUT.out]; simp
                · exact HIx.out t h
                · rw [h, HVT.out]; simp
                · exact HTC.out t h
              obtain ⟨a5, c5, hv5, hb5⟩ := tokO_is HMk.out
              obtain ⟨n5, hn5⟩ : ∃ n, ALL.length = n := ⟨_, rfl⟩
              rw [hn5] at hv5 hb5 hal
              subst hv5
              have HB5 := Lib.hid hb5
              have HTX := Lib.hid htx
              have C1 := fun h => Lib.hid (ren_any a5 n5 c5 ALL _ HB5.out (by omega) HTX.out h)
              rw [htold] at C1
              have C2 := fun u a n c (hT : IsBare u a n c (l0 ++ l2)) h => Lib.hid (ren_any a n c (l0 ++ l2) u hT (by rw [← hT.1]; simp; omega) (fun t ht => (List.mem_append.1 ht).elim (HTA.out t) (HTC.out t)) h)
              obtain ⟨Z, hZ⟩ : ∃ Z, (⟨(renL (l0 ++ l2)).toArray⟩ : ByteArray) = Z := ⟨_, rfl⟩
              rw [hZ] at C1
              simp only [hZ] at C2
              have BK := Lib.hid HMk.out.bel
              clear hZ hn5 hb5 htx htold hS6
              go_wp2_with (fail)
              refine (C1 (HW.out.below BK.out)).out.mono ?_
              rintro e z1 ⟨rfl, cz⟩
              have BZ := Lib.hid (BK.out.trans (cz.mono BK.out.size))
              have MB1 := Lib.hid (tokO_empty (Made.none BZ.out) Lies.emp)
              obtain ⟨QA2, hqa2, sa2⟩ := isBare_src (HL0.out.bare.below MB1.out.bel (Nat.le_refl _))
              have hqal2 : QA2.length = j := by rw [← hll0, ← hqa2, List.length_map]
              have SB1 := Lib.hid sa2
              have HQA2 := Lib.hid hqa2
              clear cz sa2 hqa2 C1
              go_wp2_with (first
                | (at_builtin; refine wpList_append_tokO (by first | rfl | (simp [Region.wanted, yielded]; done)) _ _ rfl _ [] _ Lies.emp rfl MB1.out _ j QA2 rfl SB1.out (by (try simp); omega) ?_
                   intro v7 y7 m7
                   have MB2 := Lib.hid (show Made w y7 (Sep (TokO v7 l0) Emp) by rw [← HQA2.out]; exact m7)
                   obtain ⟨QC2, hqc2, sc2⟩ := isBare_src (HL2.out.bare.below m7.bel (Nat.le_refl _))
                   have hqcl2 : QC2.length = len2 := by rw [← hll2, ← hqc2, List.length_map]
                   have SB2 := Lib.hid sc2
                   have HQC2 := Lib.hid hqc2
                   clear m7 sc2 hqc2)
                | (at_builtin; refine wpList_append_tokO (by first | rfl | (simp [Region.wanted, yielded]; done)) _ _ rfl v7 l0 _ Lies.emp rfl MB2.out _ len2 QC2 rfl SB2.out (by (try simp); omega) ?_
                   intro v8 y8 m8
                   have MB3 := Lib.hid (show Made w y8 (Sep (TokO v8 (l0 ++ l2)) Emp) by rw [← HQC2.out]; exact m8)
                   obtain ⟨a8, c8, hv8, hb8⟩ := tokO_is MB3.out
                   obtain ⟨n8, hn8⟩ : ∃ n, (l0 ++ l2).length = n := ⟨_, rfl⟩
                   rw [hn8] at hv8 hb8
                   subst hv8
                   have HB8 := Lib.hid hb8
                   clear m8 hb8 hn8)
                | (go_at_call 11; refine (C2 _ _ _ _ HB8.out (HW.out.below MB3.out.bel)).out.mono ?_; rintro e z9 ⟨rfl, cz9⟩))
              go_ret
              exact ⟨ret_bool (by simp), MB3.out.bel.trans (cz9.mono MB3.out.bel.size)⟩

set_option maxRecDepth 100000 in
theorem lifted (os : Os) (started : os.Started) (H : Type) (enc : TypeId × Value → H) :
    ReturnsInHanded {} Try.checked os 5 .any (Rows.renderHidesSpec.pre6 enc Try.prog Try.f5 Rows.renderHidesRow.domain false) (Rows.renderHidesSpec.post enc Try.prog Try.f5 false true false false) := by
  refine returnsInHanded_of_change (C := Try.checked) own started (by kernel_rfl) Try.func5
    (ChangeSpec.witness6 (enc := enc) (C := Try.checked) false ⟨#[], #[.slice none 0 0, .slice none 0 0, .slice none 0 0, .int .u8 0], []⟩ 8 (by kernel_rfl) (by kernel_rfl) (by kernel_rfl) (by kernel_rfl)) ?_
  intro W base args ds gs before hval0 hW hcnd _
  have hval : ∀ (j : Nat) t v, Try.f5.params[j]? = some t → args[j]? = some v → Value.okWide Try.prog W .any base t v := hval0
  have hW' := hW
  obtain ⟨p, q, hA0, hV, rfl, hfz, hnd⟩ := hW
  have hA : DataW.TrodAll enc Try.prog W 0 (fun _ => true) true Try.f5.params.toList args.toList ds p := hA0
  rw [Try.params5] at hA hval
  obtain ⟨v0, vs0, d0, ds0, p0, q0, hargs, rfl, rfl, h0, r0⟩ := trodAll_cons hA
  obtain ⟨v1, vs1, d1, ds1, p1, q1, rfl, rfl, rfl, h1, r1⟩ := trodAll_cons r0
  obtain ⟨v2, vs2, d2, ds2, p2, q2, rfl, rfl, rfl, h2, r2⟩ := trodAll_cons r1
  obtain ⟨v3, vs3, d3, ds3, p3, q3, rfl, rfl, rfl, h3, r3⟩ := trodAll_cons r2
  obtain ⟨rfl, rfl, rfl⟩ := trodAll_nil r3
  obtain rfl : args = #[v0, v1, v2, v3] := by cases args; simp_all
  obtain ⟨rfl, rfl⟩ := trodVars_none hV
  obtain ⟨a0, len0, cap0, rfl⟩ := okWide_slice Try.underlying22 (hval 0 22 v0 rfl rfl)
  have k0 := h0
  have lt0 : ∀ x ∈ p0, x.block < W.heap.size := by obtain ⟨m, hm⟩ := k0; exact DataW.trod_lt m _ _ _ hm
  obtain ⟨l0, w0⟩ : ∃ l, IsToks W a0 len0 cap0 l := by
    obtain ⟨fuel, hf⟩ := h0
    exact isToks_arg (by simp [Value.cells]) hf
  obtain ⟨a1, len1, cap1, rfl⟩ := okWide_slice Try.underlying22 (hval 1 22 v1 rfl rfl)
  have k1 := h1
  have lt1 : ∀ x ∈ p1, x.block < W.heap.size := by obtain ⟨m, hm⟩ := k1; exact DataW.trod_lt m _ _ _ hm
  obtain ⟨l1, w1⟩ : ∃ l, IsToks W a1 len1 cap1 l := by
    obtain ⟨fuel, hf⟩ := h1
    exact isToks_arg (by simp [Value.cells]) hf
  obtain ⟨a2, len2, cap2, rfl⟩ := okWide_slice Try.underlying22 (hval 2 22 v2 rfl rfl)
  have k2 := h2
  have lt2 : ∀ x ∈ p2, x.block < W.heap.size := by obtain ⟨m, hm⟩ := k2; exact DataW.trod_lt m _ _ _ hm
  obtain ⟨l2, w2⟩ : ∃ l, IsToks W a2 len2 cap2 l := by
    obtain ⟨fuel, hf⟩ := h2
    exact isToks_arg (by simp [Value.cells]) hf
  obtain ⟨a3, rfl, rfl, rfl, w3⟩ := open_int Try.underlying5 (hval 3 5 v3 rfl rfl) h3
  clear hA0 hval0
  refine (walk a0 len0 cap0 l0 a1 len1 cap1 l1 a2 len2 cap2 l2 a3 W w0 w1 w2 w3).mono fun e W' ⟨he, bel⟩ => ?_
  subst he
  exact ⟨_, rfl, _, _, _, [], _, [], hW', trodAll_mk1 (shut_bool Try.underlying4 _), (trodAll_cons_mk (Below.trod laidOut (by kernel_rfl) (of_decide_eq_true (by kernel_rfl)) k0 bel lt0) (trodAll_cons_mk (Below.trod laidOut (by kernel_rfl) (of_decide_eq_true (by kernel_rfl)) k1 bel lt1) (trodAll_cons_mk (Below.trod laidOut (by kernel_rfl) (of_decide_eq_true (by kernel_rfl)) k2 bel lt2) (trodAll_cons_mk (shut_int Try.underlying5 w3) trodAll_mk0)))), rfl, bel.frame _, fun h => by cases h⟩

theorem over : Rows.renderHidesRow.holds Try.pinned (OpenSpec.ofChange Rows.renderHidesSpec) :=
  OpenClaim.holds_of_wide 5 Try.f5 rfl rfl rfl rfl rfl rfl rfl ⟨rfl, rfl, rfl, rfl, rfl⟩ rfl rfl rfl rfl rfl (by kernel_rfl) Try.func5 (by kernel_rfl)
    (of_decide_eq_true (by kernel_rfl)) (by unfold Func.isWrapper; first | (rw [if_pos (by decide +kernel)]; kernel_rfl) | (rw [if_neg (by decide +kernel)]; exact ⟨rfl, rfl⟩))
    (fun os started H enc _ => lifted os started H enc)

/-- the statement -/
theorem proved : Rows.RenderHidesSaid := over
end Go.Proofs.Ytappdjhhaohejaa.renderHides
