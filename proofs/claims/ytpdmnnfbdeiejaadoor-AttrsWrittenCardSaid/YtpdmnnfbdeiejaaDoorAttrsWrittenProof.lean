/-
  The law AttrsWritten of flail/flaillaw08 answers true for every input, and changes nothing that was there. Condition, which the card ties to the program's text: when the call begins, the package variables that the row lists hold what that text lays in them (math/bits.deBruijn32tab, math/bits.deBruijn64tab, internal/strconv.uint64pow10, strconv.ErrRange, strconv.ErrSyntax, flail/number.others).
-/
import Derived.Test.YtpdmnnfbdeiejaaDoorRows
import Derived.Test.YtpdmnnfbdeiejaaDoorAttAwake
import Derived.Test.YtpdmnnfbdeiejaaDoorAttWrit
import Derived.Test.YtpdmnnfbdeiejaaDoorStrs
import Derived.Test.YtpdmnnfbdeiejaaDoorP1
import Derived.Test.YtpdmnnfbdeiejaaDoorCards
import Derived.Test.YtpdmnnfbdeiejaaDoorP6
import Derived.WalkKit
import Derived.ProofKit
import Derived.OpenShut
import Derived.ShutString
import Derived.ChangeOld
import Derived.Below
import Derived.ChangeSlices
import Derived.Deep.Strs
namespace Go.Proofs.YtpdmnnfbdeiejaaDoor.attrsWritten
open Go.ChangeShapes Go.WideShapes Go.ChangeAt Go.RowKit
open Go.ChangeMaps (open_string shut_string)
set_option linter.unusedVariables false

theorem own : ownKnob Tryd.prog.godebug = none := by kernel_rfl
theorem laidOut : laidOutB Tryd.prog = true := by kernel_rfl

theorem twoByte (w : World) (q r : Int) (c d : UInt8) (h1 : (c.toNat : Int) = q) (h2 : (d.toNat : Int) = r) :
    (convert 29 9 (.slice (some ⟨w.heap.size, 0, none⟩) 2 2)).run Tryd.prog (w.alloc (.cells #[.int .u8 q, .int .u8 r] 5)) = .ok (.string ⟨#[c, d]⟩) (w.alloc (.cells #[.int .u8 q, .int .u8 r] 5)) := by
  refine run_convert_bytes_back (P := Tryd.prog) _ 29 9 5 ⟨w.heap.size, 0, none⟩ 2 [c, d] Tryd.underlying29 Tryd.underlying5 Tryd.underlying9 ?_
  intro j hj
  match j, hj with
  | 0, _ =>
    rw [show ((⟨w.heap.size, 0, none⟩ : Addr).add 0) = ⟨w.heap.size, 0, none⟩ from rfl, Lib.cell_of_heap (heap_alloc_new w _), ← h1]
    rfl
  | 1, _ =>
    rw [show ((⟨w.heap.size, 0, none⟩ : Addr).add 1) = ⟨w.heap.size, 1, none⟩ from rfl, Lib.cell_of_heap (heap_alloc_new w _), ← h2]
    rfl
  | j + 2, hj => exact absurd hj (by simp)
def okW (x : UInt8) : Prop := x ≠ 34 ∧ x ≠ 39 ∧ x ≠ 38 ∧ x ≠ 0
theorem okW_next (s : ByteArray) (i : Nat) (h : i < s.size) (hall : ∀ x ∈ s.data.toList.take i, okW x) (hx : okW s[i]) : ∀ x ∈ s.data.toList.take (i + 1), okW x := by
  intro x hm
  rw [take_snoc s i h, List.mem_append, List.mem_singleton] at hm
  rcases hm with hm | rfl
  · exact hall x hm
  · exact hx
theorem plain_pair (q : UInt8) (hq : q = 34 ∨ q = 39) (C : UInt8) (h0 : 97 ≤ C.toNat) (h1 : C.toNat ≤ 101) (V : ByteArray) (hV : ∀ x ∈ V.data.toList, okW x) : Plain2 q ([C, 120], V.data.toList) := by
  have hc : C = 97 ∨ C = 98 ∨ C = 99 ∨ C = 100 ∨ C = 101 := by
    simp only [← UInt8.toNat_inj]
    rw [show (97 : UInt8).toNat = 97 from rfl, show (98 : UInt8).toNat = 98 from rfl, show (99 : UInt8).toNat = 99 from rfl, show (100 : UInt8).toNat = 100 from rfl, show (101 : UInt8).toNat = 101 from rfl]
    omega
  refine ⟨⟨C, 120, rfl, ?_⟩, fun h => ?_, fun h => (hV 38 h).2.2.1 rfl, fun h => (hV 0 h).2.2.2 rfl⟩
  · rcases hc with rfl | rfl | rfl | rfl | rfl <;> exact ⟨by decide, by decide, by decide, by decide, by decide⟩
  · rcases hq with rfl | rfl
    · exact (hV 34 h).1 rfl
    · exact (hV 39 h).2.1 rfl
theorem info_attrW : (Tryd.prog.info? 27).map (fun i => (i.zero, i.size, i.bytes)) = some (some (.agg #[.string ⟨#[]⟩, .string ⟨#[]⟩]), 2, 32) := by kernel_rfl
theorem addW_len (l : List Ln) (p : Ln) : (addW l p).length ≤ l.length + 1 := by unfold addW; split <;> simp
theorem fold_snoc (ps : List Ln) (p : Ln) : (ps ++ [p]).foldl addW [] = addW (ps.foldl addW []) p := by rw [List.foldl_append]; rfl
theorem any_snoc (l : List Ln) (k : Nat) (hk : k < l.length) (N : Txt) : (l.take (k + 1)).any (fun r => r.1 == N) = ((l.take k).any (fun r => r.1 == N) || l[k].1 == N) := by
  rw [List.take_succ_eq_append_getElem hk, List.any_append]; simp
theorem text_snoc (q : UInt8) (S N V : ByteArray) (ps : List Ln) (h : S.data.toList = wrL q ps) : (S ++ ⟨#[32]⟩ ++ N ++ ⟨#[61]⟩ ++ ⟨#[q]⟩ ++ V ++ ⟨#[q]⟩ : ByteArray).data.toList = wrL q (ps ++ [(N.data.toList, V.data.toList)]) := by
  rw [wrL_snoc, ← h]
  simp only [ByteArray.data_append, Array.toList_append, oneL]
  simp
theorem texts (q : UInt8) (hq : q = 34 ∨ q = 39) (S : ByteArray) (ps : List Ln) (h : S.data.toList = wrL q ps) (hp : ∀ p ∈ ps, Plain2 q p) :
    attrsV (S ++ ⟨#[62]⟩ : ByteArray).data.toList 0 = (ps.foldl addW [], false, (S.size : Int) + 1, true) ∧ attrsV (S ++ ⟨#[32, 47, 62]⟩ : ByteArray).data.toList 0 = (ps.foldl addW [], true, (S.size : Int) + 3, true) ∧ attrsV S.data.toList 0 = ([], false, (S.size : Int), false) := by
  obtain ⟨h1, h2, h3⟩ := written q hq ps hp
  have e1 : (S ++ ⟨#[62]⟩ : ByteArray).data.toList = wrL q ps ++ [62] := by rw [ByteArray.data_append, Array.toList_append, h]
  have e2 : (S ++ ⟨#[32, 47, 62]⟩ : ByteArray).data.toList = wrL q ps ++ [32, 47, 62] := by rw [ByteArray.data_append, Array.toList_append, h]
  refine ⟨?_, ?_, ?_⟩
  · rw [e1, zero_some _ _ _ _ h1, Lib.size_eq S, h]; rfl
  · rw [e2, zero_some _ _ _ _ h2, Lib.size_eq S, h]; rfl
  · rw [h, zero_none _ h3, Lib.size_eq S, h]
set_option maxRecDepth 100000 in
set_option maxHeartbeats 8000000 in
theorem walk (a0 : Option Addr) (len0 cap0 : Nat) (z0 : Nat → Int) (a1 : Option Addr) (len1 cap1 : Nat) (s1 : Nat → ByteArray) (a2 : Bool) (w : World) (hT : LaidAt w) (w0 : IsInts .u8 w a0 len0 cap0 z0) (w1 : IsStrs w a1 len1 cap1 s1) :
    Calls Tryd.prog 4 #[.slice a0 len0 cap0, .slice a1 len1 cap1, .bool a2] w fun e w' => e = .returned (.bool true) ∧ Below w.heap.size w w' := by
  have HW := Lib.hid hT
  have HZ := Lib.hid w0
  have HS := Lib.hid w1
  have q0 := w0.1
  have q1 := w0.2.1
  have q2 := w1.1
  have q3 := w1.2.1
  unfold maxLen at q1 q3
  clear w0 w1 hT
  obtain ⟨i0, hi0, hz0, hz1, hz2⟩ := info_parts info_attrW
  by_cases hl0 : 10 < len0
  · have d0 : decide ((10 : Int) < (len0 : Int)) = true := decide_eq_true (by omega)
    go_enter Tryd.func4, Tryd.ntmps4
    go_wp2_with (fail)
    refine (attAwake_any w HW.out).mono ?_
    rintro e w1 ⟨rfl, c1⟩
    go_wp2
    go_ret
    exact ⟨rfl, c1⟩
  have d0 : decide ((10 : Int) < (len0 : Int)) = false := decide_eq_false (by omega)
  by_cases hl1 : len1 < len0
  · have d1 : decide ((len1 : Int) < (len0 : Int)) = true := decide_eq_true (by omega)
    go_enter Tryd.func4, Tryd.ntmps4
    go_wp2_with (fail)
    refine (attAwake_any w HW.out).mono ?_
    rintro e w1 ⟨rfl, c1⟩
    go_wp2
    go_ret
    exact ⟨rfl, c1⟩
  have d1 : decide ((len1 : Int) < (len0 : Int)) = false := decide_eq_false (by omega)
  have d2 : decide (len1 < len0) = false := decide_eq_false (by omega)
  have d3 : decide (10 < len0) = false := decide_eq_false (by omega)
  have k0 : len0 ≤ 10 := by omega
  have k1 : len0 ≤ len1 := by omega
  clear hl0 hl1
  cases a2
  · go_enter Tryd.func4, Tryd.ntmps4
    go_wp2_with (fail)
    refine (attAwake_any w HW.out).mono ?_
    rintro e w1 ⟨rfl, c1⟩
    go_wp2
    clear d0 d1 d2 d3
    go_loopw [8, 10, 11] (fun v8 v10 v11 wr => ∃ (i : Nat) (S : ByteArray) (ps : List Ln), v8 = .string S ∧ v11 = .int .i64 (i : Int) ∧ wr.ownsRow w1.heap.size 27 2 v10 (ps.foldl addW []).length (cellsR (ps.foldl addW [])) ∧ Below w1.heap.size w1 wr ∧ i ≤ len0 ∧ S.data.toList = wrL 34 ps ∧ S.size ≤ 70 * i ∧ (ps.foldl addW []).length ≤ i ∧ ∀ p ∈ ps, Plain2 34 p) (fun _ _ v _ => len0 - (intOf v).toNat)
    case atStart => exact ⟨0, ⟨#[]⟩, [], rfl, rfl, World.ownsRow_nil _ _ _ _, Below.refl _ _, Nat.zero_le _, rfl, Nat.le_refl _, Nat.le_refl _, by simp⟩
    case round =>
      obtain ⟨i, S, ps, rfl, rfl, hown, hbw, hi, hS, hSs, hpl, hps⟩ := hrel
      have c2 := c1.trans (hbw.mono c1.size)
      have C2 := Lib.hid c2
      have HOW := Lib.hid hown
      have HTX := Lib.hid hS
      have HPS := Lib.hid hps
      obtain ⟨W, hW⟩ : ∃ W, ps.foldl addW [] = W := ⟨_, rfl⟩
      rw [hW] at HOW hpl
      have HWW := Lib.hid hW
      have hsz := hbw.size
      have hcs := c1.size
      by_cases hlt : i < len0
      · obtain ⟨x, rfl, hz, hwf⟩ := (HZ.out.below c2 (Nat.le_refl _)).2.2 i hlt
        obtain ⟨y, rfl, hv⟩ := (HS.out.below c2 (Nat.le_refl _)).2.2 i (by omega)
        have hb : 0 ≤ z0 i ∧ z0 i ≤ 255 := by simpa [Lit.wf, IntKind.min, IntKind.max, IntKind.signed, IntKind.bits] using hwf
        obtain ⟨z, hzz⟩ : ∃ z, z0 i = z := ⟨_, rfl⟩
        rw [hzz] at hz hb
        obtain ⟨V, hVV⟩ : ∃ V, s1 i = V := ⟨_, rfl⟩
        rw [hVV] at hv
        obtain ⟨z1, z2⟩ := hb
        clear hwf hzz hVV hown hS hps hW
        by_cases hv60 : 60 < V.size
        · have d4 : decide ((60 : Int) < (V.size : Int)) = true := decide_eq_true (by omega)
          go_wp2
          go_ret
          exact ⟨rfl, C2.out⟩
        have d4 : decide ((60 : Int) < (V.size : Int)) = false := decide_eq_false (by omega)
        have hVs : V.size ≤ 60 := by omega
        clear hv60
        go_wp2
        go_loopw [13] (fun v wr' => ∃ k : Nat, v = .int .i64 (k : Int) ∧ wr = wr' ∧ k ≤ V.size ∧ ∀ x ∈ V.data.toList.take k, okW x) (fun v _ => V.size - (intOf v).toNat)
        case atStart => exact ⟨0, rfl, rfl, Nat.zero_le _, by simp⟩
        case round =>
          obtain ⟨k, rfl, rfl, hk, hall⟩ := hrel
          by_cases hkt : k < V.size
          · by_cases h34 : ((V[k].toNat : Nat) : Int) = 34
            · have b34 : (((V[k].toNat : Nat) : Int) == 34) = true := beq_iff_eq.2 h34
              clear hall h34
              go_wp2
              go_ret
              exact ⟨rfl, C2.out⟩
            · by_cases h39 : ((V[k].toNat : Nat) : Int) = 39
              · have b34 : (((V[k].toNat : Nat) : Int) == 34) = false := beq_eq_false_iff_ne.2 h34
                have b39 : (((V[k].toNat : Nat) : Int) == 39) = true := beq_iff_eq.2 h39
                clear hall h34 h39
                go_wp2
                go_ret
                exact ⟨rfl, C2.out⟩
              · by_cases h38 : ((V[k].toNat : Nat) : Int) = 38
                · have b34 : (((V[k].toNat : Nat) : Int) == 34) = false := beq_eq_false_iff_ne.2 h34
                  have b39 : (((V[k].toNat : Nat) : Int) == 39) = false := beq_eq_false_iff_ne.2 h39
                  have b38 : (((V[k].toNat : Nat) : Int) == 38) = true := beq_iff_eq.2 h38
                  clear hall h34 h39 h38
                  go_wp2
                  go_ret
                  exact ⟨rfl, C2.out⟩
                · by_cases h0 : ((V[k].toNat : Nat) : Int) = 0
                  · have b34 : (((V[k].toNat : Nat) : Int) == 34) = false := beq_eq_false_iff_ne.2 h34
                    have b39 : (((V[k].toNat : Nat) : Int) == 39) = false := beq_eq_false_iff_ne.2 h39
                    have b38 : (((V[k].toNat : Nat) : Int) == 38) = false := beq_eq_false_iff_ne.2 h38
                    have b0 : (((V[k].toNat : Nat) : Int) == 0) = true := beq_iff_eq.2 h0
                    clear hall h34 h39 h38 h0
                    go_wp2
                    go_ret
                    exact ⟨rfl, C2.out⟩
                  · have HA := Lib.hid (okW_next V k hkt hall ⟨u8_ne _ 34 (by decide) h34, u8_ne _ 39 (by decide) h39, u8_ne _ 38 (by decide) h38, u8_ne _ 0 (by decide) h0⟩)
                    have b34 : (((V[k].toNat : Nat) : Int) == 34) = false := beq_eq_false_iff_ne.2 h34
                    have b39 : (((V[k].toNat : Nat) : Int) == 39) = false := beq_eq_false_iff_ne.2 h39
                    have b38 : (((V[k].toNat : Nat) : Int) == 38) = false := beq_eq_false_iff_ne.2 h38
                    have b0 : (((V[k].toNat : Nat) : Int) == 0) = false := beq_eq_false_iff_ne.2 h0
                    clear hall h34 h39 h38 h0
                    go_wp2
                    go_roundw
                    case rel => exact ⟨k + 1, by simp, trivial, by omega, HA.out⟩
                    case measure => simp [intOf]; omega
          · have hVok : ∀ x ∈ V.data.toList, okW x := by
              rw [List.take_of_length_le (by rw [← Lib.size_eq]; omega)] at hall
              exact hall
            have y0 : 0 ≤ z % 5 := Int.emod_nonneg _ (by decide)
            have y1 : z % 5 < 5 := Int.emod_lt_of_pos _ (by decide)
            obtain ⟨C, hC⟩ : ∃ C : UInt8, (C.toNat : Int) = 97 + z % 5 := ⟨UInt8.ofNat (97 + z % 5).toNat, by rw [UInt8.toNat_ofNat']; omega⟩
            have hpp := plain_pair 34 (.inl rfl) C (by omega) (by omega) V hVok
            have HC := Lib.hid hC
            obtain ⟨N, hN⟩ : ∃ N : ByteArray, ⟨#[C, 120]⟩ = N := ⟨_, rfl⟩
            have hNl : N.data.toList = [C, 120] := by rw [← hN]
            have hNs : N.size = 2 := by rw [← hN]; rfl
            have hN2 : N.size ≤ 2 := by omega
            have HN := Lib.hid hN
            rw [← hNl] at hpp
            have HPP := Lib.hid hpp
            have HNL := Lib.hid hNl
            have HTX2 := Lib.hid (text_snoc 34 S N V ps HTX.out)
            have t1 : (ByteArray.mk #[32]).size = 1 := rfl
            have t2 : (ByteArray.mk #[61]).size = 1 := rfl
            have t3 : (ByteArray.mk #[34]).size = 1 := rfl
            have hsum : S.size + 1 + N.size + 1 + 1 + V.size + 1 ≤ 70 * i + 66 := by omega
            have HSZ := Lib.hid (show (S ++ ⟨#[32]⟩ ++ N ++ ⟨#[61]⟩ ++ ⟨#[34]⟩ ++ V ++ ⟨#[34]⟩ : ByteArray).size ≤ 70 * (i + 1) by
              simp only [ByteArray.size_append, t1, t2, t3]; omega)
            clear hall hVok hC hN hNl hNs hpp t1 t2 t3
            go_wp2_with (fail)
            rw [twoByte _ _ 120 _ 120 HC.out rfl]
            simp only [Result.andThen]
            rw [Oper.upon_value]
            rw [HN.out]
            obtain ⟨aw, capw, rfl, hrw⟩ := isRows_own W HOW.out
            have HRW := Lib.hid ((hrw.below ((Below.refl wr.heap.size wr).alloc (Nat.le_refl _) (.cells #[.int .u8 (97 + z % 5), .int .u8 120] 5)) (Nat.le_refl _)))
            clear hrw
            obtain ⟨wr2, hwr2⟩ : ∃ wr2, wr.alloc (.cells #[.int .u8 (97 + z % 5), .int .u8 120] 5) = wr2 := ⟨_, rfl⟩
            have HOW2 := Lib.hid (HOW.out.alloc (.cells #[.int .u8 (97 + z % 5), .int .u8 120] 5))
            have BW2 := hbw.alloc hsz (.cells #[.int .u8 (97 + z % 5), .int .u8 120] 5)
            rw [hwr2] at HRW HOW2 BW2 ⊢
            have HF := Lib.hid (fold_snoc ps (N.data.toList, V.data.toList))
            clear hwr2
            go_wp2
            go_loopw [15, 16] (fun v15 v16 wr' => ∃ (k : Nat) (b : Bool), v15 = .bool b ∧ v16 = .int .i64 (k : Int) ∧ wr2 = wr' ∧ k ≤ W.length ∧ Hid (b = (W.take k).any (fun r => r.1 == N.data.toList))) (fun _ v _ => W.length - (intOf v).toNat)
            case atStart => exact ⟨0, false, rfl, rfl, rfl, Nat.zero_le _, Lib.hid (by simp)⟩
            case round =>
              obtain ⟨k, b, rfl, rfl, rfl, hk, hb⟩ := hrel
              by_cases hkt : k < W.length
              · obtain ⟨u, rfl, u1, -⟩ := HRW.out.2.2.2 k hkt
                have HA := Lib.hid (any_snoc W k hkt N.data.toList)
                unfold strV at u1
                obtain ⟨K, hK⟩ : ∃ K : ByteArray, ⟨W[k].1.toArray⟩ = K := ⟨_, rfl⟩
                have e0 : (K.toList == N.toList) = (W[k].1 == N.data.toList) := by
                  rw [← hK, ByteArray.toList_eq, ByteArray.toList_eq]
                rw [hK] at u1
                obtain ⟨e, he⟩ : ∃ e, (W[k].1 == N.data.toList) = e := ⟨_, rfl⟩
                rw [he] at e0 HA
                clear hK he
                cases e
                · go_wp2
                  go_roundw
                  case rel => exact ⟨k + 1, b, rfl, by simp, trivial, by omega, Lib.hid (by rw [HA.out, ← hb.out]; simp)⟩
                  case measure => simp [intOf]; omega
                · go_wp2
                  go_roundw
                  case rel => exact ⟨k + 1, true, rfl, by simp, trivial, by omega, Lib.hid (by rw [HA.out]; simp)⟩
                  case measure => simp [intOf]; omega
              · have hall : W.take k = W := List.take_of_length_le (by omega)
                rw [hall] at hb
                have HPA : Hid (∀ p ∈ ps ++ [(N.data.toList, V.data.toList)], Plain2 34 p) := Lib.hid (fun p hp => by
                  rcases List.mem_append.1 hp with hp | hp
                  · exact HPS.out p hp
                  · rw [List.mem_singleton.1 hp]; exact HPP.out)
                clear hall
                cases b
                · have HFF : Hid ((ps ++ [(N.data.toList, V.data.toList)]).foldl addW [] = W ++ [(N.data.toList, V.data.toList)]) := Lib.hid (by
                    rw [HF.out, HWW.out]; unfold addW; rw [← hb.out]; rfl)
                  go_wp2_with (at_builtin; refine wpList_append_own _ rfl _ _ 23 rfl w1.heap.size 27 i0 _ 2 32 Tryd.underlying23 hi0 hz0 hz1 hz2 rfl (by decide) _ W.length (cellsR W) rfl (HOW2.out.alloc _) ⟨wr2.heap.size, 0, none⟩ 1 1 [strV N.data.toList, strV V.data.toList] rfl rfl ?c1 ?c2 ?c3 ?c4 ?c5 ?_)
                  case c1 => exact new_two _ _ _ _
                  case c2 => intro u hu; simp at hu; rcases hu with rfl | rfl <;> rfl
                  case c3 => simp [maxLen]; omega
                  case c4 => omega
                  case c5 => have := BW2.size; simp; omega
                  intro v1 w5 hown1 hgr1 _
                  have B5 : Below w1.heap.size w1 w5 := (BW2.alloc BW2.size _).grown hgr1 (by have := BW2.size; simp; omega) (fun k hk => (HOW2.out.lt k hk).1)
                  rw [cellsR_add, show W.length + 1 = (W ++ [(N.data.toList, V.data.toList)]).length by simp] at hown1
                  have HOWN := Lib.hid hown1
                  have HB5 := Lib.hid B5
                  clear hown1 hgr1 B5
                  go_wp2
                  go_roundw
                  case rel => exact ⟨i + 1, _, ps ++ [(N.data.toList, V.data.toList)], rfl, by simp, by rw [HFF.out]; exact HOWN.out, HB5.out, by omega, HTX2.out, HSZ.out, by rw [HFF.out]; simp; omega, HPA.out⟩
                  case measure => simp [intOf]; omega
                · have HFF : Hid ((ps ++ [(N.data.toList, V.data.toList)]).foldl addW [] = W) := Lib.hid (by
                    rw [HF.out, HWW.out]; unfold addW; rw [← hb.out]; rfl)
                  go_wp2
                  go_roundw
                  case rel => exact ⟨i + 1, _, ps ++ [(N.data.toList, V.data.toList)], rfl, by simp, by rw [HFF.out]; exact HOW2.out, BW2, by omega, HTX2.out, HSZ.out, by rw [HFF.out]; omega, HPA.out⟩
                  case measure => simp [intOf]; omega
      · obtain ⟨T1, T2, T3⟩ := texts 34 (.inl rfl) S ps HTX.out HPS.out
        rw [hW] at T1 T2
        have HV1 := Lib.hid T1
        have HV2 := Lib.hid T2
        have HV3 := Lib.hid T3
        obtain ⟨aw, capw, rfl, hrw⟩ := isRows_own W HOW.out
        have HRW := Lib.hid hrw
        have u1 : (ByteArray.mk #[62]).size = 1 := rfl
        have u2 : (ByteArray.mk #[32, 47, 62]).size = 3 := rfl
        have HR1 := fun w h => Lib.hid (attrs_any (S ++ ⟨#[62]⟩) 0 w (by rw [ByteArray.size_append, u1]; omega) (by decide) h)
        have HR2 := fun w h => Lib.hid (attrs_any (S ++ ⟨#[32, 47, 62]⟩) 0 w (by rw [ByteArray.size_append, u2]; omega) (by decide) h)
        have HR3 := fun w h => Lib.hid (attrs_any S 0 w (by omega) (by decide) h)
        clear T1 T2 T3 hrw hown hS hps hW u1 u2
        go_wp2_with (fail)
        refine (HR1 _ (HW.out.below c2)).out.mono ?_
        rintro e w3 ⟨ad3, len3, cap3, l3, self3, n3, ok3, rfl, hr3, hv3, b3⟩
        rw [HV1.out] at hv3
        simp only [Prod.mk.injEq] at hv3
        obtain ⟨rfl, rfl, rfl, rfl⟩ := hv3
        have c3 := c2.trans (b3.mono c2.size)
        have K3 := Lib.hid hr3
        clear hr3
        go_wp2_with (fail)
        refine (HR2 _ (HW.out.below c3)).out.mono ?_
        rintro e w4 ⟨ad4, len4, cap4, l4, self4, n4, ok4, rfl, hr4, hv4, b4⟩
        rw [HV2.out] at hv4
        simp only [Prod.mk.injEq] at hv4
        obtain ⟨rfl, rfl, rfl, rfl⟩ := hv4
        have c4 := c3.trans (b4.mono c3.size)
        have K4 := Lib.hid hr4
        clear hr4
        go_wp2_with (fail)
        refine (HR3 _ (HW.out.below c4)).out.mono ?_
        rintro e w5 ⟨ad5, len5, cap5, l5, self5, n5, ok5, rfl, hr5, hv5, b5⟩
        rw [HV3.out] at hv5
        simp only [Prod.mk.injEq] at hv5
        obtain ⟨rfl, rfl, rfl, rfl⟩ := hv5
        have c5 := c4.trans (b5.mono c4.size)
        have K5 := Lib.hid hr5
        clear hr5
        go_wp2_with (fail)
        refine (refSame_any _ _ _ _ _ _ W W _ ((K3.out.below b4 (Nat.le_refl _)).below b5 (Nat.le_refl _)) (((HRW.out.below b3 (Nat.le_refl _)).below b4 (Nat.le_refl _)).below b5 (Nat.le_refl _))).mono ?_
        rintro e w6 ⟨rfl, d6, rfl⟩
        go_wp2_with (fail)
        refine (refSame_any _ _ _ _ _ _ W W _ ((K4.out.below b5 (Nat.le_refl _)).below (dr_below w5.heap.size _ d6) (Nat.le_refl _)) ((((HRW.out.below b3 (Nat.le_refl _)).below b4 (Nat.le_refl _)).below b5 (Nat.le_refl _)).below (dr_below w5.heap.size _ d6) (Nat.le_refl _))).mono ?_
        rintro e w7 ⟨rfl, d7, rfl⟩
        go_wp2
        go_ret
        exact ⟨ret_bool (by simp), c5.trans (dr_below _ _ _)⟩
  · go_enter Tryd.func4, Tryd.ntmps4
    go_wp2_with (fail)
    refine (attAwake_any w HW.out).mono ?_
    rintro e w1 ⟨rfl, c1⟩
    go_wp2
    clear d0 d1 d2 d3
    go_loopw [8, 10, 11] (fun v8 v10 v11 wr => ∃ (i : Nat) (S : ByteArray) (ps : List Ln), v8 = .string S ∧ v11 = .int .i64 (i : Int) ∧ wr.ownsRow w1.heap.size 27 2 v10 (ps.foldl addW []).length (cellsR (ps.foldl addW [])) ∧ Below w1.heap.size w1 wr ∧ i ≤ len0 ∧ S.data.toList = wrL 39 ps ∧ S.size ≤ 70 * i ∧ (ps.foldl addW []).length ≤ i ∧ ∀ p ∈ ps, Plain2 39 p) (fun _ _ v _ => len0 - (intOf v).toNat)
    case atStart => exact ⟨0, ⟨#[]⟩, [], rfl, rfl, World.ownsRow_nil _ _ _ _, Below.refl _ _, Nat.zero_le _, rfl, Nat.le_refl _, Nat.le_refl _, by simp⟩
    case round =>
      obtain ⟨i, S, ps, rfl, rfl, hown, hbw, hi, hS, hSs, hpl, hps⟩ := hrel
      have c2 := c1.trans (hbw.mono c1.size)
      have C2 := Lib.hid c2
      have HOW := Lib.hid hown
      have HTX := Lib.hid hS
      have HPS := Lib.hid hps
      obtain ⟨W, hW⟩ : ∃ W, ps.foldl addW [] = W := ⟨_, rfl⟩
      rw [hW] at HOW hpl
      have HWW := Lib.hid hW
      have hsz := hbw.size
      have hcs := c1.size
      by_cases hlt : i < len0
      · obtain ⟨x, rfl, hz, hwf⟩ := (HZ.out.below c2 (Nat.le_refl _)).2.2 i hlt
        obtain ⟨y, rfl, hv⟩ := (HS.out.below c2 (Nat.le_refl _)).2.2 i (by omega)
        have hb : 0 ≤ z0 i ∧ z0 i ≤ 255 := by simpa [Lit.wf, IntKind.min, IntKind.max, IntKind.signed, IntKind.bits] using hwf
        obtain ⟨z, hzz⟩ : ∃ z, z0 i = z := ⟨_, rfl⟩
        rw [hzz] at hz hb
        obtain ⟨V, hVV⟩ : ∃ V, s1 i = V := ⟨_, rfl⟩
        rw [hVV] at hv
        obtain ⟨z1, z2⟩ := hb
        clear hwf hzz hVV hown hS hps hW
        by_cases hv60 : 60 < V.size
        · have d4 : decide ((60 : Int) < (V.size : Int)) = true := decide_eq_true (by omega)
          go_wp2
          go_ret
          exact ⟨rfl, C2.out⟩
        have d4 : decide ((60 : Int) < (V.size : Int)) = false := decide_eq_false (by omega)
        have hVs : V.size ≤ 60 := by omega
        clear hv60
        go_wp2
        go_loopw [13] (fun v wr' => ∃ k : Nat, v = .int .i64 (k : Int) ∧ wr = wr' ∧ k ≤ V.size ∧ ∀ x ∈ V.data.toList.take k, okW x) (fun v _ => V.size - (intOf v).toNat)
        case atStart => exact ⟨0, rfl, rfl, Nat.zero_le _, by simp⟩
        case round =>
          obtain ⟨k, rfl, rfl, hk, hall⟩ := hrel
          by_cases hkt : k < V.size
          · by_cases h34 : ((V[k].toNat : Nat) : Int) = 34
            · have b34 : (((V[k].toNat : Nat) : Int) == 34) = true := beq_iff_eq.2 h34
              clear hall h34
              go_wp2
              go_ret
              exact ⟨rfl, C2.out⟩
            · by_cases h39 : ((V[k].toNat : Nat) : Int) = 39
              · have b34 : (((V[k].toNat : Nat) : Int) == 34) = false := beq_eq_false_iff_ne.2 h34
                have b39 : (((V[k].toNat : Nat) : Int) == 39) = true := beq_iff_eq.2 h39
                clear hall h34 h39
                go_wp2
                go_ret
                exact ⟨rfl, C2.out⟩
              · by_cases h38 : ((V[k].toNat : Nat) : Int) = 38
                · have b34 : (((V[k].toNat : Nat) : Int) == 34) = false := beq_eq_false_iff_ne.2 h34
                  have b39 : (((V[k].toNat : Nat) : Int) == 39) = false := beq_eq_false_iff_ne.2 h39
                  have b38 : (((V[k].toNat : Nat) : Int) == 38) = true := beq_iff_eq.2 h38
                  clear hall h34 h39 h38
                  go_wp2
                  go_ret
                  exact ⟨rfl, C2.out⟩
                · by_cases h0 : ((V[k].toNat : Nat) : Int) = 0
                  · have b34 : (((V[k].toNat : Nat) : Int) == 34) = false := beq_eq_false_iff_ne.2 h34
                    have b39 : (((V[k].toNat : Nat) : Int) == 39) = false := beq_eq_false_iff_ne.2 h39
                    have b38 : (((V[k].toNat : Nat) : Int) == 38) = false := beq_eq_false_iff_ne.2 h38
                    have b0 : (((V[k].toNat : Nat) : Int) == 0) = true := beq_iff_eq.2 h0
                    clear hall h34 h39 h38 h0
                    go_wp2
                    go_ret
                    exact ⟨rfl, C2.out⟩
                  · have HA := Lib.hid (okW_next V k hkt hall ⟨u8_ne _ 34 (by decide) h34, u8_ne _ 39 (by decide) h39, u8_ne _ 38 (by decide) h38, u8_ne _ 0 (by decide) h0⟩)
                    have b34 : (((V[k].toNat : Nat) : Int) == 34) = false := beq_eq_false_iff_ne.2 h34
                    have b39 : (((V[k].toNat : Nat) : Int) == 39) = false := beq_eq_false_iff_ne.2 h39
                    have b38 : (((V[k].toNat : Nat) : Int) == 38) = false := beq_eq_false_iff_ne.2 h38
                    have b0 : (((V[k].toNat : Nat) : Int) == 0) = false := beq_eq_false_iff_ne.2 h0
                    clear hall h34 h39 h38 h0
                    go_wp2
                    go_roundw
                    case rel => exact ⟨k + 1, by simp, trivial, by omega, HA.out⟩
                    case measure => simp [intOf]; omega
          · have hVok : ∀ x ∈ V.data.toList, okW x := by
              rw [List.take_of_length_le (by rw [← Lib.size_eq]; omega)] at hall
              exact hall
            have y0 : 0 ≤ z % 5 := Int.emod_nonneg _ (by decide)
            have y1 : z % 5 < 5 := Int.emod_lt_of_pos _ (by decide)
            obtain ⟨C, hC⟩ : ∃ C : UInt8, (C.toNat : Int) = 97 + z % 5 := ⟨UInt8.ofNat (97 + z % 5).toNat, by rw [UInt8.toNat_ofNat']; omega⟩
            have hpp := plain_pair 39 (.inr rfl) C (by omega) (by omega) V hVok
            have HC := Lib.hid hC
            obtain ⟨N, hN⟩ : ∃ N : ByteArray, ⟨#[C, 120]⟩ = N := ⟨_, rfl⟩
            have hNl : N.data.toList = [C, 120] := by rw [← hN]
            have hNs : N.size = 2 := by rw [← hN]; rfl
            have hN2 : N.size ≤ 2 := by omega
            have HN := Lib.hid hN
            rw [← hNl] at hpp
            have HPP := Lib.hid hpp
            have HNL := Lib.hid hNl
            have HTX2 := Lib.hid (text_snoc 39 S N V ps HTX.out)
            have t1 : (ByteArray.mk #[32]).size = 1 := rfl
            have t2 : (ByteArray.mk #[61]).size = 1 := rfl
            have t3 : (ByteArray.mk #[39]).size = 1 := rfl
            have hsum : S.size + 1 + N.size + 1 + 1 + V.size + 1 ≤ 70 * i + 66 := by omega
            have HSZ := Lib.hid (show (S ++ ⟨#[32]⟩ ++ N ++ ⟨#[61]⟩ ++ ⟨#[39]⟩ ++ V ++ ⟨#[39]⟩ : ByteArray).size ≤ 70 * (i + 1) by
              simp only [ByteArray.size_append, t1, t2, t3]; omega)
            clear hall hVok hC hN hNl hNs hpp t1 t2 t3
            go_wp2_with (fail)
            rw [twoByte _ _ 120 _ 120 HC.out rfl]
            simp only [Result.andThen]
            rw [Oper.upon_value]
            rw [HN.out]
            obtain ⟨aw, capw, rfl, hrw⟩ := isRows_own W HOW.out
            have HRW := Lib.hid ((hrw.below ((Below.refl wr.heap.size wr).alloc (Nat.le_refl _) (.cells #[.int .u8 (97 + z % 5), .int .u8 120] 5)) (Nat.le_refl _)))
            clear hrw
            obtain ⟨wr2, hwr2⟩ : ∃ wr2, wr.alloc (.cells #[.int .u8 (97 + z % 5), .int .u8 120] 5) = wr2 := ⟨_, rfl⟩
            have HOW2 := Lib.hid (HOW.out.alloc (.cells #[.int .u8 (97 + z % 5), .int .u8 120] 5))
            have BW2 := hbw.alloc hsz (.cells #[.int .u8 (97 + z % 5), .int .u8 120] 5)
            rw [hwr2] at HRW HOW2 BW2 ⊢
            have HF := Lib.hid (fold_snoc ps (N.data.toList, V.data.toList))
            clear hwr2
            go_wp2
            go_loopw [15, 16] (fun v15 v16 wr' => ∃ (k : Nat) (b : Bool), v15 = .bool b ∧ v16 = .int .i64 (k : Int) ∧ wr2 = wr' ∧ k ≤ W.length ∧ Hid (b = (W.take k).any (fun r => r.1 == N.data.toList))) (fun _ v _ => W.length - (intOf v).toNat)
            case atStart => exact ⟨0, false, rfl, rfl, rfl, Nat.zero_le _, Lib.hid (by simp)⟩
            case round =>
              obtain ⟨k, b, rfl, rfl, rfl, hk, hb⟩ := hrel
              by_cases hkt : k < W.length
              · obtain ⟨u, rfl, u1, -⟩ := HRW.out.2.2.2 k hkt
                have HA := Lib.hid (any_snoc W k hkt N.data.toList)
                unfold strV at u1
                obtain ⟨K, hK⟩ : ∃ K : ByteArray, ⟨W[k].1.toArray⟩ = K := ⟨_, rfl⟩
                have e0 : (K.toList == N.toList) = (W[k].1 == N.data.toList) := by
                  rw [← hK, ByteArray.toList_eq, ByteArray.toList_eq]
                rw [hK] at u1
                obtain ⟨e, he⟩ : ∃ e, (W[k].1 == N.data.toList) = e := ⟨_, rfl⟩
                rw [he] at e0 HA
                clear hK he
                cases e
                · go_wp2
                  go_roundw
                  case rel => exact ⟨k + 1, b, rfl, by simp, trivial, by omega, Lib.hid (by rw [HA.out, ← hb.out]; simp)⟩
                  case measure => simp [intOf]; omega
                · go_wp2
                  go_roundw
                  case rel => exact ⟨k + 1, true, rfl, by simp, trivial, by omega, Lib.hid (by rw [HA.out]; simp)⟩
                  case measure => simp [intOf]; omega
              · have hall : W.take k = W := List.take_of_length_le (by omega)
                rw [hall] at hb
                have HPA : Hid (∀ p ∈ ps ++ [(N.data.toList, V.data.toList)], Plain2 39 p) := Lib.hid (fun p hp => by
                  rcases List.mem_append.1 hp with hp | hp
                  · exact HPS.out p hp
                  · rw [List.mem_singleton.1 hp]; exact HPP.out)
                clear hall
                cases b
                · have HFF : Hid ((ps ++ [(N.data.toList, V.data.toList)]).foldl addW [] = W ++ [(N.data.toList, V.data.toList)]) := Lib.hid (by
                    rw [HF.out, HWW.out]; unfold addW; rw [← hb.out]; rfl)
                  go_wp2_with (at_builtin; refine wpList_append_own _ rfl _ _ 23 rfl w1.heap.size 27 i0 _ 2 32 Tryd.underlying23 hi0 hz0 hz1 hz2 rfl (by decide) _ W.length (cellsR W) rfl (HOW2.out.alloc _) ⟨wr2.heap.size, 0, none⟩ 1 1 [strV N.data.toList, strV V.data.toList] rfl rfl ?c1 ?c2 ?c3 ?c4 ?c5 ?_)
                  case c1 => exact new_two _ _ _ _
                  case c2 => intro u hu; simp at hu; rcases hu with rfl | rfl <;> rfl
                  case c3 => simp [maxLen]; omega
                  case c4 => omega
                  case c5 => have := BW2.size; simp; omega
                  intro v1 w5 hown1 hgr1 _
                  have B5 : Below w1.heap.size w1 w5 := (BW2.alloc BW2.size _).grown hgr1 (by have := BW2.size; simp; omega) (fun k hk => (HOW2.out.lt k hk).1)
                  rw [cellsR_add, show W.length + 1 = (W ++ [(N.data.toList, V.data.toList)]).length by simp] at hown1
                  have HOWN := Lib.hid hown1
                  have HB5 := Lib.hid B5
                  clear hown1 hgr1 B5
                  go_wp2
                  go_roundw
                  case rel => exact ⟨i + 1, _, ps ++ [(N.data.toList, V.data.toList)], rfl, by simp, by rw [HFF.out]; exact HOWN.out, HB5.out, by omega, HTX2.out, HSZ.out, by rw [HFF.out]; simp; omega, HPA.out⟩
                  case measure => simp [intOf]; omega
                · have HFF : Hid ((ps ++ [(N.data.toList, V.data.toList)]).foldl addW [] = W) := Lib.hid (by
                    rw [HF.out, HWW.out]; unfold addW; rw [← hb.out]; rfl)
                  go_wp2
                  go_roundw
                  case rel => exact ⟨i + 1, _, ps ++ [(N.data.toList, V.data.toList)], rfl, by simp, by rw [HFF.out]; exact HOW2.out, BW2, by omega, HTX2.out, HSZ.out, by rw [HFF.out]; omega, HPA.out⟩
                  case measure => simp [intOf]; omega
      · obtain ⟨T1, T2, T3⟩ := texts 39 (.inr rfl) S ps HTX.out HPS.out
        rw [hW] at T1 T2
        have HV1 := Lib.hid T1
        have HV2 := Lib.hid T2
        have HV3 := Lib.hid T3
        obtain ⟨aw, capw, rfl, hrw⟩ := isRows_own W HOW.out
        have HRW := Lib.hid hrw
        have u1 : (ByteArray.mk #[62]).size = 1 := rfl
        have u2 : (ByteArray.mk #[32, 47, 62]).size = 3 := rfl
        have HR1 := fun w h => Lib.hid (attrs_any (S ++ ⟨#[62]⟩) 0 w (by rw [ByteArray.size_append, u1]; omega) (by decide) h)
        have HR2 := fun w h => Lib.hid (attrs_any (S ++ ⟨#[32, 47, 62]⟩) 0 w (by rw [ByteArray.size_append, u2]; omega) (by decide) h)
        have HR3 := fun w h => Lib.hid (attrs_any S 0 w (by omega) (by decide) h)
        clear T1 T2 T3 hrw hown hS hps hW u1 u2
        go_wp2_with (fail)
        refine (HR1 _ (HW.out.below c2)).out.mono ?_
        rintro e w3 ⟨ad3, len3, cap3, l3, self3, n3, ok3, rfl, hr3, hv3, b3⟩
        rw [HV1.out] at hv3
        simp only [Prod.mk.injEq] at hv3
        obtain ⟨rfl, rfl, rfl, rfl⟩ := hv3
        have c3 := c2.trans (b3.mono c2.size)
        have K3 := Lib.hid hr3
        clear hr3
        go_wp2_with (fail)
        refine (HR2 _ (HW.out.below c3)).out.mono ?_
        rintro e w4 ⟨ad4, len4, cap4, l4, self4, n4, ok4, rfl, hr4, hv4, b4⟩
        rw [HV2.out] at hv4
        simp only [Prod.mk.injEq] at hv4
        obtain ⟨rfl, rfl, rfl, rfl⟩ := hv4
        have c4 := c3.trans (b4.mono c3.size)
        have K4 := Lib.hid hr4
        clear hr4
        go_wp2_with (fail)
        refine (HR3 _ (HW.out.below c4)).out.mono ?_
        rintro e w5 ⟨ad5, len5, cap5, l5, self5, n5, ok5, rfl, hr5, hv5, b5⟩
        rw [HV3.out] at hv5
        simp only [Prod.mk.injEq] at hv5
        obtain ⟨rfl, rfl, rfl, rfl⟩ := hv5
        have c5 := c4.trans (b5.mono c4.size)
        have K5 := Lib.hid hr5
        clear hr5
        go_wp2_with (fail)
        refine (refSame_any _ _ _ _ _ _ W W _ ((K3.out.below b4 (Nat.le_refl _)).below b5 (Nat.le_refl _)) (((HRW.out.below b3 (Nat.le_refl _)).below b4 (Nat.le_refl _)).below b5 (Nat.le_refl _))).mono ?_
        rintro e w6 ⟨rfl, d6, rfl⟩
        go_wp2_with (fail)
        refine (refSame_any _ _ _ _ _ _ W W _ ((K4.out.below b5 (Nat.le_refl _)).below (dr_below w5.heap.size _ d6) (Nat.le_refl _)) ((((HRW.out.below b3 (Nat.le_refl _)).below b4 (Nat.le_refl _)).below b5 (Nat.le_refl _)).below (dr_below w5.heap.size _ d6) (Nat.le_refl _))).mono ?_
        rintro e w7 ⟨rfl, d7, rfl⟩
        go_wp2
        go_ret
        exact ⟨ret_bool (by simp), c5.trans (dr_below _ _ _)⟩

theorem laid_met (os : Os) : laidMet Tryd.prog Rows.attrsWrittenRow.laid ((laidWorld os).forCall (fun _ _ => 0) ⟨#[], #[.slice none 0 0, .slice none 0 0, .bool false], []⟩).memory :=
  laidMet_of_run' 8 (by kernel_rfl) (by kernel_rfl)
theorem reads (os : Os) {H : Type} (enc : TypeId × Value → H) : ∃ places, DataW.whole enc Tryd.prog ((laidWorld os).forCall (fun _ _ => 0) ⟨#[], #[.slice none 0 0, .slice none 0 0, .bool false], []⟩).memory Tryd.f4.params.toList Rows.attrsWrittenSpec.vars false (#[.slice none 0 0, .slice none 0 0, .bool false] : Array Value).toList 8 = some ([.nil, .nil, .lit (.bool false)], [], places) :=
  ⟨[], by kernel_rfl⟩
set_option maxRecDepth 100000 in
theorem lifted (os : Os) (started : os.Started) (H : Type) (enc : TypeId × Value → H) (F : Stop.Interp) :
    ReturnsInHanded {} Tryd.checked os 4 .any ((OpenSpec.ofChange Rows.attrsWrittenSpec).preRow enc Tryd.prog Tryd.f4 Rows.attrsWrittenRow.domain false Rows.attrsWrittenRow.laid) (((OpenSpec.ofChange Rows.attrsWrittenSpec).at F).post enc Tryd.prog Tryd.f4 false true false false) := by
  obtain ⟨places, hx⟩ := reads os enc
  refine returnsInHanded_of_row (C := Tryd.checked) (s := OpenSpec.ofChange Rows.attrsWrittenSpec) own started (by kernel_rfl) Tryd.func4
    (witness_row_at (enc := enc) (C := Tryd.checked) false (laidWorld os) #[.slice none 0 0, .slice none 0 0, .bool false] rfl (by kernel_rfl) (by kernel_rfl) (by kernel_rfl)
      (OpenSpec.preRow_of_cond 8 hx (by kernel_rfl) (fun k hk => by cases hk) (by kernel_rfl) (laid_met os))) ?_
  intro W base args ds gs before hval0 hW _ _ _ hL _ _
  have hval : ∀ (j : Nat) t v, Tryd.f4.params[j]? = some t → args[j]? = some v → Value.okWide Tryd.prog W .any base t v := hval0
  have hW' := hW
  obtain ⟨p, q, hA0, hV, rfl, hfz, hnd⟩ := hW
  have hA : DataW.TrodAll enc Tryd.prog W 0 (fun _ => true) true Tryd.f4.params.toList args.toList ds p := hA0
  rw [Tryd.params4] at hA hval
  obtain ⟨v0, vs0, d0, ds0, p0, q0, hargs, rfl, rfl, h0, r0⟩ := trodAll_cons hA
  obtain ⟨v1, vs1, d1, ds1, p1, q1, rfl, rfl, rfl, h1, r1⟩ := trodAll_cons r0
  obtain ⟨v2, vs2, d2, ds2, p2, q2, rfl, rfl, rfl, h2, r2⟩ := trodAll_cons r1
  obtain ⟨rfl, rfl, rfl⟩ := trodAll_nil r2
  obtain rfl : args = #[v0, v1, v2] := by cases args; simp_all
  obtain ⟨rfl, rfl⟩ := trodVars_none hV
  obtain ⟨a0, len0, cap0, rfl⟩ := okWide_slice Tryd.underlying29 (hval 0 29 v0 rfl rfl)
  have k0 := h0
  have lt0 : ∀ x ∈ p0, x.block < W.heap.size := by obtain ⟨m, hm⟩ := k0; exact DataW.trod_lt m _ _ _ hm
  obtain ⟨z0, w0⟩ : ∃ z, IsInts .u8 W a0 len0 cap0 z := by
    obtain ⟨fuel, hf⟩ := h0
    rcases open_ints Tryd.underlying29 Tryd.underlying5 (by kernel_rfl) hf with ⟨hcs, _⟩ | ⟨x, l, c, zs, hcs, _, hl, hm, hz, _, hcell, hwz⟩
    · simp [Value.cells] at hcs
      obtain ⟨rfl, rfl, rfl⟩ := hcs
      exact ⟨fun _ => 0, Nat.le_refl _, by simp [maxLen], fun i hi => absurd hi (by omega)⟩
    · simp [Value.cells] at hcs
      obtain ⟨rfl, rfl, rfl⟩ := hcs
      have hzl : zs.length = cap0 := by simpa using hz
      refine ⟨fun i => zs.getD i 0, hl, hm, fun i hi => ⟨_, rfl, hcell i (by omega), ?_⟩⟩
      have hi' : i < zs.length := by omega
      simp only [List.getD_eq_getElem?_getD, List.getElem?_eq_getElem hi', Option.getD_some]
      exact hwz _ (List.getElem_mem hi')
  obtain ⟨a1, len1, cap1, rfl⟩ := okWide_slice Tryd.underlying30 (hval 1 30 v1 rfl rfl)
  have k1 := h1
  have lt1 : ∀ x ∈ p1, x.block < W.heap.size := by obtain ⟨m, hm⟩ := k1; exact DataW.trod_lt m _ _ _ hm
  obtain ⟨s1, w1⟩ : ∃ f, IsStrs W a1 len1 cap1 f := by
    obtain ⟨fuel, hf⟩ := h1
    rcases Go.Deep.open_strs Tryd.underlying30 Tryd.underlying9 (by kernel_rfl) hf with ⟨hcs, _⟩ | ⟨x, l, c, m, Sx, hcs, _, hl, hm, hmm, _, hx⟩
    · simp [Value.cells] at hcs
      obtain ⟨rfl, rfl, rfl⟩ := hcs
      exact ⟨fun _ => ⟨#[]⟩, Nat.le_refl _, by simp [maxLen], fun i hi => absurd hi (by omega)⟩
    · simp [Value.cells] at hcs
      obtain ⟨rfl, rfl, rfl⟩ := hcs
      exact ⟨Sx, hl, hm, fun i hi => ⟨_, rfl, (hx i (by rw [hmm]; split <;> omega)).1⟩⟩
  obtain ⟨a2, rfl, rfl, rfl⟩ := open_bool Tryd.underlying4 (hval 2 4 v2 rfl rfl) h2
  clear hA0 hval0
  refine (walk a0 len0 cap0 z0 a1 len1 cap1 s1 a2 W (tabAt_of hL) w0 w1).mono fun e W' ⟨he, bel⟩ => ?_
  subst he
  exact ⟨_, rfl, _, _, _, [], _, [], hW', trodAll_mk1 (shut_bool Tryd.underlying4 _), (trodAll_cons_mk (Below.trod laidOut (by kernel_rfl) (of_decide_eq_true (by kernel_rfl)) k0 bel lt0) (trodAll_cons_mk (Below.trod laidOut (by kernel_rfl) (of_decide_eq_true (by kernel_rfl)) k1 bel lt1) (trodAll_cons_mk (shut_bool Tryd.underlying4 a2) trodAll_mk0))), rfl, bel.frame _, fun h => by cases h⟩

theorem said : Rows.AttrsWrittenSaid :=
  OpenClaim.holds_of_cond 4 Tryd.f4 rfl rfl rfl rfl rfl rfl rfl ⟨rfl, rfl, rfl, rfl, rfl⟩ rfl rfl rfl rfl rfl (by kernel_rfl) Tryd.func4 (by kernel_rfl)
    (of_decide_eq_true (by kernel_rfl)) (by unfold Func.isWrapper; first | (rw [if_pos (by decide +kernel)]; kernel_rfl) | (rw [if_neg (by decide +kernel)]; exact ⟨rfl, rfl⟩))
    (fun os started H enc _ F => by rw [OpenClaim.pre_eq_preRow]; exact lifted os started H enc F)
theorem plain (f : FuncId) (fn : Func) (hf : Tryd.pinned.checked.prog.funcNamed "flail/flaillaw08.AttrsWritten" = some f) (hfn : Tryd.pinned.checked.prog.funcs[f]? = some fn) :
    true = Tryd.pinned.checked.prog.looks [] ∧ ∀ (j : Nat) t, fn.params[j]? = some t → Tryd.pinned.checked.prog.wantsStandIn t = false := by
  obtain rfl : f = 4 := Option.some.inj ((show Tryd.prog.funcNamed "flail/flaillaw08.AttrsWritten" = some 4 by kernel_rfl).symm.trans hf) |>.symm
  obtain rfl : fn = Tryd.f4 := (Option.some.inj (Tryd.func4.symm.trans hfn)).symm
  refine ⟨by kernel_rfl, fun j t ht => ?_⟩
  rw [Tryd.params4] at ht
  have hm : t ∈ [29, 30, 4] := by simpa using Array.mem_of_getElem? ht
  have hall : ([29, 30, 4].all fun u => !Tryd.prog.wantsStandIn u) = true := by kernel_rfl
  exact (show Tryd.prog.wantsStandIn t = false by simpa using List.all_eq_true.1 hall t hm)
/-- the statement: the row's card -/
theorem proved : Rows.AttrsWrittenCardSaid :=
  Claim7.holds_tied_plain_at .later [] _ _ _ _ said (fun _ h => by cases h) (by kernel_rfl) (fun _ h => by cases h) attrsWritten_row_tie rfl ⟨rfl, rfl⟩ (by kernel_rfl) rfl plain (by kernel_rfl)
end Go.Proofs.YtpdmnnfbdeiejaaDoor.attrsWritten
