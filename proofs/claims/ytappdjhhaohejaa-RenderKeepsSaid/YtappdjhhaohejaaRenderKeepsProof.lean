/-
  The law RenderKeeps of flail/flaillaw19 answers true for every input, and changes nothing that was there. No condition.
-/
import Derived.Test.YtappdjhhaohejaaRows
import Derived.Test.YtappdjhhaohejaaRenAwake
import Derived.WalkKit
import Derived.ProofKit
import Derived.OpenShut
import Derived.ShutString
import Derived.ChangeOld
import Derived.Below
namespace Go.Proofs.Ytappdjhhaohejaa.renderKeeps
open Go.ChangeShapes Go.WideShapes Go.ChangeAt Go.RowKit
open Go.ChangeMaps (open_string shut_string)
set_option linter.unusedVariables false

theorem own : ownKnob Try.prog.godebug = none := by kernel_rfl
theorem laidOut : laidOutB Try.prog = true := by kernel_rfl

/-- WHAT THE WALK IS TOLD OF A SLICE OF INTEGERS THAT CAME IN: it is nil; or it leads to a row of 'cap' cells, the numbers 'zs' (the first 'len' are its elements, the rest its spare room), each fitting its kind. -/
def IsRow (k : IntKind) (w : World) (a : Option Addr) (len cap : Nat) (zs : List Int) : Prop :=
  (a = none ∧ len = 0 ∧ cap = 0 ∧ zs = []) ∨
  ∃ x, a = some x ∧ len ≤ cap ∧ cap ≤ maxLen ∧ zs.length = cap ∧ (∀ i, i < zs.length → w.cell? (x.add i) = some (.int k (zs.getD i 0))) ∧ ∀ n ∈ zs, (Lit.int k n).wf = true

def nmK : List Txt := [[112, 114, 101], [116, 101, 120, 116, 97, 114, 101, 97], [108, 105, 115, 116, 105, 110, 103], [120, 109, 112], [112, 108, 97, 105, 110, 116, 101, 120, 116]]
def nmKLit : Array Value := #[.string ⟨#[112, 114, 101]⟩, .string ⟨#[116, 101, 120, 116, 97, 114, 101, 97]⟩, .string ⟨#[108, 105, 115, 116, 105, 110, 103]⟩, .string ⟨#[120, 109, 112]⟩, .string ⟨#[112, 108, 97, 105, 110, 116, 101, 120, 116]⟩]
theorem nmK_lit : nmKLit = (nmK.map fun n => Value.string ⟨n.toArray⟩).toArray := by rfl
theorem nmK_cell (i : Nat) (h : i < nmK.length) : nmKLit[i]? = some (.string ⟨nmK[i].toArray⟩) := by
  rw [nmK_lit, List.getElem?_toArray, List.getElem?_map, List.getElem?_eq_getElem h]; rfl
theorem nmK_kee : ∀ n ∈ nmK, n ∈ keeL := by decide +kernel
theorem kept_step (l : List Nat) (i : Nat) (h : i < l.length) : keptL (l.take (i + 1)) = keptL (l.take i) ++ gapN l[i] ++ [121] := by
  unfold keptL
  rw [List.take_succ_eq_append_getElem h, List.flatMap_append, List.flatMap_singleton]
  simp
theorem lost_step (l : List Nat) (i : Nat) (h : i < l.length) : lostL (l.take (i + 1)) = lostL (l.take i) ++ (if 0 < l[i] % 4 then [32] else []) ++ [121] := by
  unfold lostL
  rw [List.take_succ_eq_append_getElem h, List.flatMap_append, List.flatMap_singleton]
  simp
theorem gap_len (n : Nat) : (gapN n).length = n % 4 := by unfold gapN; rw [List.length_replicate]
theorem kept_len (l : List Nat) : (keptL l).length ≤ 1 + 4 * l.length := by
  unfold keptL
  rw [List.length_cons]
  induction l with
  | nil => simp
  | cons n l ih =>
    rw [List.flatMap_cons, List.length_append, List.length_append, gap_len, List.length_cons, List.length_cons, List.length_nil]
    omega
theorem lost_len (l : List Nat) : (lostL l).length ≤ 1 + 2 * l.length := by
  unfold lostL
  rw [List.length_cons]
  induction l with
  | nil => simp
  | cons n l ih =>
    rw [List.flatMap_cons, List.length_append, List.length_append, List.length_cons, List.length_cons, List.length_nil]
    have : (if 0 < n % 4 then ([32] : Txt) else []).length ≤ 1 := by split <;> simp
    omega
set_option maxRecDepth 100000 in
set_option maxHeartbeats 8000000 in
theorem walk (a0 : Option Addr) (len0 cap0 : Nat) (z0 : List Int) (a1 : Int) (w : World) (w0 : IsRow .u8 w a0 len0 cap0 z0) (w1 : (Lit.int .u8 a1).wf = true) :
    Calls Try.prog 8 #[.slice a0 len0 cap0, .int .u8 a1] w fun e w' => e = .returned (.bool true) ∧ Below w.heap.size w w' := by
  have hb1 : 0 ≤ a1 ∧ a1 ≤ 255 := by simpa [Lit.wf, IntKind.min, IntKind.max, IntKind.signed, IntKind.bits] using w1
  obtain ⟨hb10, hb11⟩ := hb1
  have hHT := (ren_here w)
  have HW := Lib.hid hHT
  clear hHT
  skip
  clear w1
  by_cases hl60 : 60 < len0
  · have d0 : decide ((60 : Int) < (len0 : Int)) = true := decide_eq_true (by omega)
    clear w0 hl60
    go_enter Try.func8, Try.ntmps8
    go_wp2_with (fail)
    refine (renAwake_any w HW.out).mono ?_
    rintro e w1 ⟨rfl, c1⟩
    go_wp2
    go_ret
    exact ⟨rfl, c1⟩
  have d0 : decide ((60 : Int) < (len0 : Int)) = false := decide_eq_false (by omega)
  have h60 : len0 ≤ 60 := by omega
  have hrow : len0 ≤ cap0 ∧ cap0 ≤ maxLen ∧ len0 ≤ z0.length ∧ (∀ i, i < len0 → 0 ≤ z0.getD i 0 ∧ z0.getD i 0 < 256) ∧ ∀ i, i < len0 → ∃ x, a0 = some x ∧ w.cell? (x.add i) = some (.int .u8 (z0.getD i 0)) := by
    rcases w0 with ⟨rfl, h1, h2, h3⟩ | ⟨x, rfl, hlc, hcm, hzl, hcell, hwf⟩
    · subst h1
      subst h2
      exact ⟨Nat.le_refl _, Nat.zero_le _, Nat.zero_le _, fun i hi => by omega, fun i hi => by omega⟩
    · refine ⟨hlc, hcm, by omega, fun i hi => ?_, fun i hi => ⟨x, rfl, hcell i (by omega)⟩⟩
      have hi' : i < z0.length := by omega
      have hw := hwf z0[i] (List.getElem_mem hi')
      have hb : 0 ≤ z0[i] ∧ z0[i] ≤ 255 := by simpa [Lit.wf, IntKind.min, IntKind.max, IntKind.signed, IntKind.bits] using hw
      rw [List.getD_eq_getElem?_getD, List.getElem?_eq_getElem hi']
      exact ⟨hb.1, by have := hb.2; show z0[i] < 256; omega⟩
  obtain ⟨hlc, hcm, hzl, hzb, hzc⟩ := hrow
  unfold maxLen at hcm
  obtain ⟨ns, hns⟩ : ∃ ns, (z0.take len0).map Int.toNat = ns := ⟨_, rfl⟩
  have hnl : ns.length = len0 := by rw [← hns, List.length_map, List.length_take]; omega
  have HN := Lib.hid (show ∀ i (h : i < len0), ∃ x, a0 = some x ∧ w.cell? (x.add i) = some (.int .u8 ((ns[i]'(by omega) : Nat) : Int)) ∧ (ns[i]'(by omega)) < 256 from fun i h => by
    obtain ⟨x, hx, hc⟩ := hzc i h
    obtain ⟨h1, h2⟩ := hzb i h
    have e : ((ns[i]'(by omega) : Nat) : Int) = z0.getD i 0 := by
      subst hns
      rw [List.getElem_map, List.getElem_take]
      rw [List.getD_eq_getElem?_getD, List.getElem?_eq_getElem (by omega)] at h1 ⊢
      show ((z0[i].toNat : Nat) : Int) = z0[i]
      have : 0 ≤ z0[i] := h1
      omega
    refine ⟨x, hx, by rw [e]; exact hc, ?_⟩
    omega)
  clear hzb hzc hns hzl w0
  obtain ⟨R, hR⟩ : ∃ R : Nat, a1 % 5 = (R : Int) := ⟨(a1 % 5).toNat, by omega⟩
  have hR2 : R < 5 := by omega
  have hRT : R < nmK.length := hR2
  have hcell0 := nmK_cell R hRT
  have hmem := nmK_kee _ (List.getElem_mem hRT)
  obtain ⟨nm, hnm⟩ : ∃ nm, nmK[R] = nm := ⟨_, rfl⟩
  rw [hnm] at hcell0 hmem
  obtain ⟨N, hN⟩ : ∃ N : ByteArray, (⟨nm.toArray⟩ : ByteArray) = N := ⟨_, rfl⟩
  rw [hN] at hcell0
  have HNM := Lib.hid hN
  have HME := Lib.hid hmem
  obtain ⟨hlt', hget⟩ := List.getElem?_eq_some_iff.1 (show ([.string ⟨#[112, 114, 101]⟩, .string ⟨#[116, 101, 120, 116, 97, 114, 101, 97]⟩, .string ⟨#[108, 105, 115, 116, 105, 110, 103]⟩, .string ⟨#[120, 109, 112]⟩, .string ⟨#[112, 108, 97, 105, 110, 116, 101, 120, 116]⟩] : List Value)[R]? = some (.string N) from by rw [← hcell0, ← Array.getElem?_toList]; rfl)
  clear hcell0 hnm hN hmem hRT hl60
  go_enter Try.func8, Try.ntmps8
  go_wp2_with (fail)
  refine (renAwake_any w HW.out).mono ?_
  rintro e w1 ⟨rfl, c1⟩
  have B1 := Lib.hid (c1.alloc c1.size (.cells #[.string ⟨#[112, 114, 101]⟩, .string ⟨#[116, 101, 120, 116, 97, 114, 101, 97]⟩, .string ⟨#[108, 105, 115, 116, 105, 110, 103]⟩, .string ⟨#[120, 109, 112]⟩, .string ⟨#[112, 108, 97, 105, 110, 116, 101, 120, 116]⟩] 9))
  clear c1
  go_wp2
  clear d0 hR hget hlt' hR2 hb10 hb11
  obtain ⟨w2, hw2⟩ : ∃ w2, w1.alloc (.cells #[.string ⟨#[112, 114, 101]⟩, .string ⟨#[116, 101, 120, 116, 97, 114, 101, 97]⟩, .string ⟨#[108, 105, 115, 116, 105, 110, 103]⟩, .string ⟨#[120, 109, 112]⟩, .string ⟨#[112, 108, 97, 105, 110, 116, 101, 120, 116]⟩] 9) = w2 := ⟨_, rfl⟩
  rw [hw2] at B1 ⊢
  clear hw2
  go_loopw [8, 9, 10] (fun v8 v9 v10 wr => ∃ (i : Nat) (D E : ByteArray), v10 = .int .i64 (i : Int) ∧ v8 = .string D ∧ v9 = .string E ∧ i ≤ len0 ∧ w2 = wr ∧ Hid (D.data.toList = keptL (ns.take i)) ∧ Hid (E.data.toList = lostL (ns.take i))) (fun _ _ v _ => len0 - (intOf v).toNat)
  case atStart => exact ⟨0, ⟨#[120]⟩, ⟨#[120]⟩, rfl, rfl, rfl, Nat.zero_le _, rfl, Lib.hid rfl, Lib.hid rfl⟩
  case round =>
    obtain ⟨i, D, E, rfl, rfl, rfl, hi, rfl, HD, HE⟩ := hrel
    have hDs : D.size ≤ 400 := by
      have := kept_len (ns.take i)
      rw [List.length_take] at this
      rw [Lib.size_eq, HD.out]; omega
    have hEs : E.size ≤ 400 := by
      have := lost_len (ns.take i)
      rw [List.length_take] at this
      rw [Lib.size_eq, HE.out]; omega
    by_cases hlt : i < len0
    · obtain ⟨x, rfl, xc, xb⟩ := HN.out i hlt
      have x0 := (B1.out.cell (p := x.add i) (by have := block_lt_of_cell xc; exact this)).trans xc
      have hks := kept_step ns i (by omega)
      have hls := lost_step ns i (by omega)
      obtain ⟨n, hn⟩ : ∃ n, ns[i]'(by omega) = n := ⟨_, rfl⟩
      rw [hn] at x0 xb hks hls
      obtain ⟨r, hr⟩ : ∃ r, n % 4 = r := ⟨_, rfl⟩
      have hr4 : r < 4 := by omega
      have hri : (n : Int) % 4 = (r : Int) := by omega
      obtain ⟨c, hc⟩ : ∃ c : UInt8, (if 128 ≤ n then (10 : UInt8) else 32) = c := ⟨_, rfl⟩
      have hgap : gapN n = List.replicate r c := by unfold gapN; rw [hc, hr]
      rw [hgap] at hks
      rw [hr] at hls
      have HKS := Lib.hid hks
      have HLS := Lib.hid hls
      have HCC := Lib.hid hc
      clear hks hls hgap hn xc hr hc
      by_cases h128 : 128 ≤ n
      · have hd128 : decide ((128 : Int) ≤ (n : Int)) = true := decide_eq_true (by omega)
        have HC2 : Hid (c = 10) := Lib.hid (by rw [← HCC.out, if_pos h128])
        clear h128
        go_wp2
        go_loopw [8, 11] (fun v8 v11 w3 => ∃ (k : Nat) (G : ByteArray), v11 = .int .i64 (k : Int) ∧ v8 = .string G ∧ k ≤ r ∧ w2 = w3 ∧ Hid (G.data.toList = D.data.toList ++ List.replicate k c) ∧ G.size = D.size + k) (fun _ v _ => r - (intOf v).toNat)
        case atStart => exact ⟨0, D, rfl, rfl, Nat.zero_le _, rfl, Lib.hid (by simp), rfl⟩
        case round =>
          obtain ⟨k, G, rfl, rfl, hk, rfl, HG, hGs⟩ := hrel
          by_cases hkr : k < r
          · have HG2 := Lib.hid (show (G ++ ⟨#[10]⟩ : ByteArray).data.toList = D.data.toList ++ List.replicate (k + 1) c by
              rw [ByteArray.data_append, Array.toList_append, HG.out, List.replicate_succ', HC2.out, List.append_assoc])
            have g1 : ¬ 9223372036854775807 < G.size + (⟨#[10]⟩ : ByteArray).size := by rw [show (⟨#[10]⟩ : ByteArray).size = 1 from rfl]; omega
            have g2 : ¬ 9223372036854775807 < G.size + 1 := by omega
            have HGS := Lib.hid (show (G ++ ⟨#[10]⟩ : ByteArray).size = D.size + (k + 1) by rw [ByteArray.size_append, hGs, show (⟨#[10]⟩ : ByteArray).size = 1 from rfl]; omega)
            clear hGs
            go_wp2
            go_roundw
            case rel => exact ⟨k + 1, G ++ ⟨#[10]⟩, by go_num, rfl, by omega, trivial, HG2, HGS.out⟩
            case measure => simp [intOf]; omega
          · obtain rfl : k = r := by omega
            have g1 : ¬ 9223372036854775807 < G.size + (⟨#[121]⟩ : ByteArray).size := by rw [show (⟨#[121]⟩ : ByteArray).size = 1 from rfl]; omega
            have g2 : ¬ 9223372036854775807 < G.size + 1 := by omega
            have g3 : ¬ 9223372036854775807 < E.size + (⟨#[32]⟩ : ByteArray).size := by rw [show (⟨#[32]⟩ : ByteArray).size = 1 from rfl]; omega
            have g4 : ¬ 9223372036854775807 < E.size + 1 := by omega
            have g5 : ¬ 9223372036854775807 < (E ++ ⟨#[32]⟩ : ByteArray).size + (⟨#[121]⟩ : ByteArray).size := by rw [ByteArray.size_append, show (⟨#[32]⟩ : ByteArray).size = 1 from rfl, show (⟨#[121]⟩ : ByteArray).size = 1 from rfl]; omega
            have g6 : ¬ 9223372036854775807 < E.size + 1 + 1 := by omega
            have HD2 := Lib.hid (show (G ++ ⟨#[121]⟩ : ByteArray).data.toList = keptL (ns.take (i + 1)) by
              rw [ByteArray.data_append, Array.toList_append, HG.out, HKS.out, HD.out])
            clear hGs
            by_cases hk0 : k = 0
            · have dk : decide ((0 : Int) < (k : Int)) = false := decide_eq_false (by omega)
              have HE2 := Lib.hid (show (E ++ ⟨#[121]⟩ : ByteArray).data.toList = lostL (ns.take (i + 1)) by
                rw [ByteArray.data_append, Array.toList_append, HLS.out, HE.out, if_neg (by omega), List.append_nil])
              have hkn : ¬ 0 < k := by omega
              have hkd : decide (0 < k) = false := decide_eq_false hkn
              clear hk0
              go_wp2
              go_roundw
              case rel => exact ⟨i + 1, G ++ ⟨#[121]⟩, E ++ ⟨#[121]⟩, by go_num, rfl, rfl, by omega, trivial, HD2, HE2⟩
              case measure => simp [intOf]; omega
            · have dk : decide ((0 : Int) < (k : Int)) = true := decide_eq_true (by omega)
              have HE2 := Lib.hid (show (E ++ ⟨#[32]⟩ ++ ⟨#[121]⟩ : ByteArray).data.toList = lostL (ns.take (i + 1)) by
                rw [ByteArray.data_append, Array.toList_append, ByteArray.data_append, Array.toList_append, HLS.out, HE.out, if_pos (by omega)])
              have hkn : 0 < k := by omega
              have hkd : decide (0 < k) = true := decide_eq_true hkn
              clear hk0
              go_wp2
              go_roundw
              case rel => exact ⟨i + 1, G ++ ⟨#[121]⟩, E ++ ⟨#[32]⟩ ++ ⟨#[121]⟩, by go_num, rfl, rfl, by omega, trivial, HD2, HE2⟩
              case measure => simp [intOf]; omega
      · have hd128 : decide ((128 : Int) ≤ (n : Int)) = false := decide_eq_false (by omega)
        have HC2 : Hid (c = 32) := Lib.hid (by rw [← HCC.out, if_neg h128])
        clear h128
        go_wp2
        go_loopw [8, 11] (fun v8 v11 w3 => ∃ (k : Nat) (G : ByteArray), v11 = .int .i64 (k : Int) ∧ v8 = .string G ∧ k ≤ r ∧ w2 = w3 ∧ Hid (G.data.toList = D.data.toList ++ List.replicate k c) ∧ G.size = D.size + k) (fun _ v _ => r - (intOf v).toNat)
        case atStart => exact ⟨0, D, rfl, rfl, Nat.zero_le _, rfl, Lib.hid (by simp), rfl⟩
        case round =>
          obtain ⟨k, G, rfl, rfl, hk, rfl, HG, hGs⟩ := hrel
          by_cases hkr : k < r
          · have HG2 := Lib.hid (show (G ++ ⟨#[32]⟩ : ByteArray).data.toList = D.data.toList ++ List.replicate (k + 1) c by
              rw [ByteArray.data_append, Array.toList_append, HG.out, List.replicate_succ', HC2.out, List.append_assoc])
            have g1 : ¬ 9223372036854775807 < G.size + (⟨#[32]⟩ : ByteArray).size := by rw [show (⟨#[32]⟩ : ByteArray).size = 1 from rfl]; omega
            have g2 : ¬ 9223372036854775807 < G.size + 1 := by omega
            have HGS := Lib.hid (show (G ++ ⟨#[32]⟩ : ByteArray).size = D.size + (k + 1) by rw [ByteArray.size_append, hGs, show (⟨#[32]⟩ : ByteArray).size = 1 from rfl]; omega)
            clear hGs
            go_wp2
            go_roundw
            case rel => exact ⟨k + 1, G ++ ⟨#[32]⟩, by go_num, rfl, by omega, trivial, HG2, HGS.out⟩
            case measure => simp [intOf]; omega
          · obtain rfl : k = r := by omega
            have g1 : ¬ 9223372036854775807 < G.size + (⟨#[121]⟩ : ByteArray).size := by rw [show (⟨#[121]⟩ : ByteArray).size = 1 from rfl]; omega
            have g2 : ¬ 9223372036854775807 < G.size + 1 := by omega
            have g3 : ¬ 9223372036854775807 < E.size + (⟨#[32]⟩ : ByteArray).size := by rw [show (⟨#[32]⟩ : ByteArray).size = 1 from rfl]; omega
            have g4 : ¬ 9223372036854775807 < E.size + 1 := by omega
            have g5 : ¬ 9223372036854775807 < (E ++ ⟨#[32]⟩ : ByteArray).size + (⟨#[121]⟩ : ByteArray).size := by rw [ByteArray.size_append, show (⟨#[32]⟩ : ByteArray).size = 1 from rfl, show (⟨#[121]⟩ : ByteArray).size = 1 from rfl]; omega
            have g6 : ¬ 9223372036854775807 < E.size + 1 + 1 := by omega
            have HD2 := Lib.hid (show (G ++ ⟨#[121]⟩ : ByteArray).data.toList = keptL (ns.take (i + 1)) by
              rw [ByteArray.data_append, Array.toList_append, HG.out, HKS.out, HD.out])
            clear hGs
            by_cases hk0 : k = 0
            · have dk : decide ((0 : Int) < (k : Int)) = false := decide_eq_false (by omega)
              have HE2 := Lib.hid (show (E ++ ⟨#[121]⟩ : ByteArray).data.toList = lostL (ns.take (i + 1)) by
                rw [ByteArray.data_append, Array.toList_append, HLS.out, HE.out, if_neg (by omega), List.append_nil])
              have hkn : ¬ 0 < k := by omega
              have hkd : decide (0 < k) = false := decide_eq_false hkn
              clear hk0
              go_wp2
              go_roundw
              case rel => exact ⟨i + 1, G ++ ⟨#[121]⟩, E ++ ⟨#[121]⟩, by go_num, rfl, rfl, by omega, trivial, HD2, HE2⟩
              case measure => simp [intOf]; omega
            · have dk : decide ((0 : Int) < (k : Int)) = true := decide_eq_true (by omega)
              have HE2 := Lib.hid (show (E ++ ⟨#[32]⟩ ++ ⟨#[121]⟩ : ByteArray).data.toList = lostL (ns.take (i + 1)) by
                rw [ByteArray.data_append, Array.toList_append, ByteArray.data_append, Array.toList_append, HLS.out, HE.out, if_pos (by omega)])
              have hkn : 0 < k := by omega
              have hkd : decide (0 < k) = true := decide_eq_true hkn
              clear hk0
              go_wp2
              go_roundw
              case rel => exact ⟨i + 1, G ++ ⟨#[121]⟩, E ++ ⟨#[32]⟩ ++ ⟨#[121]⟩, by go_num, rfl, rfl, by omega, trivial, HD2, HE2⟩
              case measure => simp [intOf]; omega
    · obtain rfl : i = len0 := by omega
      have e1 : ns.take i = ns := List.take_of_length_le (by omega)
      rw [e1] at HD HE
      have t1 := ren_kept nm HME.out ns
      have t2 := ren_lost ns
      have hDX : D = ⟨(keptL ns).toArray⟩ := str_ext (by rw [HD.out, List.toList_toArray])
      have hEX : E = ⟨(lostL ns).toArray⟩ := str_ext (by rw [HE.out, List.toList_toArray])
      have hkl : (keptL ns).length ≤ 400 := by rw [← HD.out, ← Lib.size_eq]; exact hDs
      have L3 := Lib.hid (show IsToks (w2.alloc (.cells #[.int .i64 1, .string N, .string ⟨#[]⟩, .slice none 0 0, .bool false, .int .i64 0, .string ⟨#[]⟩, .string D, .slice none 0 0, .bool false, .int .i64 2, .string N, .string ⟨#[]⟩, .slice none 0 0, .bool false] 29)) (some ⟨w2.heap.size, 0, none⟩) 3 3 [⟨1, nm, [], [], false⟩, ⟨0, [], keptL ns, [], false⟩, ⟨2, nm, [], [], false⟩] by
        rw [hDX, ← HNM.out]
        exact isToks_put w2 [⟨1, nm, [], [], false⟩, ⟨0, [], keptL ns, [], false⟩, ⟨2, nm, [], [], false⟩] (by simp) 29 _ rfl (by simp))
      have B3 := Lib.hid (B1.out.alloc B1.out.size (.cells #[.int .i64 1, .string N, .string ⟨#[]⟩, .slice none 0 0, .bool false, .int .i64 0, .string ⟨#[]⟩, .string D, .slice none 0 0, .bool false, .int .i64 2, .string N, .string ⟨#[]⟩, .slice none 0 0, .bool false] 29))
      have L4 := fun u => Lib.hid (show IsToks (World.alloc u (.cells #[.int .i64 1, .string ⟨#[98]⟩, .string ⟨#[]⟩, .slice none 0 0, .bool false, .int .i64 0, .string ⟨#[]⟩, .string D, .slice none 0 0, .bool false] 29)) (some ⟨u.heap.size, 0, none⟩) 2 2 [⟨1, [98], [], [], false⟩, ⟨0, [], keptL ns, [], false⟩] by
        rw [hDX]
        exact isToks_put u [⟨1, [98], [], [], false⟩, ⟨0, [], keptL ns, [], false⟩] (by simp) 29 _ rfl (by simp))
      have C1 := fun h => Lib.hid (ren_any _ 3 3 _ _ L3.out.bare (by decide) (by simp; omega) h)
      have C2 := fun u h => Lib.hid (ren_any _ 2 2 _ _ (L4 u).out.bare (by decide) (by simp; omega) h)
      rw [t1, ← hDX] at C1
      simp only [t2, ← hEX] at C2
      clear t1 t2 hDX hEX hkl L3 L4 e1
      go_wp2_with (fail)
      refine (C1 (HW.out.below B3.out)).out.mono ?_
      rintro e w3 ⟨rfl, c3⟩
      have B4 := Lib.hid (B3.out.trans (c3.mono B3.out.size))
      have B5 := Lib.hid (B4.out.alloc B4.out.size (.cells #[.int .i64 1, .string ⟨#[98]⟩, .string ⟨#[]⟩, .slice none 0 0, .bool false, .int .i64 0, .string ⟨#[]⟩, .string D, .slice none 0 0, .bool false] 29))
      clear c3
      go_wp2_with (fail)
      refine (C2 _ (HW.out.below B5.out)).out.mono ?_
      rintro e w4 ⟨rfl, c4⟩
      have B6 := Lib.hid (B5.out.trans (c4.mono B5.out.size))
      clear c4
      go_wp2
      go_ret
      exact ⟨ret_bool (by simp), B6.out⟩

set_option maxRecDepth 100000 in
theorem lifted (os : Os) (started : os.Started) (H : Type) (enc : TypeId × Value → H) :
    ReturnsInHanded {} Try.checked os 8 .any (Rows.renderKeepsSpec.pre6 enc Try.prog Try.f8 Rows.renderKeepsRow.domain false) (Rows.renderKeepsSpec.post enc Try.prog Try.f8 false true false false) := by
  refine returnsInHanded_of_change (C := Try.checked) own started (by kernel_rfl) Try.func8
    (ChangeSpec.witness6 (enc := enc) (C := Try.checked) false ⟨#[], #[.slice none 0 0, .int .u8 0], []⟩ 8 (by kernel_rfl) (by kernel_rfl) (by kernel_rfl) (by kernel_rfl)) ?_
  intro W base args ds gs before hval0 hW hcnd _
  have hval : ∀ (j : Nat) t v, Try.f8.params[j]? = some t → args[j]? = some v → Value.okWide Try.prog W .any base t v := hval0
  have hW' := hW
  obtain ⟨p, q, hA0, hV, rfl, hfz, hnd⟩ := hW
  have hA : DataW.TrodAll enc Try.prog W 0 (fun _ => true) true Try.f8.params.toList args.toList ds p := hA0
  rw [Try.params8] at hA hval
  obtain ⟨v0, vs0, d0, ds0, p0, q0, hargs, rfl, rfl, h0, r0⟩ := trodAll_cons hA
  obtain ⟨v1, vs1, d1, ds1, p1, q1, rfl, rfl, rfl, h1, r1⟩ := trodAll_cons r0
  obtain ⟨rfl, rfl, rfl⟩ := trodAll_nil r1
  obtain rfl : args = #[v0, v1] := by cases args; simp_all
  obtain ⟨rfl, rfl⟩ := trodVars_none hV
  obtain ⟨a0, len0, cap0, rfl⟩ := okWide_slice Try.underlying39 (hval 0 39 v0 rfl rfl)
  have k0 := h0
  have lt0 : ∀ x ∈ p0, x.block < W.heap.size := by obtain ⟨m, hm⟩ := k0; exact DataW.trod_lt m _ _ _ hm
  obtain ⟨z0, w0⟩ : ∃ zs, IsRow .u8 W a0 len0 cap0 zs := by
    obtain ⟨fuel, hf⟩ := h0
    rcases open_ints Try.underlying39 Try.underlying5 (by kernel_rfl) hf with ⟨hcs, _⟩ | ⟨x, l, c, zs, hcs, _, hl, hm, hz, _, hcell, hwz⟩
    · simp [Value.cells] at hcs
      obtain ⟨rfl, rfl, rfl⟩ := hcs
      exact ⟨[], .inl ⟨rfl, rfl, rfl, rfl⟩⟩
    · simp [Value.cells] at hcs
      obtain ⟨rfl, rfl, rfl⟩ := hcs
      exact ⟨zs, .inr ⟨_, rfl, hl, hm, by simpa using hz, hcell, hwz⟩⟩
  obtain ⟨a1, rfl, rfl, rfl, w1⟩ := open_int Try.underlying5 (hval 1 5 v1 rfl rfl) h1
  clear hA0 hval0
  refine (walk a0 len0 cap0 z0 a1 W w0 w1).mono fun e W' ⟨he, bel⟩ => ?_
  subst he
  exact ⟨_, rfl, _, _, _, [], _, [], hW', trodAll_mk1 (shut_bool Try.underlying4 _), (trodAll_cons_mk (Below.trod laidOut (by kernel_rfl) (of_decide_eq_true (by kernel_rfl)) k0 bel lt0) (trodAll_cons_mk (shut_int Try.underlying5 w1) trodAll_mk0)), rfl, bel.frame _, fun h => by cases h⟩

theorem over : Rows.renderKeepsRow.holds Try.pinned (OpenSpec.ofChange Rows.renderKeepsSpec) :=
  OpenClaim.holds_of_wide 8 Try.f8 rfl rfl rfl rfl rfl rfl rfl ⟨rfl, rfl, rfl, rfl, rfl⟩ rfl rfl rfl rfl rfl (by kernel_rfl) Try.func8 (by kernel_rfl)
    (of_decide_eq_true (by kernel_rfl)) (by unfold Func.isWrapper; first | (rw [if_pos (by decide +kernel)]; kernel_rfl) | (rw [if_neg (by decide +kernel)]; exact ⟨rfl, rfl⟩))
    (fun os started H enc _ => lifted os started H enc)

/-- ████ THE STATEMENT ████ -/
theorem proved : Rows.RenderKeepsSaid := over
end Go.Proofs.Ytappdjhhaohejaa.renderKeeps
