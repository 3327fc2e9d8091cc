/-
  The law ExtractCase of flail/flaillaw20 answers true for every input, and changes nothing that was there. Condition, which the card ties to the program's text: when the call begins, the package variables that the row lists hold what that text lays in them (math/bits.deBruijn32tab, math/bits.deBruijn64tab, internal/strconv.uint64pow10, strconv.ErrRange, strconv.ErrSyntax, flail/number.others).
-/
import Derived.Test.YtpmdcppnlggckaaGreatDoorRows
import Derived.Test.YtpmdcppnlggckaaGreatDoorExtAwake
import Derived.Test.YtpmdcppnlggckaaGreatDoorExtMath
import Derived.Test.YtpmdcppnlggckaaGreatDoorCards
import Derived.Test.YtpmdcppnlggckaaGreatDoorP6
import Derived.WalkKit
import Derived.ProofKit
import Derived.ChangeOld
import Derived.Below
import Derived.OpenShut
import Derived.ShutString
namespace Go.Proofs.YtpmdcppnlggckaaGreatDoor.extractCase
open Go.ChangeShapes Go.WideShapes Go.ChangeAt Go.RowKit
open Go.ChangeMaps (open_string shut_string)
set_option linter.unusedVariables false      -- a walk need not use every 'w<i>' (that an integer argument fits its kind)

theorem own : ownKnob Tryz.prog.godebug = none := by kernel_rfl

theorem byte_ne (c d : UInt8) (h : c ≠ d) : (((c.toNat : Nat) : Int) == (d.toNat : Int)) = false := by
  rw [beq_eq_false_iff_ne]
  intro e
  exact h (UInt8.toNat_inj.1 (by omega))
theorem opt_at (s : ByteArray) (i : Nat) (h : i < s.size) : s.data.toList[i]? = some s[i] := by
  rw [List.getElem?_eq_getElem (by rw [← Lib.size_eq]; exact h)]; rfl
theorem small_cell (i : Nat) (h : i < 12) : ([.string ⟨#[112]⟩, .string ⟨#[100, 105, 118]⟩, .string ⟨#[112, 114, 101]⟩, .string ⟨#[115, 99, 114, 105, 112, 116]⟩, .string ⟨#[115, 116, 121, 108, 101]⟩, .string ⟨#[116, 105, 116, 108, 101]⟩, .string ⟨#[116, 101, 120, 116, 97, 114, 101, 97]⟩, .string ⟨#[98, 114]⟩, .string ⟨#[108, 105]⟩, .string ⟨#[104, 49]⟩, .string ⟨#[116, 101, 109, 112, 108, 97, 116, 101]⟩, .string ⟨#[120, 109, 112]⟩] : List Value)[i]? = some (.string ⟨((caseP.map Prod.fst).getD i []).toArray⟩) := by
  match i, h with
  | 0, _ => rfl
  | 1, _ => rfl
  | 2, _ => rfl
  | 3, _ => rfl
  | 4, _ => rfl
  | 5, _ => rfl
  | 6, _ => rfl
  | 7, _ => rfl
  | 8, _ => rfl
  | 9, _ => rfl
  | 10, _ => rfl
  | 11, _ => rfl
theorem large_cell (i : Nat) (h : i < 12) : ([.string ⟨#[80]⟩, .string ⟨#[68, 73, 86]⟩, .string ⟨#[80, 82, 69]⟩, .string ⟨#[83, 67, 82, 73, 80, 84]⟩, .string ⟨#[83, 84, 89, 76, 69]⟩, .string ⟨#[84, 73, 84, 76, 69]⟩, .string ⟨#[84, 69, 88, 84, 65, 82, 69, 65]⟩, .string ⟨#[66, 82]⟩, .string ⟨#[76, 73]⟩, .string ⟨#[72, 49]⟩, .string ⟨#[84, 69, 77, 80, 76, 65, 84, 69]⟩, .string ⟨#[88, 77, 80]⟩] : List Value)[i]? = some (.string ⟨((caseP.map Prod.snd).getD i []).toArray⟩) := by
  match i, h with
  | 0, _ => rfl
  | 1, _ => rfl
  | 2, _ => rfl
  | 3, _ => rfl
  | 4, _ => rfl
  | 5, _ => rfl
  | 6, _ => rfl
  | 7, _ => rfl
  | 8, _ => rfl
  | 9, _ => rfl
  | 10, _ => rfl
  | 11, _ => rfl
theorem case_in (i : Nat) (h : i < 12) : ((caseP.map Prod.fst).getD i [], (caseP.map Prod.snd).getD i []) ∈ caseP := by
  match i, h with
  | 0, _ => exact List.getElem_mem (l := caseP) (n := 0) (by decide)
  | 1, _ => exact List.getElem_mem (l := caseP) (n := 1) (by decide)
  | 2, _ => exact List.getElem_mem (l := caseP) (n := 2) (by decide)
  | 3, _ => exact List.getElem_mem (l := caseP) (n := 3) (by decide)
  | 4, _ => exact List.getElem_mem (l := caseP) (n := 4) (by decide)
  | 5, _ => exact List.getElem_mem (l := caseP) (n := 5) (by decide)
  | 6, _ => exact List.getElem_mem (l := caseP) (n := 6) (by decide)
  | 7, _ => exact List.getElem_mem (l := caseP) (n := 7) (by decide)
  | 8, _ => exact List.getElem_mem (l := caseP) (n := 8) (by decide)
  | 9, _ => exact List.getElem_mem (l := caseP) (n := 9) (by decide)
  | 10, _ => exact List.getElem_mem (l := caseP) (n := 10) (by decide)
  | 11, _ => exact List.getElem_mem (l := caseP) (n := 11) (by decide)
theorem no60_at (l : Txt) (h : ∀ i, i < l.length → l[i]? ≠ some 60) : 60 ∉ l := fun hc => by
  obtain ⟨i, hi⟩ := List.mem_iff_getElem?.1 hc
  exact h i (List.getElem?_eq_some_iff.1 hi).1 hi
set_option maxRecDepth 100000 in
set_option maxHeartbeats 8000000 in
theorem walk (a0 : ByteArray) (a1 : Int) (w0 : a0.size ≤ maxLen) (w1 : (Lit.int .u8 a1).wf = true) (w : World) (hT : LaidAt w) :
    Calls Tryz.prog 8 #[.string a0, .int .u8 a1] w fun e w' => e = .returned (.bool true) ∧ Below w.heap.size w w' := by
  have hb2 : 0 ≤ a1 ∧ a1 ≤ 255 := by simpa [Lit.wf, IntKind.min, IntKind.max, IntKind.signed, IntKind.bits] using w1
  obtain ⟨h10, h11⟩ := hb2
  clear w0 w1
  have HW := Lib.hid hT
  clear hT
  by_cases hlen : 100 < a0.size
  · have hc : decide ((100 : Int) < (a0.size : Int)) = true := decide_eq_true (by omega)
    clear hlen
    go_enter Tryz.func8, Tryz.ntmps8
    go_wp2_with (fail)
    refine (extAwake_any w HW.out).mono ?_
    rintro e w1 ⟨rfl, c1⟩
    go_wp2
    go_ret
    exact ⟨rfl, c1⟩
  have hs0 : a0.size ≤ 100 := by omega
  have d0 : decide ((100 : Int) < (a0.size : Int)) = false := decide_eq_false (by omega)
  clear hlen
  obtain ⟨R, hR⟩ : ∃ R : Nat, a1 % 12 = (R : Int) := ⟨(a1 % 12).toNat, by omega⟩
  have hR2 : R < 12 := by omega
  have hcS := small_cell R hR2
  have hcL := large_cell R hR2
  have hmem := case_in R hR2
  obtain ⟨nm, hnm⟩ : ∃ nm, (caseP.map Prod.fst).getD R [] = nm := ⟨_, rfl⟩
  obtain ⟨NM, hNM⟩ : ∃ nm, (caseP.map Prod.snd).getD R [] = nm := ⟨_, rfl⟩
  rw [hnm] at hcS hmem
  rw [hNM] at hcL hmem
  obtain ⟨f1, f2, -, -⟩ := case_form _ hmem
  obtain ⟨N, hN⟩ : ∃ N : ByteArray, (⟨nm.toArray⟩ : ByteArray) = N := ⟨_, rfl⟩
  obtain ⟨M, hM⟩ : ∃ N : ByteArray, (⟨NM.toArray⟩ : ByteArray) = N := ⟨_, rfl⟩
  have hN2 : N.data.toList = nm := by rw [← hN, List.toList_toArray]
  have hM2 : M.data.toList = NM := by rw [← hM, List.toList_toArray]
  rw [hN] at hcS
  rw [hM] at hcL
  have hNs : N.size ≤ 8 := by rw [Lib.size_eq, hN2]; exact f1
  have hMs : M.size ≤ 8 := by rw [Lib.size_eq, hM2]; exact f2
  have HMEM := Lib.hid hmem
  have HN2 := Lib.hid hN2
  have HM2 := Lib.hid hM2
  have r1 : (0 : Int) ≤ (R : Int) := by omega
  have r2 : (R : Int) < 12 := by omega
  have k1 : (⟨#[120, 60]⟩ : ByteArray).size = 2 := rfl
  have k2 : (⟨#[62]⟩ : ByteArray).size = 1 := rfl
  have k3 : (⟨#[60, 47]⟩ : ByteArray).size = 2 := rfl
  have k4 : (⟨#[62, 121]⟩ : ByteArray).size = 2 := rfl
  have k5 : (⟨#[32, 62]⟩ : ByteArray).size = 2 := rfl
  have k6 : (⟨#[10, 62, 121]⟩ : ByteArray).size = 3 := rfl
  have p1 : ¬ 9223372036854775807 < 2 + N.size := by omega
  have p2 : ¬ 9223372036854775807 < 2 + N.size + 1 := by omega
  have p3 : ¬ 9223372036854775807 < 2 + N.size + 1 + a0.size := by omega
  have p4 : ¬ 9223372036854775807 < 2 + N.size + 1 + a0.size + 2 := by omega
  have p5 : ¬ 9223372036854775807 < 2 + N.size + 1 + a0.size + 2 + N.size := by omega
  have p6 : ¬ 9223372036854775807 < 2 + N.size + 1 + a0.size + 2 + N.size + 2 := by omega
  have q1 : ¬ 9223372036854775807 < 2 + M.size := by omega
  have q2 : ¬ 9223372036854775807 < 2 + M.size + 2 := by omega
  have q3 : ¬ 9223372036854775807 < 2 + M.size + 2 + a0.size := by omega
  have q4 : ¬ 9223372036854775807 < 2 + M.size + 2 + a0.size + 2 := by omega
  have q5 : ¬ 9223372036854775807 < 2 + M.size + 2 + a0.size + 2 + M.size := by omega
  have q6 : ¬ 9223372036854775807 < 2 + M.size + 2 + a0.size + 2 + M.size + 3 := by omega
  have l1 : (⟨#[120, 60]⟩ ++ N ++ ⟨#[62]⟩ ++ a0 ++ ⟨#[60, 47]⟩ ++ N ++ ⟨#[62, 121]⟩ : ByteArray).data.toList = [120] ++ ((60 :: (nm ++ [62])) ++ (a0.data.toList ++ ((60 :: 47 :: (nm ++ [62])) ++ [121]))) := by
    simp [ByteArray.data_append, hN2]
  have l2 : (⟨#[120, 60]⟩ ++ M ++ ⟨#[32, 62]⟩ ++ a0 ++ ⟨#[60, 47]⟩ ++ M ++ ⟨#[10, 62, 121]⟩ : ByteArray).data.toList = [120] ++ ((60 :: (NM ++ [32, 62])) ++ (a0.data.toList ++ ((60 :: 47 :: (NM ++ [10, 62])) ++ [121]))) := by
    simp [ByteArray.data_append, hM2]
  have z1 : (⟨#[120, 60]⟩ ++ N ++ ⟨#[62]⟩ ++ a0 ++ ⟨#[60, 47]⟩ ++ N ++ ⟨#[62, 121]⟩ : ByteArray).size = 2 + N.size + 1 + a0.size + 2 + N.size + 2 := by simp only [ByteArray.size_append, k1, k2, k3, k4]
  have z2 : (⟨#[120, 60]⟩ ++ M ++ ⟨#[32, 62]⟩ ++ a0 ++ ⟨#[60, 47]⟩ ++ M ++ ⟨#[10, 62, 121]⟩ : ByteArray).size = 2 + M.size + 2 + a0.size + 2 + M.size + 3 := by simp only [ByteArray.size_append, k1, k3, k5, k6]
  have x1 := ext_ok (⟨#[120, 60]⟩ ++ N ++ ⟨#[62]⟩ ++ a0 ++ ⟨#[60, 47]⟩ ++ N ++ ⟨#[62, 121]⟩ : ByteArray).data.toList (by rw [← Lib.size_eq, z1]; omega)
  have x2 := ext_ok (⟨#[120, 60]⟩ ++ M ++ ⟨#[32, 62]⟩ ++ a0 ++ ⟨#[60, 47]⟩ ++ M ++ ⟨#[10, 62, 121]⟩ : ByteArray).data.toList (by rw [← Lib.size_eq, z2]; omega)
  have E1 := fun fr w h => Lib.hid (ext_str _ _ fr w z1 x1 h)
  have E2 := fun fr w h => Lib.hid (ext_str _ _ fr w z2 x2 h)
  rw [l1] at E1
  rw [l2] at E2
  have HCS := Lib.hid (show (#[.string ⟨#[112]⟩, .string ⟨#[100, 105, 118]⟩, .string ⟨#[112, 114, 101]⟩, .string ⟨#[115, 99, 114, 105, 112, 116]⟩, .string ⟨#[115, 116, 121, 108, 101]⟩, .string ⟨#[116, 105, 116, 108, 101]⟩, .string ⟨#[116, 101, 120, 116, 97, 114, 101, 97]⟩, .string ⟨#[98, 114]⟩, .string ⟨#[108, 105]⟩, .string ⟨#[104, 49]⟩, .string ⟨#[116, 101, 109, 112, 108, 97, 116, 101]⟩, .string ⟨#[120, 109, 112]⟩] : Array Value)[R]? = some (.string N) by rw [List.getElem?_toArray]; exact hcS)
  have HCL := Lib.hid (show (#[.string ⟨#[80]⟩, .string ⟨#[68, 73, 86]⟩, .string ⟨#[80, 82, 69]⟩, .string ⟨#[83, 67, 82, 73, 80, 84]⟩, .string ⟨#[83, 84, 89, 76, 69]⟩, .string ⟨#[84, 73, 84, 76, 69]⟩, .string ⟨#[84, 69, 88, 84, 65, 82, 69, 65]⟩, .string ⟨#[66, 82]⟩, .string ⟨#[76, 73]⟩, .string ⟨#[72, 49]⟩, .string ⟨#[84, 69, 77, 80, 76, 65, 84, 69]⟩, .string ⟨#[88, 77, 80]⟩] : Array Value)[R]? = some (.string M) by rw [List.getElem?_toArray]; exact hcL)
  clear hcS hcL hnm hNM hN hM hN2 hM2 hmem f1 f2 x1 x2 z1 z2 l1 l2 k1 k2 k3 k4 k5 k6
  have kc := fun (wx : World) (s : ByteArray) => run_bytes_of_string (P := Tryz.prog) wx 9 22 5 s Tryz.underlying9 Tryz.underlying22 Tryz.underlying5
  go_enter Tryz.func8, Tryz.ntmps8
  go_wp2_with (fail)
  refine (extAwake_any w HW.out).mono ?_
  rintro e w1 ⟨rfl, c1⟩
  have B1 := Lib.hid c1
  clear c1
  go_wp2
  clear d0
  go_loopw [6] (fun v wr => ∃ i : Nat, v = .int .i64 (i : Int) ∧ w1 = wr ∧ i ≤ a0.size ∧ Hid (∀ j, j < i → a0.data.toList[j]? ≠ some 60)) (fun v _ => a0.size - (intOf v).toNat)
  case atStart => exact ⟨0, rfl, rfl, Nat.zero_le _, Lib.hid fun j h => absurd h (by omega)⟩
  case round =>
    obtain ⟨i, rfl, rfl, hi, HI⟩ := hrel
    by_cases hlt : i < a0.size
    · have HO := Lib.hid (opt_at a0 i hlt)
      by_cases c60 : a0[i] = 60
      · have b60 : (((a0[i].toNat : Nat) : Int) == 60) = true := by rw [c60]; rfl
        clear c60
        go_wp2
        go_ret
        exact ⟨rfl, B1.out⟩
      have b60 : (((a0[i].toNat : Nat) : Int) == 60) = false := byte_ne _ 60 c60
      have HN := Lib.hid (show ∀ j, j < i + 1 → a0.data.toList[j]? ≠ some 60 from fun j hj => by
        rcases Nat.lt_or_eq_of_le (Nat.le_of_lt_succ hj) with h1 | rfl
        · exact HI.out j h1
        · rw [HO.out]; exact fun e => c60 (Option.some.inj e))
      clear c60
      go_wp2
      go_roundw
      case rel => exact ⟨i + 1, by simp, trivial, by omega, HN⟩
      case measure => simp [intOf]; omega
    · have he := ext_case (nm, NM) HMEM.out a0.data.toList (no60_at _ fun j hj => HI.out j (by rw [← Lib.size_eq] at hj; omega))
      simp only at he
      rw [he] at E1
      obtain ⟨V, hV⟩ : ∃ V : ByteArray, (⟨(extL ([120] ++ ((60 :: (NM ++ [32, 62])) ++ (a0.data.toList ++ ((60 :: 47 :: (NM ++ [10, 62])) ++ [121]))))).toArray⟩ : ByteArray) = V := ⟨_, rfl⟩
      rw [hV] at E1 E2
      clear he hV
      obtain ⟨w2, hw2⟩ : ∃ w2, w1.alloc (.cells #[.string ⟨#[112]⟩, .string ⟨#[100, 105, 118]⟩, .string ⟨#[112, 114, 101]⟩, .string ⟨#[115, 99, 114, 105, 112, 116]⟩, .string ⟨#[115, 116, 121, 108, 101]⟩, .string ⟨#[116, 105, 116, 108, 101]⟩, .string ⟨#[116, 101, 120, 116, 97, 114, 101, 97]⟩, .string ⟨#[98, 114]⟩, .string ⟨#[108, 105]⟩, .string ⟨#[104, 49]⟩, .string ⟨#[116, 101, 109, 112, 108, 97, 116, 101]⟩, .string ⟨#[120, 109, 112]⟩] 9) = w2 := ⟨_, rfl⟩
      obtain ⟨w3, hw3⟩ : ∃ w3, w2.alloc (.cells #[.string ⟨#[80]⟩, .string ⟨#[68, 73, 86]⟩, .string ⟨#[80, 82, 69]⟩, .string ⟨#[83, 67, 82, 73, 80, 84]⟩, .string ⟨#[83, 84, 89, 76, 69]⟩, .string ⟨#[84, 73, 84, 76, 69]⟩, .string ⟨#[84, 69, 88, 84, 65, 82, 69, 65]⟩, .string ⟨#[66, 82]⟩, .string ⟨#[76, 73]⟩, .string ⟨#[72, 49]⟩, .string ⟨#[84, 69, 77, 80, 76, 65, 84, 69]⟩, .string ⟨#[88, 77, 80]⟩] 9) = w3 := ⟨_, rfl⟩
      have B2 := Lib.hid (show Below w.heap.size w w2 by rw [← hw2]; exact B1.out.alloc B1.out.size _)
      have B3 := Lib.hid (show Below w.heap.size w w3 by rw [← hw3]; exact B2.out.alloc B2.out.size _)
      have g2 : w2.heap[w1.heap.size]? = some (.cells #[.string ⟨#[112]⟩, .string ⟨#[100, 105, 118]⟩, .string ⟨#[112, 114, 101]⟩, .string ⟨#[115, 99, 114, 105, 112, 116]⟩, .string ⟨#[115, 116, 121, 108, 101]⟩, .string ⟨#[116, 105, 116, 108, 101]⟩, .string ⟨#[116, 101, 120, 116, 97, 114, 101, 97]⟩, .string ⟨#[98, 114]⟩, .string ⟨#[108, 105]⟩, .string ⟨#[104, 49]⟩, .string ⟨#[116, 101, 109, 112, 108, 97, 116, 101]⟩, .string ⟨#[120, 109, 112]⟩] 9 (0, 0)) := by rw [← hw2]; exact heap_alloc_new w1 _
      have g3 : w3.heap[w2.heap.size]? = some (.cells #[.string ⟨#[80]⟩, .string ⟨#[68, 73, 86]⟩, .string ⟨#[80, 82, 69]⟩, .string ⟨#[83, 67, 82, 73, 80, 84]⟩, .string ⟨#[83, 84, 89, 76, 69]⟩, .string ⟨#[84, 73, 84, 76, 69]⟩, .string ⟨#[84, 69, 88, 84, 65, 82, 69, 65]⟩, .string ⟨#[66, 82]⟩, .string ⟨#[76, 73]⟩, .string ⟨#[72, 49]⟩, .string ⟨#[84, 69, 77, 80, 76, 65, 84, 69]⟩, .string ⟨#[88, 77, 80]⟩] 9 (0, 0)) := by rw [← hw3]; exact heap_alloc_new w2 _
      have hz : w1.heap.size + 1 = w2.heap.size := by rw [← hw2]; simp
      have hz3 : w2.heap.size + 1 = w3.heap.size := by rw [← hw3]; simp
      have y1 : w3.cell? ⟨w1.heap.size, R, none⟩ = some (.string N) := by
        have : w3.heap[w1.heap.size]? = some (.cells #[.string ⟨#[112]⟩, .string ⟨#[100, 105, 118]⟩, .string ⟨#[112, 114, 101]⟩, .string ⟨#[115, 99, 114, 105, 112, 116]⟩, .string ⟨#[115, 116, 121, 108, 101]⟩, .string ⟨#[116, 105, 116, 108, 101]⟩, .string ⟨#[116, 101, 120, 116, 97, 114, 101, 97]⟩, .string ⟨#[98, 114]⟩, .string ⟨#[108, 105]⟩, .string ⟨#[104, 49]⟩, .string ⟨#[116, 101, 109, 112, 108, 97, 116, 101]⟩, .string ⟨#[120, 109, 112]⟩] 9 (0, 0)) := by
          rw [← hw3]; exact (((Below.refl _ w2).alloc (Nat.le_refl _) _).block _ (by omega)).trans g2
        rw [cell_of_row _ _ _ _ _ _ this]; exact HCS.out
      have y2 : w3.cell? ⟨w2.heap.size, R, none⟩ = some (.string M) := by rw [cell_of_row _ _ _ _ _ _ g3]; exact HCL.out
      have Y2 := Lib.hid y2
      have HZ := Lib.hid hz
      have HW2 := Lib.hid hw2
      have HW3 := Lib.hid hw3
      have hlw : w2.heap.size < w3.heap.size := by omega
      have HLW := Lib.hid hlw
      clear hw2 hw3 g2 g3 hz hz3 y2 hlw
      go_wp2
      rw [HW2.out]
      rw [HW3.out]
      rw [HZ.out]
      go_still_tail 15, (by kernel_rfl)
      change wpList _ _ _ _ _ w3.drew
      obtain ⟨w4, hw4⟩ : ∃ w4, w3.drew = w4 := ⟨_, rfl⟩
      rw [hw4]
      have B4 := Lib.hid (show Below w.heap.size w w4 by rw [← hw4]; exact B3.out.drew)
      have B34 := Lib.hid (show Below w3.heap.size w3 w4 by rw [← hw4]; exact (Below.refl _ w3).drew)
      clear hw4 y1
      go_wp2_with (fail)
      refine (E1 _ _ (HW.out.below B4.out)).out.mono ?_
      rintro e w5 ⟨rfl, c5⟩
      have B5 := Lib.hid (B4.out.trans (c5.mono B4.out.size))
      have y2 : w5.cell? ⟨w2.heap.size, R, none⟩ = some (.string M) := by
        have h5 := B34.out.trans (c5.mono B34.out.size)
        rw [h5.cell (p := ⟨w2.heap.size, R, none⟩) HLW.out]; exact Y2.out
      clear c5
      go_wp2
      go_still_tail 15, (by kernel_rfl)
      change wpList _ _ _ _ _ w5.drew
      obtain ⟨w6, hw6⟩ : ∃ w6, w5.drew = w6 := ⟨_, rfl⟩
      rw [hw6]
      have B6 := Lib.hid (show Below w.heap.size w w6 by rw [← hw6]; exact B5.out.drew)
      clear hw6 y2
      go_wp2_with (fail)
      refine (E2 _ _ (HW.out.below B6.out)).out.mono ?_
      rintro e w7 ⟨rfl, c7⟩
      have B7 := Lib.hid (B6.out.trans (c7.mono B6.out.size))
      clear c7
      go_wp2
      go_ret
      exact ⟨ret_bool (by simp), B7.out⟩
  -- go_wp2
  -- go_ret
  -- exact ⟨rfl, by repeat (first | exact Grown.refl _ | apply Grown.drew | apply Grown.alloc)⟩

theorem laid_met (os : Os) : laidMet Tryz.prog Rows.extractCaseRow.laid ((laidWorld os).forCall (fun _ _ => 0) ⟨#[], #[.string ByteArray.empty, .int .u8 0], []⟩).memory :=
  laidMet_of_run' 8 (by kernel_rfl) (by kernel_rfl)
theorem reads (os : Os) {H : Type} (enc : TypeId × Value → H) : ∃ places, DataW.whole enc Tryz.prog ((laidWorld os).forCall (fun _ _ => 0) ⟨#[], #[.string ByteArray.empty, .int .u8 0], []⟩).memory Tryz.f8.params.toList Rows.extractCaseSpec.vars false (#[.string ByteArray.empty, .int .u8 0] : Array Value).toList 8 = some ([.lit (.string []), .lit (.int .u8 0)], [], places) :=
  ⟨[], by kernel_rfl⟩
set_option maxRecDepth 100000 in
theorem lifted (os : Os) (started : os.Started) (H : Type) (enc : TypeId × Value → H) (F : Stop.Interp) :
    ReturnsInHanded {} Tryz.checked os 8 .any ((OpenSpec.ofChange Rows.extractCaseSpec).preRow enc Tryz.prog Tryz.f8 Rows.extractCaseRow.domain false Rows.extractCaseRow.laid) (((OpenSpec.ofChange Rows.extractCaseSpec).at F).post enc Tryz.prog Tryz.f8 false true false false) := by
  obtain ⟨places, hx⟩ := reads os enc
  refine returnsInHanded_of_row (C := Tryz.checked) (s := OpenSpec.ofChange Rows.extractCaseSpec) own started (by kernel_rfl) Tryz.func8
    (witness_row_at (enc := enc) (C := Tryz.checked) false (laidWorld os) #[.string ByteArray.empty, .int .u8 0] rfl (by kernel_rfl) (by kernel_rfl) (by kernel_rfl)
      (OpenSpec.preRow_of_cond 8 hx (by kernel_rfl) (fun k hk => by cases hk) (by kernel_rfl) (laid_met os))) ?_
  intro W base args ds gs before hval0 hW _ _ _ hL hsh _
  have hval : ∀ (j : Nat) t v, Tryz.f8.params[j]? = some t → args[j]? = some v → Value.okWide Tryz.prog W .any base t v := hval0
  have hW' := hW
  obtain ⟨p, q, hA0, hV, rfl, hfz, hnd⟩ := hW
  have hA : DataW.TrodAll enc Tryz.prog W 0 (fun _ => true) true Tryz.f8.params.toList args.toList ds p := hA0
  rw [Tryz.params8] at hA hval
  obtain ⟨v0, vs0, d0, ds0, p0, q0, hargs, rfl, rfl, h0, r0⟩ := trodAll_cons hA
  obtain ⟨v1, vs1, d1, ds1, p1, q1, rfl, rfl, rfl, h1, r1⟩ := trodAll_cons r0
  obtain ⟨rfl, rfl, rfl⟩ := trodAll_nil r1
  obtain rfl : args = #[v0, v1] := by cases args; simp_all
  obtain ⟨rfl, rfl⟩ := trodVars_none hV
  obtain ⟨a0, rfl, rfl, rfl, w0⟩ := open_string Tryz.underlying9 (hval 0 9 v0 rfl rfl) h0
  obtain ⟨a1, rfl, rfl, rfl, w1⟩ := open_int Tryz.underlying5 (hval 1 5 v1 rfl rfl) h1
  clear hA0 hval0
  refine (walk a0 a1 w0 w1 W (tabAt_of hL hsh)).mono fun e W' ⟨he, bel⟩ => ?_
  subst he
  exact ⟨_, rfl, _, _, _, [], _, [], hW', trodAll_mk1 (shut_bool Tryz.underlying4 _), (trodAll_cons_mk (shut_string Tryz.underlying9 w0) (trodAll_cons_mk (shut_int Tryz.underlying5 w1) trodAll_mk0)), rfl, bel.frame _, fun h => by cases h⟩

theorem said : Rows.ExtractCaseSaid :=
  OpenClaim.holds_of_cond 8 Tryz.f8 rfl rfl rfl rfl rfl rfl rfl ⟨rfl, rfl, rfl, rfl, rfl⟩ rfl rfl rfl rfl rfl (by kernel_rfl) Tryz.func8 (by kernel_rfl)
    (of_decide_eq_true (by kernel_rfl)) (by unfold Func.isWrapper; first | (rw [if_pos (by decide +kernel)]; kernel_rfl) | (rw [if_neg (by decide +kernel)]; exact ⟨rfl, rfl⟩))
    (fun os started H enc _ F => by rw [OpenClaim.pre_eq_preRow]; exact lifted os started H enc F)
theorem plain (f : FuncId) (fn : Func) (hf : Tryz.pinned.checked.prog.funcNamed "flail/flaillaw20.ExtractCase" = some f) (hfn : Tryz.pinned.checked.prog.funcs[f]? = some fn) :
    true = Tryz.pinned.checked.prog.looks [] ∧ ∀ (j : Nat) t, fn.params[j]? = some t → Tryz.pinned.checked.prog.wantsStandIn t = false := by
  obtain rfl : f = 8 := Option.some.inj ((show Tryz.prog.funcNamed "flail/flaillaw20.ExtractCase" = some 8 by kernel_rfl).symm.trans hf) |>.symm
  obtain rfl : fn = Tryz.f8 := (Option.some.inj (Tryz.func8.symm.trans hfn)).symm
  refine ⟨by kernel_rfl, fun j t ht => ?_⟩
  rw [Tryz.params8] at ht
  have hm : t ∈ [9, 5] := by first | simpa using Array.mem_of_getElem? ht | (have h := Array.mem_of_getElem? ht; simp at h ⊢; grind)
  have hall : ([9, 5].all fun u => !Tryz.prog.wantsStandIn u) = true := by kernel_rfl
  exact (show Tryz.prog.wantsStandIn t = false by simpa using List.all_eq_true.1 hall t hm)
/-- the statement: the row's card -/
theorem proved : Rows.ExtractCaseCardSaid :=
  Claim7.holds_tied_plain_at .later [] _ _ _ _ said (fun _ h => by cases h) (by kernel_rfl) (fun _ h => by cases h) extractCase_row_tie rfl ⟨rfl, rfl⟩ (by kernel_rfl) rfl plain (by kernel_rfl)
end Go.Proofs.YtpmdcppnlggckaaGreatDoor.extractCase
