/-
  The law ExtractTags of flail/flaillaw20 answers true for every input, and changes nothing that was there. Condition, which the card ties to the program's text: when the call begins, the package variables that the row lists hold what that text lays in them (math/bits.deBruijn32tab, math/bits.deBruijn64tab, internal/strconv.uint64pow10, strconv.ErrRange, strconv.ErrSyntax, flail/number.others).
-/
import Derived.Test.YtpmdcppnlggckaaGreatDoorRows
import Derived.Test.YtpmdcppnlggckaaGreatDoorExtAwake
import Derived.Test.YtpmdcppnlggckaaGreatDoorExtMath
import Derived.Test.YtpmdcppnlggckaaGreatDoorCards
import Derived.Test.YtpmdcppnlggckaaGreatDoorP6
import Derived.SizedLaws
import Derived.WalkKit
import Derived.ProofKit
import Derived.ChangeOld
import Derived.Below
import Derived.OpenShut
import Derived.ShutString
namespace Go.Proofs.YtpmdcppnlggckaaGreatDoor.extractTags
open Go.ChangeShapes Go.WideShapes Go.ChangeAt Go.RowKit
open Go.ChangeMaps (open_string shut_string)
set_option linter.unusedVariables false      -- a walk need not use every 'w<i>' (that an integer argument fits its kind)

theorem own : ownKnob Tryz.prog.godebug = none := by kernel_rfl

theorem byte_ne (c d : UInt8) (h : c ≠ d) : (((c.toNat : Nat) : Int) == (d.toNat : Int)) = false := by
  rw [beq_eq_false_iff_ne]
  intro e
  exact h (UInt8.toNat_inj.1 (by omega))
theorem opt_at (s : ByteArray) (i : Nat) (h : i < s.size) : s.data.toList[i]? = some s[i] := by
  rw [List.getElem?_eq_getElem (by rw [← Lib.size_eq]; exact h)]; rfl
theorem mark_cell (i : Nat) (h : i < 10) : ([.string ⟨#[60, 98, 62]⟩, .string ⟨#[60, 47, 105, 62]⟩, .string ⟨#[60, 97, 32, 104, 114, 101, 102, 61, 39, 120, 62, 121, 39, 62]⟩, .string ⟨#[60, 33, 45, 45, 32, 60, 112, 62, 32, 45, 45, 62]⟩, .string ⟨#[60, 63, 112, 62]⟩, .string ⟨#[60, 33, 68, 79, 67, 84, 89, 80, 69, 32, 112, 62]⟩, .string ⟨#[60, 47, 62]⟩, .string ⟨#[60, 115, 99, 114, 105, 112, 116, 62, 60, 112, 62, 60, 47, 115, 99, 114, 105, 112, 116, 62]⟩, .string ⟨#[60, 115, 116, 121, 108, 101, 62, 112, 60, 47, 115, 116, 121, 108, 101, 62]⟩, .string ⟨#[60, 116, 101, 109, 112, 108, 97, 116, 101, 62, 60, 112, 62, 120, 60, 47, 116, 101, 109, 112, 108, 97, 116, 101, 62]⟩] : List Value)[i]? = some (.string ⟨(markT.getD i []).toArray⟩) := by
  match i, h with
  | 0, _ => rfl
  | 1, _ => rfl
  | 2, _ => rfl
  | 3, _ => rfl
  | 4, _ => rfl
  | 5, _ => rfl
  | 6, _ => rfl
  | 7, _ => rfl
  | 8, _ => rfl
  | 9, _ => rfl
theorem mark_in (i : Nat) (h : i < 10) : markT.getD i [] ∈ markT := by
  match i, h with
  | 0, _ => exact List.getElem_mem (l := markT) (n := 0) (by decide)
  | 1, _ => exact List.getElem_mem (l := markT) (n := 1) (by decide)
  | 2, _ => exact List.getElem_mem (l := markT) (n := 2) (by decide)
  | 3, _ => exact List.getElem_mem (l := markT) (n := 3) (by decide)
  | 4, _ => exact List.getElem_mem (l := markT) (n := 4) (by decide)
  | 5, _ => exact List.getElem_mem (l := markT) (n := 5) (by decide)
  | 6, _ => exact List.getElem_mem (l := markT) (n := 6) (by decide)
  | 7, _ => exact List.getElem_mem (l := markT) (n := 7) (by decide)
  | 8, _ => exact List.getElem_mem (l := markT) (n := 8) (by decide)
  | 9, _ => exact List.getElem_mem (l := markT) (n := 9) (by decide)
/-- what is asked of each byte -/
def LowAt (l : Txt) (i : Nat) : Prop := ∀ c, l[i]? = some c → c.toNat < 128 ∧ c ≠ 60 ∧ c ≠ 38
theorem low_at (l : Txt) (h : ∀ i, i < l.length → LowAt l i) : ∀ c ∈ l, c.toNat < 128 ∧ c ≠ 60 ∧ c ≠ 38 := fun c hc => by
  obtain ⟨i, hi⟩ := List.mem_iff_getElem?.1 hc
  exact h i (List.getElem?_eq_some_iff.1 hi).1 c hi
set_option maxRecDepth 100000 in
set_option maxHeartbeats 8000000 in
theorem walk (a0 : ByteArray) (a1 : ByteArray) (a2 : Int) (w0 : a0.size ≤ maxLen) (w1 : a1.size ≤ maxLen) (w2 : (Lit.int .u8 a2).wf = true) (w : World) (hT : LaidAt w) (z0 : a0.size ≤ 140737488351232) (z1 : a1.size ≤ 140737488351232) :
    Calls Tryz.prog 6 #[.string a0, .string a1, .int .u8 a2] w fun e w' => e = .returned (.bool true) ∧ Below w.heap.size w w' := by
  have hb2 : 0 ≤ a2 ∧ a2 ≤ 255 := by simpa [Lit.wf, IntKind.min, IntKind.max, IntKind.signed, IntKind.bits] using w2
  obtain ⟨h20, h21⟩ := hb2
  have hm0 : ¬ 9223372036854775807 < a0.size + a1.size := by omega
  clear w0 w1 w2
  clear z0 z1
  have HW := Lib.hid hT
  clear hT
  obtain ⟨X, hX⟩ : ∃ X, a0 ++ a1 = X := ⟨_, rfl⟩
  have lX : X.data.toList = a0.data.toList ++ a1.data.toList := by rw [← hX]; simp [ByteArray.data_append]
  have sX : X.size = a0.size + a1.size := by rw [← hX, ByteArray.size_append]
  have LX := Lib.hid lX
  have SX := Lib.hid sX
  clear lX
  by_cases hlen : 100 < a0.size ∨ 100 < a1.size
  · have hc : decide ((100 : Int) < (a0.size : Int)) = true ∨ decide ((100 : Int) < (a0.size : Int)) = false ∧ decide ((100 : Int) < (a1.size : Int)) = true := by
      simp only [decide_eq_true_eq, decide_eq_false_iff_not]; omega
    clear hlen sX
    rcases hc with hc | ⟨hc, hd⟩
    all_goals
      go_enter Tryz.func6, Tryz.ntmps6
      go_wp2_with (fail)
      refine (extAwake_any w HW.out).mono ?_
      rintro e w1 ⟨rfl, c1⟩
      go_wp2
      go_ret
      exact ⟨rfl, c1⟩
  have hs0 : a0.size ≤ 100 := by omega
  have hs1 : a1.size ≤ 100 := by omega
  have hsX : X.size ≤ 200 := by omega
  have d0 : decide ((100 : Int) < (a0.size : Int)) = false := decide_eq_false (by omega)
  have d1 : decide ((100 : Int) < (a1.size : Int)) = false := decide_eq_false (by omega)
  clear hlen sX
  obtain ⟨R, hR⟩ : ∃ R : Nat, a2 % 10 = (R : Int) := ⟨(a2 % 10).toNat, by omega⟩
  have hR2 : R < 10 := by omega
  have hcell0 := mark_cell R hR2
  have hmem := mark_in R hR2
  obtain ⟨nm, hnm⟩ : ∃ nm, markT.getD R [] = nm := ⟨_, rfl⟩
  rw [hnm] at hcell0 hmem
  obtain ⟨N, hN⟩ : ∃ N : ByteArray, (⟨nm.toArray⟩ : ByteArray) = N := ⟨_, rfl⟩
  have hN2 : N.data.toList = nm := by rw [← hN, List.toList_toArray]
  rw [hN] at hcell0
  have hNs : N.size ≤ 25 := by rw [Lib.size_eq, hN2]; exact (mark_form nm (List.mem_cons_of_mem _ hmem)).2.2.2.1
  have HMEM := Lib.hid hmem
  have HN2 := Lib.hid hN2
  obtain ⟨hlt', hget⟩ := List.getElem?_eq_some_iff.1 (show ([.string ⟨#[60, 98, 62]⟩, .string ⟨#[60, 47, 105, 62]⟩, .string ⟨#[60, 97, 32, 104, 114, 101, 102, 61, 39, 120, 62, 121, 39, 62]⟩, .string ⟨#[60, 33, 45, 45, 32, 60, 112, 62, 32, 45, 45, 62]⟩, .string ⟨#[60, 63, 112, 62]⟩, .string ⟨#[60, 33, 68, 79, 67, 84, 89, 80, 69, 32, 112, 62]⟩, .string ⟨#[60, 47, 62]⟩, .string ⟨#[60, 115, 99, 114, 105, 112, 116, 62, 60, 112, 62, 60, 47, 115, 99, 114, 105, 112, 116, 62]⟩, .string ⟨#[60, 115, 116, 121, 108, 101, 62, 112, 60, 47, 115, 116, 121, 108, 101, 62]⟩, .string ⟨#[60, 116, 101, 109, 112, 108, 97, 116, 101, 62, 60, 112, 62, 120, 60, 47, 116, 101, 109, 112, 108, 97, 116, 101, 62]⟩] : List Value)[R]? = some (.string N) from hcell0)
  have k3 : (⟨#[60, 113, 62]⟩ : ByteArray).size = 3 := rfl
  have p1 : ¬ 9223372036854775807 < a0.size + N.size := by omega
  have p2 : ¬ 9223372036854775807 < a0.size + N.size + a1.size := by omega
  have p3 : ¬ 9223372036854775807 < a0.size + 3 := by omega
  have p4 : ¬ 9223372036854775807 < a0.size + 3 + a1.size := by omega
  have x1 : ExtOk (a0 ++ N ++ a1 : ByteArray).data.toList := ext_ok _ (by rw [← Lib.size_eq, ByteArray.size_append, ByteArray.size_append]; omega)
  have x2 : ExtOk (a0 ++ ⟨#[60, 113, 62]⟩ ++ a1 : ByteArray).data.toList := ext_ok _ (by rw [← Lib.size_eq, ByteArray.size_append, ByteArray.size_append]; omega)
  have E1 := fun fr w h => Lib.hid (ext_str (a0 ++ N ++ a1) (a0.size + N.size + a1.size) fr w (by rw [ByteArray.size_append, ByteArray.size_append]) x1 h)
  have E2 := fun fr w h => Lib.hid (ext_str (a0 ++ ⟨#[60, 113, 62]⟩ ++ a1) (a0.size + 3 + a1.size) fr w (by rw [ByteArray.size_append, ByteArray.size_append, k3]) x2 h)
  clear hcell0 hnm hN hN2 hmem x1 x2 k3
  have kc := fun (wx : World) (s : ByteArray) => run_bytes_of_string (P := Tryz.prog) wx 9 22 5 s Tryz.underlying9 Tryz.underlying22 Tryz.underlying5
  go_enter Tryz.func6, Tryz.ntmps6
  go_wp2_with (fail)
  refine (extAwake_any w HW.out).mono ?_
  rintro e w1 ⟨rfl, c1⟩
  have B1 := Lib.hid c1
  clear c1
  go_wp2
  go_loopw [9] (fun v wr => ∃ i : Nat, v = .int .i64 (i : Int) ∧ w1 = wr ∧ i ≤ X.size ∧ Hid (∀ j, j < i → LowAt X.data.toList j)) (fun v _ => X.size - (intOf v).toNat)
  case atStart => exact ⟨0, rfl, rfl, Nat.zero_le _, Lib.hid fun j h => absurd h (by omega)⟩
  case round =>
    obtain ⟨i, rfl, rfl, hi, HI⟩ := hrel
    by_cases hlt : i < X.size
    · have HO := Lib.hid (opt_at X i hlt)
      by_cases c60 : X[i] = 60
      · have b60 : (((X[i].toNat : Nat) : Int) == 60) = true := by rw [c60]; rfl
        clear c60
        go_wp2
        go_ret
        exact ⟨rfl, B1.out⟩
      have b60 : (((X[i].toNat : Nat) : Int) == 60) = false := byte_ne _ 60 c60
      by_cases c38 : X[i] = 38
      · have b38 : (((X[i].toNat : Nat) : Int) == 38) = true := by rw [c38]; rfl
        clear c60 c38
        go_wp2
        go_ret
        exact ⟨rfl, B1.out⟩
      have b38 : (((X[i].toNat : Nat) : Int) == 38) = false := byte_ne _ 38 c38
      by_cases c7 : 128 ≤ X[i].toNat
      · have b7 : (128 : Int) ≤ ((X[i].toNat : Nat) : Int) := by omega
        clear c60 c38
        go_wp2
        go_ret
        exact ⟨rfl, B1.out⟩
      have b7 : ¬ (128 : Int) ≤ ((X[i].toNat : Nat) : Int) := by omega
      have HN := Lib.hid (show ∀ j, j < i + 1 → LowAt X.data.toList j from fun j hj => by
        rcases Nat.lt_or_eq_of_le (Nat.le_of_lt_succ hj) with h1 | rfl
        · exact HI.out j h1
        · intro c hc
          rw [HO.out] at hc
          cases hc
          exact ⟨by omega, c60, c38⟩)
      clear c60 c38
      go_wp2
      go_roundw
      case rel => exact ⟨i + 1, by simp, trivial, by omega, HN⟩
      case measure => simp [intOf]; omega
    · have HL := Lib.hid (low_at X.data.toList fun j hj => HI.out j (by rw [← Lib.size_eq] at hj; omega))
      have ha : ∀ c ∈ a0.data.toList, c.toNat < 128 ∧ c ≠ 60 ∧ c ≠ 38 := fun c hc => HL.out c (by rw [LX.out]; exact List.mem_append.2 (.inl hc))
      have hb : ∀ c ∈ a1.data.toList, c.toNat < 128 ∧ c ≠ 60 ∧ c ≠ 38 := fun c hc => HL.out c (by rw [LX.out]; exact List.mem_append.2 (.inr hc))
      have he : extL (a0 ++ N ++ a1 : ByteArray).data.toList = extL (a0 ++ ⟨#[60, 113, 62]⟩ ++ a1 : ByteArray).data.toList := by
        have := ext_tags nm HMEM.out _ _ ha hb
        rw [← HN2.out] at this
        simp only [ByteArray.data_append, Array.toList_append]
        exact this
      rw [he] at E1
      obtain ⟨V, hV⟩ : ∃ V : ByteArray, (⟨(extL (a0 ++ ⟨#[60, 113, 62]⟩ ++ a1 : ByteArray).data.toList).toArray⟩ : ByteArray) = V := ⟨_, rfl⟩
      rw [hV] at E1 E2
      clear ha hb he hV
      have B2 := Lib.hid (B1.out.alloc B1.out.size (.cells #[.string ⟨#[60, 98, 62]⟩, .string ⟨#[60, 47, 105, 62]⟩, .string ⟨#[60, 97, 32, 104, 114, 101, 102, 61, 39, 120, 62, 121, 39, 62]⟩, .string ⟨#[60, 33, 45, 45, 32, 60, 112, 62, 32, 45, 45, 62]⟩, .string ⟨#[60, 63, 112, 62]⟩, .string ⟨#[60, 33, 68, 79, 67, 84, 89, 80, 69, 32, 112, 62]⟩, .string ⟨#[60, 47, 62]⟩, .string ⟨#[60, 115, 99, 114, 105, 112, 116, 62, 60, 112, 62, 60, 47, 115, 99, 114, 105, 112, 116, 62]⟩, .string ⟨#[60, 115, 116, 121, 108, 101, 62, 112, 60, 47, 115, 116, 121, 108, 101, 62]⟩, .string ⟨#[60, 116, 101, 109, 112, 108, 97, 116, 101, 62, 60, 112, 62, 120, 60, 47, 116, 101, 109, 112, 108, 97, 116, 101, 62]⟩] 9))
      obtain ⟨w2, hw2⟩ : ∃ w2, w1.alloc (.cells #[.string ⟨#[60, 98, 62]⟩, .string ⟨#[60, 47, 105, 62]⟩, .string ⟨#[60, 97, 32, 104, 114, 101, 102, 61, 39, 120, 62, 121, 39, 62]⟩, .string ⟨#[60, 33, 45, 45, 32, 60, 112, 62, 32, 45, 45, 62]⟩, .string ⟨#[60, 63, 112, 62]⟩, .string ⟨#[60, 33, 68, 79, 67, 84, 89, 80, 69, 32, 112, 62]⟩, .string ⟨#[60, 47, 62]⟩, .string ⟨#[60, 115, 99, 114, 105, 112, 116, 62, 60, 112, 62, 60, 47, 115, 99, 114, 105, 112, 116, 62]⟩, .string ⟨#[60, 115, 116, 121, 108, 101, 62, 112, 60, 47, 115, 116, 121, 108, 101, 62]⟩, .string ⟨#[60, 116, 101, 109, 112, 108, 97, 116, 101, 62, 60, 112, 62, 120, 60, 47, 116, 101, 109, 112, 108, 97, 116, 101, 62]⟩] 9) = w2 := ⟨_, rfl⟩
      rw [hw2] at B2
      have HZ : Hid (w1.heap.size + 1 = w2.heap.size) := Lib.hid (by rw [← hw2]; simp)
      have HW2 := Lib.hid hw2
      clear hw2
      go_wp2_with (fail)
      rw [HW2.out]
      rw [HZ.out]
      refine (E1 _ _ (HW.out.below B2.out)).out.mono ?_
      rintro e w2' ⟨rfl, c2⟩
      have B3 := Lib.hid (B2.out.trans (c2.mono B2.out.size))
      clear c2
      go_wp2_with (fail)
      refine (E2 _ _ (HW.out.below B3.out)).out.mono ?_
      rintro e w3 ⟨rfl, c3⟩
      have B4 := Lib.hid (B3.out.trans (c3.mono B3.out.size))
      clear c3
      go_wp2
      go_ret
      exact ⟨ret_bool (by simp), B4.out⟩
  -- go_wp2
  -- go_ret
  -- exact ⟨rfl, by repeat (first | exact Grown.refl _ | apply Grown.drew | apply Grown.alloc)⟩

theorem laid_met (os : Os) : laidMet Tryz.prog Rows.extractTagsRow.laid ((laidWorld os).forCall (fun _ _ => 0) ⟨#[], #[.string ByteArray.empty, .string ByteArray.empty, .int .u8 0], []⟩).memory :=
  laidMet_of_run' 8 (by kernel_rfl) (by kernel_rfl)
theorem reads (os : Os) {H : Type} (enc : TypeId × Value → H) : ∃ places, DataW.whole enc Tryz.prog ((laidWorld os).forCall (fun _ _ => 0) ⟨#[], #[.string ByteArray.empty, .string ByteArray.empty, .int .u8 0], []⟩).memory Tryz.f6.params.toList Rows.extractTagsSpec.vars false (#[.string ByteArray.empty, .string ByteArray.empty, .int .u8 0] : Array Value).toList 8 = some ([.lit (.string []), .lit (.string []), .lit (.int .u8 0)], [], places) :=
  ⟨[], by kernel_rfl⟩
set_option maxRecDepth 100000 in
theorem lifted (os : Os) (started : os.Started) (H : Type) (enc : TypeId × Value → H) (F : Stop.Interp) :
    ReturnsInHanded {} Tryz.checked os 6 .any ((OpenSpec.ofChange Rows.extractTagsSpec).preRow enc Tryz.prog Tryz.f6 Rows.extractTagsRow.domain false Rows.extractTagsRow.laid) (((OpenSpec.ofChange Rows.extractTagsSpec).at F).post enc Tryz.prog Tryz.f6 false true false false) := by
  obtain ⟨places, hx⟩ := reads os enc
  refine returnsInHanded_of_row (C := Tryz.checked) (s := OpenSpec.ofChange Rows.extractTagsSpec) own started (by kernel_rfl) Tryz.func6
    (witness_row_at (enc := enc) (C := Tryz.checked) false (laidWorld os) #[.string ByteArray.empty, .string ByteArray.empty, .int .u8 0] rfl (by kernel_rfl) (by kernel_rfl) (by kernel_rfl)
      (OpenSpec.preRow_of_cond 8 hx (by kernel_rfl) (fun k hk => by cases hk) (by kernel_rfl) (laid_met os))) ?_
  intro W base args ds gs before hval0 hW _ _ hsz0 hL hsh _
  have hval : ∀ (j : Nat) t v, Tryz.f6.params[j]? = some t → args[j]? = some v → Value.okWide Tryz.prog W .any base t v := hval0
  have hW' := hW
  obtain ⟨p, q, hA0, hV, rfl, hfz, hnd⟩ := hW
  have hA : DataW.TrodAll enc Tryz.prog W 0 (fun _ => true) true Tryz.f6.params.toList args.toList ds p := hA0
  rw [Tryz.params6] at hA hval
  obtain ⟨v0, vs0, d0, ds0, p0, q0, hargs, rfl, rfl, h0, r0⟩ := trodAll_cons hA
  obtain ⟨v1, vs1, d1, ds1, p1, q1, rfl, rfl, rfl, h1, r1⟩ := trodAll_cons r0
  obtain ⟨v2, vs2, d2, ds2, p2, q2, rfl, rfl, rfl, h2, r2⟩ := trodAll_cons r1
  obtain ⟨rfl, rfl, rfl⟩ := trodAll_nil r2
  obtain rfl : args = #[v0, v1, v2] := by cases args; simp_all
  obtain ⟨rfl, rfl⟩ := trodVars_none hV
  obtain ⟨a0, rfl, rfl, rfl, w0⟩ := open_string Tryz.underlying9 (hval 0 9 v0 rfl rfl) h0
  obtain ⟨a1, rfl, rfl, rfl, w1⟩ := open_string Tryz.underlying9 (hval 1 9 v1 rfl rfl) h1
  obtain ⟨a2, rfl, rfl, rfl, w2⟩ := open_int Tryz.underlying5 (hval 2 5 v2 rfl rfl) h2
  clear hA0 hval0
  refine (walk a0 a1 a2 w0 w1 w2 W (tabAt_of hL hsh) (by have := sized_string (j := 0) hsz0 rfl rfl; rw [Lib.size_eq]; unfold reachBytes at this; omega) (by have := sized_string (j := 1) hsz0 rfl rfl; rw [Lib.size_eq]; unfold reachBytes at this; omega)).mono fun e W' ⟨he, bel⟩ => ?_
  subst he
  exact ⟨_, rfl, _, _, _, [], _, [], hW', trodAll_mk1 (shut_bool Tryz.underlying4 _), (trodAll_cons_mk (shut_string Tryz.underlying9 w0) (trodAll_cons_mk (shut_string Tryz.underlying9 w1) (trodAll_cons_mk (shut_int Tryz.underlying5 w2) trodAll_mk0))), rfl, bel.frame _, fun h => by cases h⟩

theorem said : Rows.ExtractTagsSaid :=
  OpenClaim.holds_of_cond 6 Tryz.f6 rfl rfl rfl rfl rfl rfl rfl ⟨rfl, rfl, rfl, rfl, rfl⟩ rfl rfl rfl rfl rfl (by kernel_rfl) Tryz.func6 (by kernel_rfl)
    (of_decide_eq_true (by kernel_rfl)) (by unfold Func.isWrapper; first | (rw [if_pos (by decide +kernel)]; kernel_rfl) | (rw [if_neg (by decide +kernel)]; exact ⟨rfl, rfl⟩))
    (fun os started H enc _ F => by rw [OpenClaim.pre_eq_preRow]; exact lifted os started H enc F)
theorem plain (f : FuncId) (fn : Func) (hf : Tryz.pinned.checked.prog.funcNamed "flail/flaillaw20.ExtractTags" = some f) (hfn : Tryz.pinned.checked.prog.funcs[f]? = some fn) :
    true = Tryz.pinned.checked.prog.looks [] ∧ ∀ (j : Nat) t, fn.params[j]? = some t → Tryz.pinned.checked.prog.wantsStandIn t = false := by
  obtain rfl : f = 6 := Option.some.inj ((show Tryz.prog.funcNamed "flail/flaillaw20.ExtractTags" = some 6 by kernel_rfl).symm.trans hf) |>.symm
  obtain rfl : fn = Tryz.f6 := (Option.some.inj (Tryz.func6.symm.trans hfn)).symm
  refine ⟨by kernel_rfl, fun j t ht => ?_⟩
  rw [Tryz.params6] at ht
  have hm : t ∈ [9, 5] := by first | simpa using Array.mem_of_getElem? ht | (have h := Array.mem_of_getElem? ht; simp at h ⊢; grind)
  have hall : ([9, 5].all fun u => !Tryz.prog.wantsStandIn u) = true := by kernel_rfl
  exact (show Tryz.prog.wantsStandIn t = false by simpa using List.all_eq_true.1 hall t hm)
/-- the statement: the row's card -/
theorem proved : Rows.ExtractTagsCardSaid :=
  Claim7.holds_tied_plain_at .later [] _ _ _ _ said (fun _ h => by cases h) (by kernel_rfl) (fun _ h => by cases h) extractTags_row_tie rfl ⟨rfl, rfl⟩ (by kernel_rfl) rfl plain (by kernel_rfl)
end Go.Proofs.YtpmdcppnlggckaaGreatDoor.extractTags
