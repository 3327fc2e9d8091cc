/-
  The law AttrsUnlike of flail/flaillaw08 answers true for every input, and changes nothing that was there. Condition, which the card ties to the program's text: when the call begins, the package variables that the row lists hold what that text lays in them (math/bits.deBruijn32tab, math/bits.deBruijn64tab, internal/strconv.uint64pow10, strconv.ErrRange, strconv.ErrSyntax, flail/number.others).
-/
import Derived.Test.YtpdmnnfbdeiejaaDoorRows
import Derived.Test.YtpdmnnfbdeiejaaDoorAttAwake
import Derived.Test.YtpdmnnfbdeiejaaDoorAttRead
import Derived.Test.YtpdmnnfbdeiejaaDoorCards
import Derived.Test.YtpdmnnfbdeiejaaDoorP6
import Derived.WalkKit
import Derived.ProofKit
import Derived.ChangeOld
import Derived.Below
import Derived.OpenShut
import Derived.ShutString
namespace Go.Proofs.YtpdmnnfbdeiejaaDoor.attrsUnlike
open Go.ChangeShapes Go.WideShapes Go.ChangeAt Go.RowKit
open Go.ChangeMaps (open_string shut_string)
set_option linter.unusedVariables false      -- a walk need not use every 'w<i>' (that an integer argument fits its kind)

theorem own : ownKnob Tryd.prog.godebug = none := by kernel_rfl

theorem rows_all {w : World} {ad : Option Addr} {len cap : Nat} {l : List Ln} (h : IsRows w ad len cap l) (h0 : 0 < l.length) : ∃ x, ad = some x ∧ ∀ i (hi : i < l.length), w.cell? (x.add (i * 2)) = some (strV l[i].1) ∧ w.cell? (x.add (i * 2 + 1)) = some (strV l[i].2) := by
  obtain ⟨x, rfl, -, -⟩ := h.2.2.2 0 h0
  refine ⟨x, rfl, fun i hi => ?_⟩
  obtain ⟨y, e, h1, h2⟩ := h.2.2.2 i hi
  obtain rfl := Option.some.inj e
  exact ⟨h1, h2⟩
theorem name_at {l : List Ln} (h : GoodA l) (i : Nat) (hi : i < l.length) : (⟨l[i].1.toArray⟩ : ByteArray).toList.isEmpty = false ∧ ∀ k (hk : k < (⟨l[i].1.toArray⟩ : ByteArray).size), byteOk (⟨l[i].1.toArray⟩ : ByteArray)[k] ∧ (0 < k → ((⟨l[i].1.toArray⟩ : ByteArray)[k]).toNat ≠ 61) := by
  obtain ⟨c, t, e, h1, h2⟩ := (h.2 l[i] (List.getElem_mem hi)).1
  rw [e]
  refine ⟨by rw [ByteArray.toList_eq]; rfl, fun k hk => ?_⟩
  cases k with
  | zero => exact ⟨h1, fun h => absurd h (by decide)⟩
  | succ k =>
    have hk2 : k < t.length := by rw [Lib.size_eq, List.toList_toArray, List.length_cons] at hk; omega
    have e2 : (⟨(c :: t).toArray⟩ : ByteArray)[k + 1] = t[k] := rfl
    rw [e2]
    have := h2 t[k] (List.getElem_mem hk2)
    exact ⟨this.1, fun _ => this.2⟩
theorem unlike_at {w : World} {x : Addr} {l : List Ln} (h : GoodA l) (hc : ∀ i (hi : i < l.length), w.cell? (x.add (i * 2)) = some (strV l[i].1) ∧ w.cell? (x.add (i * 2 + 1)) = some (strV l[i].2)) (i : Nat) (hi : i < l.length) (k : Nat) (hk : k < i) :
    ∃ Q : ByteArray, w.cell? (x.add (k * 2)) = some (.string Q) ∧ (Q.toList == (⟨l[i].1.toArray⟩ : ByteArray).toList) = false := by
  refine ⟨⟨(l[k]'(by omega)).1.toArray⟩, (hc k (by omega)).1, ?_⟩
  rw [str_beq, decide_eq_false_iff_not, List.toList_toArray, List.toList_toArray]
  exact List.pairwise_iff_getElem.1 h.1 k i (by omega) hi hk
theorem at_byte (s : ByteArray) (k : Nat) (c : UInt8) (hk : k < s.size) (h : s.data.toList.getD k 0 = c) : s[k] = c := by rw [← getD_is s k hk]; exact h
set_option maxRecDepth 100000 in
set_option maxHeartbeats 8000000 in
theorem walk (a0 : ByteArray) (w0 : a0.size ≤ maxLen) (w : World) (hT : LaidAt w) :
    Calls Tryd.prog 3 #[.string a0] w fun e w' => e = .returned (.bool true) ∧ Below w.heap.size w w' := by
  clear w0
  have HW := Lib.hid hT
  clear hT
  by_cases hlen : 300 < a0.size
  · go_enter Tryd.func3, Tryd.ntmps3
    go_wp2_with (fail)
    refine (attAwake_any w HW.out).mono ?_
    rintro e w1 ⟨rfl, c1⟩
    go_wp2
    go_ret
    exact ⟨rfl, c1⟩
  have hs : a0.size ≤ 300 := by omega
  have HR1 := fun w h => Lib.hid (attrs_any a0 0 w (by omega) (by decide) h)
  clear hlen
  cases hrun : runA (.s0 []) a0.data.toList with
  | none =>
    have HV := Lib.hid (zero_none _ hrun)
    rw [← Lib.size_eq] at HV
    clear hrun
    go_enter Tryd.func3, Tryd.ntmps3
    go_wp2_with (fail)
    refine (attAwake_any w HW.out).mono ?_
    rintro e w1 ⟨rfl, c1⟩
    go_wp2_with (fail)
    refine (HR1 _ (HW.out.below c1)).out.mono ?_
    rintro e w2 ⟨ad, len, cap, l2, self2, n2, ok2, rfl, hr, hv, b2⟩
    rw [HV.out] at hv
    simp only [Prod.mk.injEq] at hv
    obtain ⟨rfl, rfl, rfl, rfl⟩ := hv
    have c2 := c1.trans (b2.mono c1.size)
    have hl0 : len = 0 := hr.1.symm
    subst hl0
    clear hr
    go_wp2
    go_ret
    exact ⟨ret_bool (by simp), c2⟩
  | some r =>
    obtain ⟨l, self, n⟩ := r
    obtain ⟨e1, e2, e3, e4⟩ := run_ends _ _ _ _ _ hrun
    rw [← Lib.size_eq] at e2
    have HG := Lib.hid (run_good _ _ _ _ hrun)
    have HV := Lib.hid (zero_some _ _ _ _ hrun)
    have hsm := (zero_good _ _ _ _ _ HV.out).2
    rw [← Lib.size_eq] at hsm
    have HSm := Lib.hid hsm
    clear hsm
    clear hrun
    obtain ⟨j, hj⟩ : ∃ j : Nat, (n : Int) - 1 = (j : Int) := ⟨n - 1, by omega⟩
    have hj1 : j < a0.size := by omega
    have b62 : (((a0[j].toNat : Nat) : Int) != 62) = false := byte_ne _ 62 (by decide) (at_byte a0 j 62 hj1 (by rw [← e3]; congr 1; omega))
    have p1 : (1 : Int) ≤ (n : Int) := by omega
    have p2 : (n : Int) ≤ (a0.size : Int) := by omega
    cases self
    · clear e3 e4
      go_enter Tryd.func3, Tryd.ntmps3
      go_wp2_with (fail)
      refine (attAwake_any w HW.out).mono ?_
      rintro e w1 ⟨rfl, c1⟩
      go_wp2_with (fail)
      refine (HR1 _ (HW.out.below c1)).out.mono ?_
      rintro e w2 ⟨ad, len, cap, l2, self2, n2, ok2, rfl, hr, hv, b2⟩
      rw [HV.out] at hv
      simp only [Prod.mk.injEq] at hv
      obtain ⟨rfl, rfl, rfl, rfl⟩ := hv
      have c2 := c1.trans (b2.mono c1.size)
      have hll := hr.1
      have m1 := hr.2.1
      have m2 := hr.2.2.1
      unfold maxLen at m2
      have K := Lib.hid hr
      clear hr
      go_wp2_with (fail)
      go_loopw [8] (fun v wr => ∃ i d : Nat, v = .int .i64 (i : Int) ∧ wr = w2.drewN d ∧ i ≤ l.length) (fun v _ => l.length - (intOf v).toNat)
      case atStart => exact ⟨0, 0, rfl, rfl, Nat.zero_le _⟩
      case round =>
        obtain ⟨i, d, rfl, rfl, hi⟩ := hrel
        by_cases hlt : i < l.length
        · obtain ⟨x, rfl, hcell⟩ := rows_all K.out (by omega)
          have x1 := (hcell i hlt).1
          unfold strV at x1
          have HU := Lib.hid (fun k hk => unlike_at HG.out hcell i hlt k hk)
          have HB0 := name_at HG.out i hlt
          obtain ⟨P, hP⟩ : ∃ P : ByteArray, ⟨l[i].1.toArray⟩ = P := ⟨_, rfl⟩
          rw [hP] at x1 HB0 HU
          have hPe := HB0.1
          have hPs : P.size ≤ 900 := by
            have := (HSm.out l[i] (List.getElem_mem hlt)).1
            rw [← hP, Lib.size_eq, List.toList_toArray]; omega
          have HB := Lib.hid HB0.2
          clear hP HB0 hcell
          go_wp2
          go_loopw [9] (fun v wr => ∃ k d' : Nat, v = .int .i64 (k : Int) ∧ wr = w2.drewN d' ∧ k ≤ i) (fun v _ => i - (intOf v).toNat)
          case atStart => exact ⟨0, d, rfl, rfl, Nat.zero_le _⟩
          case round =>
            obtain ⟨k, d', rfl, rfl, hk⟩ := hrel
            by_cases hk2 : k < i
            · obtain ⟨Q, y1, hq⟩ := HU.out k hk2
              go_wp2
              go_region
              go_wp2
              go_roundw
              case rel => exact ⟨k + 1, _, by simp, rfl, by omega⟩
              case measure => simp [intOf]; omega
            · go_wp2
              go_loopw [10] (fun v wr => ∃ m : Nat, v = .int .i64 (m : Int) ∧ w2.drewN d' = wr ∧ m ≤ P.size) (fun v _ => P.size - (intOf v).toNat)
              case atStart => exact ⟨0, rfl, rfl, Nat.zero_le _⟩
              case round =>
                obtain ⟨m, rfl, rfl, hmm⟩ := hrel
                by_cases hm : m < P.size
                · obtain ⟨⟨q1, q2, q3, q4, q5, q6, q7, q8⟩, hm0⟩ := HB.out m hm
                  have b32 : (((P[m].toNat : Nat) : Int) == 32) = false := beq_eq_false_iff_ne.2 (by omega)
                  have b10 : (((P[m].toNat : Nat) : Int) == 10) = false := beq_eq_false_iff_ne.2 (by omega)
                  have b9 : (((P[m].toNat : Nat) : Int) == 9) = false := beq_eq_false_iff_ne.2 (by omega)
                  have b12 : (((P[m].toNat : Nat) : Int) == 12) = false := beq_eq_false_iff_ne.2 (by omega)
                  have b47 : (((P[m].toNat : Nat) : Int) == 47) = false := beq_eq_false_iff_ne.2 (by omega)
                  have b62 : (((P[m].toNat : Nat) : Int) == 62) = false := beq_eq_false_iff_ne.2 (by omega)
                  have b0 : (((P[m].toNat : Nat) : Int) == 0) = false := beq_eq_false_iff_ne.2 (by omega)
                  by_cases h61 : P[m].toNat = 61
                  · have hm1 : m = 0 := by
                      refine Nat.eq_zero_of_not_pos fun h => hm0 h h61
                    subst hm1
                    have b61 : (((P[0].toNat : Nat) : Int) == 61) = true := beq_iff_eq.2 (by omega)
                    have b65 : ((P[0].toNat : Nat) : Int) < 65 := by omega
                    clear q1 q2 q3 q4 q5 q6 q7 q8 hm0 h61
                    go_wp2
                    go_roundw
                    case rel => first | exact ⟨1, by simp, trivial, by omega⟩ | exact ⟨1, by simp, by omega⟩
                    case measure => simp [intOf]; omega
                  · have b61 : (((P[m].toNat : Nat) : Int) == 61) = false := beq_eq_false_iff_ne.2 (by omega)
                    by_cases h65 : P[m].toNat < 65
                    · have b65 : ((P[m].toNat : Nat) : Int) < 65 := by omega
                      clear q1 q2 q3 q4 q5 q6 q7 q8 h65 hm0 h61
                      go_wp2
                      go_roundw
                      case rel => first | exact ⟨m + 1, by simp, trivial, by omega⟩ | exact ⟨m + 1, by simp, by omega⟩
                      case measure => simp [intOf]; omega
                    · have b65 : (65 : Int) ≤ ((P[m].toNat : Nat) : Int) := by omega
                      have b90 : (90 : Int) < ((P[m].toNat : Nat) : Int) := by omega
                      clear q1 q2 q3 q4 q5 q6 q7 q8 h65 hm0 h61
                      go_wp2
                      go_roundw
                      case rel => first | exact ⟨m + 1, by simp, trivial, by omega⟩ | exact ⟨m + 1, by simp, by omega⟩
                      case measure => simp [intOf]; omega
                · go_wp2
                  go_roundw
                  case rel => exact ⟨i + 1, _, by simp, rfl, by omega⟩
                  case measure => simp [intOf]; omega
        · go_wp2
          go_ret
          exact ⟨rfl, c2.trans (dr_below _ w2 d)⟩
    · obtain ⟨e5, e6⟩ := e4 rfl
      obtain ⟨j2, hj2⟩ : ∃ j : Nat, (n : Int) - 2 = (j : Int) := ⟨n - 2, by omega⟩
      have hj3 : j2 < a0.size := by omega
      have b47 : (((a0[j2].toNat : Nat) : Int) != 47) = false := byte_ne _ 47 (by decide) (at_byte a0 j2 47 hj3 (by rw [← e6]; congr 1; omega))
      have p3 : (2 : Int) ≤ (n : Int) := by omega
      clear e3 e4 e6
      go_enter Tryd.func3, Tryd.ntmps3
      go_wp2_with (fail)
      refine (attAwake_any w HW.out).mono ?_
      rintro e w1 ⟨rfl, c1⟩
      go_wp2_with (fail)
      refine (HR1 _ (HW.out.below c1)).out.mono ?_
      rintro e w2 ⟨ad, len, cap, l2, self2, n2, ok2, rfl, hr, hv, b2⟩
      rw [HV.out] at hv
      simp only [Prod.mk.injEq] at hv
      obtain ⟨rfl, rfl, rfl, rfl⟩ := hv
      have c2 := c1.trans (b2.mono c1.size)
      have hll := hr.1
      have m1 := hr.2.1
      have m2 := hr.2.2.1
      unfold maxLen at m2
      have K := Lib.hid hr
      clear hr
      go_wp2_with (fail)
      go_loopw [8] (fun v wr => ∃ i d : Nat, v = .int .i64 (i : Int) ∧ wr = w2.drewN d ∧ i ≤ l.length) (fun v _ => l.length - (intOf v).toNat)
      case atStart => exact ⟨0, 0, rfl, rfl, Nat.zero_le _⟩
      case round =>
        obtain ⟨i, d, rfl, rfl, hi⟩ := hrel
        by_cases hlt : i < l.length
        · obtain ⟨x, rfl, hcell⟩ := rows_all K.out (by omega)
          have x1 := (hcell i hlt).1
          unfold strV at x1
          have HU := Lib.hid (fun k hk => unlike_at HG.out hcell i hlt k hk)
          have HB0 := name_at HG.out i hlt
          obtain ⟨P, hP⟩ : ∃ P : ByteArray, ⟨l[i].1.toArray⟩ = P := ⟨_, rfl⟩
          rw [hP] at x1 HB0 HU
          have hPe := HB0.1
          have hPs : P.size ≤ 900 := by
            have := (HSm.out l[i] (List.getElem_mem hlt)).1
            rw [← hP, Lib.size_eq, List.toList_toArray]; omega
          have HB := Lib.hid HB0.2
          clear hP HB0 hcell
          go_wp2
          go_loopw [9] (fun v wr => ∃ k d' : Nat, v = .int .i64 (k : Int) ∧ wr = w2.drewN d' ∧ k ≤ i) (fun v _ => i - (intOf v).toNat)
          case atStart => exact ⟨0, d, rfl, rfl, Nat.zero_le _⟩
          case round =>
            obtain ⟨k, d', rfl, rfl, hk⟩ := hrel
            by_cases hk2 : k < i
            · obtain ⟨Q, y1, hq⟩ := HU.out k hk2
              go_wp2
              go_region
              go_wp2
              go_roundw
              case rel => exact ⟨k + 1, _, by simp, rfl, by omega⟩
              case measure => simp [intOf]; omega
            · go_wp2
              go_loopw [10] (fun v wr => ∃ m : Nat, v = .int .i64 (m : Int) ∧ w2.drewN d' = wr ∧ m ≤ P.size) (fun v _ => P.size - (intOf v).toNat)
              case atStart => exact ⟨0, rfl, rfl, Nat.zero_le _⟩
              case round =>
                obtain ⟨m, rfl, rfl, hmm⟩ := hrel
                by_cases hm : m < P.size
                · obtain ⟨⟨q1, q2, q3, q4, q5, q6, q7, q8⟩, hm0⟩ := HB.out m hm
                  have b32 : (((P[m].toNat : Nat) : Int) == 32) = false := beq_eq_false_iff_ne.2 (by omega)
                  have b10 : (((P[m].toNat : Nat) : Int) == 10) = false := beq_eq_false_iff_ne.2 (by omega)
                  have b9 : (((P[m].toNat : Nat) : Int) == 9) = false := beq_eq_false_iff_ne.2 (by omega)
                  have b12 : (((P[m].toNat : Nat) : Int) == 12) = false := beq_eq_false_iff_ne.2 (by omega)
                  have b47 : (((P[m].toNat : Nat) : Int) == 47) = false := beq_eq_false_iff_ne.2 (by omega)
                  have b62 : (((P[m].toNat : Nat) : Int) == 62) = false := beq_eq_false_iff_ne.2 (by omega)
                  have b0 : (((P[m].toNat : Nat) : Int) == 0) = false := beq_eq_false_iff_ne.2 (by omega)
                  by_cases h61 : P[m].toNat = 61
                  · have hm1 : m = 0 := by
                      refine Nat.eq_zero_of_not_pos fun h => hm0 h h61
                    subst hm1
                    have b61 : (((P[0].toNat : Nat) : Int) == 61) = true := beq_iff_eq.2 (by omega)
                    have b65 : ((P[0].toNat : Nat) : Int) < 65 := by omega
                    clear q1 q2 q3 q4 q5 q6 q7 q8 hm0 h61
                    go_wp2
                    go_roundw
                    case rel => first | exact ⟨1, by simp, trivial, by omega⟩ | exact ⟨1, by simp, by omega⟩
                    case measure => simp [intOf]; omega
                  · have b61 : (((P[m].toNat : Nat) : Int) == 61) = false := beq_eq_false_iff_ne.2 (by omega)
                    by_cases h65 : P[m].toNat < 65
                    · have b65 : ((P[m].toNat : Nat) : Int) < 65 := by omega
                      clear q1 q2 q3 q4 q5 q6 q7 q8 h65 hm0 h61
                      go_wp2
                      go_roundw
                      case rel => first | exact ⟨m + 1, by simp, trivial, by omega⟩ | exact ⟨m + 1, by simp, by omega⟩
                      case measure => simp [intOf]; omega
                    · have b65 : (65 : Int) ≤ ((P[m].toNat : Nat) : Int) := by omega
                      have b90 : (90 : Int) < ((P[m].toNat : Nat) : Int) := by omega
                      clear q1 q2 q3 q4 q5 q6 q7 q8 h65 hm0 h61
                      go_wp2
                      go_roundw
                      case rel => first | exact ⟨m + 1, by simp, trivial, by omega⟩ | exact ⟨m + 1, by simp, by omega⟩
                      case measure => simp [intOf]; omega
                · go_wp2
                  go_roundw
                  case rel => exact ⟨i + 1, _, by simp, rfl, by omega⟩
                  case measure => simp [intOf]; omega
        · go_wp2
          go_ret
          exact ⟨rfl, c2.trans (dr_below _ w2 d)⟩
  -- go_wp2
  -- go_ret
  -- exact ⟨rfl, by repeat (first | exact Grown.refl _ | apply Grown.drew | apply Grown.alloc)⟩

theorem laid_met (os : Os) : laidMet Tryd.prog Rows.attrsUnlikeRow.laid ((laidWorld os).forCall (fun _ _ => 0) ⟨#[], #[.string ByteArray.empty], []⟩).memory :=
  laidMet_of_run' 8 (by kernel_rfl) (by kernel_rfl)
theorem reads (os : Os) {H : Type} (enc : TypeId × Value → H) : ∃ places, DataW.whole enc Tryd.prog ((laidWorld os).forCall (fun _ _ => 0) ⟨#[], #[.string ByteArray.empty], []⟩).memory Tryd.f3.params.toList Rows.attrsUnlikeSpec.vars false (#[.string ByteArray.empty] : Array Value).toList 8 = some ([.lit (.string [])], [], places) :=
  ⟨[], by kernel_rfl⟩
set_option maxRecDepth 100000 in
theorem lifted (os : Os) (started : os.Started) (H : Type) (enc : TypeId × Value → H) (F : Stop.Interp) :
    ReturnsInHanded {} Tryd.checked os 3 .any ((OpenSpec.ofChange Rows.attrsUnlikeSpec).preRow enc Tryd.prog Tryd.f3 Rows.attrsUnlikeRow.domain false Rows.attrsUnlikeRow.laid) (((OpenSpec.ofChange Rows.attrsUnlikeSpec).at F).post enc Tryd.prog Tryd.f3 false true false false) := by
  obtain ⟨places, hx⟩ := reads os enc
  refine returnsInHanded_of_row (C := Tryd.checked) (s := OpenSpec.ofChange Rows.attrsUnlikeSpec) own started (by kernel_rfl) Tryd.func3
    (witness_row_at (enc := enc) (C := Tryd.checked) false (laidWorld os) #[.string ByteArray.empty] rfl (by kernel_rfl) (by kernel_rfl) (by kernel_rfl)
      (OpenSpec.preRow_of_cond 8 hx (by kernel_rfl) (fun k hk => by cases hk) (by kernel_rfl) (laid_met os))) ?_
  intro W base args ds gs before hval0 hW _ _ _ hL _ _
  have hval : ∀ (j : Nat) t v, Tryd.f3.params[j]? = some t → args[j]? = some v → Value.okWide Tryd.prog W .any base t v := hval0
  have hW' := hW
  obtain ⟨p, q, hA0, hV, rfl, hfz, hnd⟩ := hW
  have hA : DataW.TrodAll enc Tryd.prog W 0 (fun _ => true) true Tryd.f3.params.toList args.toList ds p := hA0
  rw [Tryd.params3] at hA hval
  obtain ⟨v0, vs0, d0, ds0, p0, q0, hargs, rfl, rfl, h0, r0⟩ := trodAll_cons hA
  obtain ⟨rfl, rfl, rfl⟩ := trodAll_nil r0
  obtain rfl : args = #[v0] := by cases args; simp_all
  obtain ⟨rfl, rfl⟩ := trodVars_none hV
  obtain ⟨a0, rfl, rfl, rfl, w0⟩ := open_string Tryd.underlying9 (hval 0 9 v0 rfl rfl) h0
  clear hA0 hval0
  refine (walk a0 w0 W (tabAt_of hL)).mono fun e W' ⟨he, bel⟩ => ?_
  subst he
  exact ⟨_, rfl, _, _, _, [], _, [], hW', trodAll_mk1 (shut_bool Tryd.underlying4 _), (trodAll_cons_mk (shut_string Tryd.underlying9 w0) trodAll_mk0), rfl, bel.frame _, fun h => by cases h⟩

theorem said : Rows.AttrsUnlikeSaid :=
  OpenClaim.holds_of_cond 3 Tryd.f3 rfl rfl rfl rfl rfl rfl rfl ⟨rfl, rfl, rfl, rfl, rfl⟩ rfl rfl rfl rfl rfl (by kernel_rfl) Tryd.func3 (by kernel_rfl)
    (of_decide_eq_true (by kernel_rfl)) (by unfold Func.isWrapper; first | (rw [if_pos (by decide +kernel)]; kernel_rfl) | (rw [if_neg (by decide +kernel)]; exact ⟨rfl, rfl⟩))
    (fun os started H enc _ F => by rw [OpenClaim.pre_eq_preRow]; exact lifted os started H enc F)
theorem plain (f : FuncId) (fn : Func) (hf : Tryd.pinned.checked.prog.funcNamed "flail/flaillaw08.AttrsUnlike" = some f) (hfn : Tryd.pinned.checked.prog.funcs[f]? = some fn) :
    true = Tryd.pinned.checked.prog.looks [] ∧ ∀ (j : Nat) t, fn.params[j]? = some t → Tryd.pinned.checked.prog.wantsStandIn t = false := by
  obtain rfl : f = 3 := Option.some.inj ((show Tryd.prog.funcNamed "flail/flaillaw08.AttrsUnlike" = some 3 by kernel_rfl).symm.trans hf) |>.symm
  obtain rfl : fn = Tryd.f3 := (Option.some.inj (Tryd.func3.symm.trans hfn)).symm
  refine ⟨by kernel_rfl, fun j t ht => ?_⟩
  rw [Tryd.params3] at ht
  have hm : t ∈ [9] := by simpa using Array.mem_of_getElem? ht
  have hall : ([9].all fun u => !Tryd.prog.wantsStandIn u) = true := by kernel_rfl
  exact (show Tryd.prog.wantsStandIn t = false by simpa using List.all_eq_true.1 hall t hm)
/-- the statement: the row's card -/
theorem proved : Rows.AttrsUnlikeCardSaid :=
  Claim7.holds_tied_plain_at .later [] _ _ _ _ said (fun _ h => by cases h) (by kernel_rfl) (fun _ h => by cases h) attrsUnlike_row_tie rfl ⟨rfl, rfl⟩ (by kernel_rfl) rfl plain (by kernel_rfl)
end Go.Proofs.YtpdmnnfbdeiejaaDoor.attrsUnlike
