/-
  The law RefNames of flail/flaillaw07 answers true for every input, and changes nothing that was there. Condition, which the card ties to the program's text: when the call begins, the package variables that the row lists hold what that text lays in them (math/bits.deBruijn32tab, math/bits.deBruijn64tab, internal/strconv.uint64pow10, strconv.ErrRange, strconv.ErrSyntax, flail/number.others).
-/
import Derived.Test.YtdpgdcbclgdjaaaDoorRows
import Derived.Test.YtdpgdcbclgdjaaaDoorRefLaws
import Derived.Test.YtdpgdcbclgdjaaaDoorNamNth
import Derived.Test.YtdpgdcbclgdjaaaDoorNamRefC
import Derived.Test.YtdpgdcbclgdjaaaDoorSignRefB
import Derived.Test.YtdpgdcbclgdjaaaDoorCards
import Derived.Test.YtdpgdcbclgdjaaaDoorRefLaid
import Derived.WalkKit
import Derived.ProofKit
import Derived.ChangeOld
import Derived.Below
import Derived.OpenShut
import Derived.ShutString
namespace Go.Proofs.YtdpgdcbclgdjaaaDoor.refNames
open Go.ChangeShapes Go.WideShapes Go.ChangeAt Go.RowKit
open Go.ChangeMaps (open_string shut_string)
set_option linter.unusedVariables false      -- a walk need not use every 'w<i>' (that an integer argument fits its kind)

theorem own : ownKnob Tryd.prog.godebug = none := by kernel_rfl

theorem names_read (q : ByteArray) (C : UInt8) (attr : Bool) (w : World) (hq : q.size ≤ 32) (h : LaidAt w) :
    Calls Tryd.prog 10 #[.string (⟨#[38]⟩ ++ q ++ ⟨#[C]⟩), .int .i64 0, .bool attr] w fun e w' => e = .returned (.tuple #[.string ⟨(refT (q.data.toList ++ [C]) attr).toArray⟩, .int .i64 ((1 + refM (q.data.toList ++ [C]) : Nat) : Int)]) ∧ Below w.heap.size w w' := by
  have one : (ByteArray.mk #[38]).size = 1 := rfl
  have two : (ByteArray.mk #[C]).size = 1 := rfl
  have := readL_s (⟨#[38]⟩ ++ q ++ ⟨#[C]⟩) 0 (q.data.toList ++ [C]) attr w (by rw [ByteArray.size_append, ByteArray.size_append, one, two]; omega) (by rw [List.drop_zero, app_list, app_list]; rfl) h
  rw [Nat.zero_add] at this
  exact this
set_option maxRecDepth 100000 in
set_option maxHeartbeats 4000000 in
theorem walk (a0 : Int) (a1 : Int) (w0 : (Lit.int .u16 a0).wf = true) (w1 : (Lit.int .u8 a1).wf = true) (w : World) (hT : LaidAt w) :
    Calls Tryd.prog 5 #[.int .u16 a0, .int .u8 a1] w fun e w' => e = .returned (.bool true) ∧ Below w.heap.size w w' := by
  have hb0 : 0 ≤ a0 ∧ a0 ≤ 65535 := by simpa [Lit.wf, IntKind.min, IntKind.max, IntKind.signed, IntKind.bits] using w0
  have hb1 : 0 ≤ a1 ∧ a1 ≤ 255 := by simpa [Lit.wf, IntKind.min, IntKind.max, IntKind.signed, IntKind.bits] using w1
  have HW := Lib.hid hT
  have HN : ∀ w, ∃ r ∈ nmRows, Hid (Calls Tryd.prog 14 #[.int .i64 a0] w fun e w' => e = .returned (strV r.1) ∧ w = w') := fun w => by
    obtain ⟨r, h1, h2⟩ := refNth_any a0 w hb0
    exact ⟨r, h1, Lib.hid h2⟩
  clear w0 w1 hT
  go_enter Tryd.func5, Tryd.ntmps5
  go_wp2_with (fail)
  refine (awakeL w HW.out).mono ?_
  rintro e w1 ⟨rfl, c1⟩
  obtain ⟨r, hr, HN1⟩ := HN w1
  have hlk := look_of hr
  have hp := nm_row _ hr
  have hd : (⟨r.1.toArray⟩ : ByteArray).data.toList = r.1 := List.toList_toArray
  unfold strV at HN1
  generalize (⟨r.1.toArray⟩ : ByteArray) = q at HN1 hd
  have hlen := hp.len
  have hsq : q.size = r.1.length := by rw [Lib.size_eq, hd]
  have hq0 : 0 < q.size := by rw [hsq]; exact List.length_pos_iff.2 hp.ne
  have hsz : q.size ≤ 32 := by omega
  have hsome : (nmLook q.data.toList).isSome = true := by rw [hd, hlk]; rfl
  obtain ⟨j, hj⟩ : ∃ j : Nat, (q.size : Int) - 1 = (j : Int) := ⟨q.size - 1, by omega⟩
  have hj1 : j < q.size := by omega
  have b4 := last_eq q j hj1 (by omega)
  have HT := fun w => Lib.hid (refNmText_any q w (by omega))
  obtain ⟨T, hTq⟩ : ∃ T : ByteArray, ⟨(textL (aOf (nmLook q.data.toList)) (bOf (nmLook q.data.toList))).toArray⟩ = T := ⟨_, rfl⟩
  rw [hTq] at HT
  obtain ⟨C, hC⟩ : ∃ C : UInt8, (C.toNat : Int) = a1 := ⟨UInt8.ofNat a1.toNat, by rw [UInt8.toNat_ofNat']; omega⟩
  have hwI := wordN_int C
  rw [hC] at hwI
  have HC := Lib.hid hC
  have two : (ByteArray.mk #[C]).size = 1 := rfl
  have gs : 1 + q.size + 1 ≤ 34 := by omega
  have R1 := fun w h => Lib.hid (names_read q C true w hsz h)
  have R2 := fun w h => Lib.hid (names_read q C false w hsz h)
  have hql : q.data.toList.length = q.size := (Lib.size_eq q).symm
  have HCL := classes a1
  clear HN hlk hp hd hlen hsq hr two
  by_cases h59 : Lib.hasSuffix q.data.toList [59] = true
  · have n1 := name_semi q.data.toList [C] true hsome h59
    have n2 := name_semi q.data.toList [C] false hsome h59
    rw [n1.1, n1.2, hTq, hql] at R1
    rw [n2.1, n2.2, hTq, hql] at R2
    rw [h59] at b4
    clear n1 n2 hTq h59 hsome hql hwI hC
    rcases HCL with ⟨k1, k2, k3, k4, k5⟩ | ⟨k1, k2, k3, k4, k5⟩ | ⟨k1, k2, k3, k4, k5⟩ | ⟨k1, k2, k3, k4, k5⟩ | ⟨k1, k2, k3, k4, k5⟩ | ⟨k1, k2, k3, k4, k5⟩ | ⟨k1, k2, k3, k4, k5⟩
    all_goals
      go_wp2_with (fail)
      refine HN1.out.mono ?_
      rintro e w2 ⟨rfl, rfl⟩
      go_wp2_with (fail)
      rw [oneByte _ _ _ HC.out]
      simp only [Result.andThen]
      rw [Oper.upon_value]
      have c2 : Below w.heap.size w (w1.alloc (.cells #[.int .u8 a1] 5)) := c1.alloc c1.size _
      go_wp2_with (fail)
      refine (R1 _ (HW.out.below c2)).out.mono ?_
      rintro e w2 ⟨rfl, b2⟩
      have c3 := c2.trans (b2.mono c2.size)
      go_wp2_with (fail)
      refine (R2 _ (HW.out.below c3)).out.mono ?_
      rintro e w3 ⟨rfl, b3⟩
      have c4 := c3.trans (b3.mono c3.size)
      go_wp2_with (fail)
      refine (HT _).out.mono ?_
      rintro e w4 ⟨rfl, b4⟩
      have c5 := c4.trans (b4.mono c4.size)
      go_wp2
      go_ret
      exact ⟨ret_bool (by simp; try omega), c5⟩
  · rw [Bool.not_eq_true] at h59
    rw [h59] at b4
    by_cases h59c : a1 = 59
    · subst h59c
      obtain ⟨T1, hT1⟩ : ∃ T1 : ByteArray, ⟨(refT (q.data.toList ++ [C]) true).toArray⟩ = T1 := ⟨_, rfl⟩
      obtain ⟨T2, hT2⟩ : ∃ T2 : ByteArray, ⟨(refT (q.data.toList ++ [C]) false).toArray⟩ = T2 := ⟨_, rfl⟩
      have hm0 := name_more q.data.toList [C] hsome
      obtain ⟨m, hm⟩ : ∃ m, 1 + refM (q.data.toList ++ [C]) = m := ⟨_, rfl⟩
      have hmq : q.size + 1 ≤ m := by omega
      rw [hT1, hm] at R1
      rw [hT2, hm] at R2
      clear HCL hT1 hT2 hm hm0 hsome hql hwI hC hTq h59 HT
      go_wp2_with (fail)
      refine HN1.out.mono ?_
      rintro e w2 ⟨rfl, rfl⟩
      go_wp2_with (fail)
      rw [oneByte _ _ _ HC.out]
      simp only [Result.andThen]
      rw [Oper.upon_value]
      have c2 : Below w.heap.size w (w1.alloc (.cells #[.int .u8 59] 5)) := c1.alloc c1.size _
      go_wp2_with (fail)
      refine (R1 _ (HW.out.below c2)).out.mono ?_
      rintro e w2 ⟨rfl, b2⟩
      have c3 := c2.trans (b2.mono c2.size)
      go_wp2_with (fail)
      refine (R2 _ (HW.out.below c3)).out.mono ?_
      rintro e w3 ⟨rfl, b3⟩
      have c4 := c3.trans (b3.mono c3.size)
      go_wp2
      go_ret
      exact ⟨ret_bool (by simp; try omega), c4⟩
    by_cases h61 : a1 = 61
    · subst h61
      have hw : wordN C = false := by rw [← hwI]; decide
      have hc : C = 61 := u8_eq C 61 (by decide) hC
      have hc59 : C ≠ 59 := by rw [hc]; decide
      have n1 := name_stop q.data.toList C true hsome hw hc59
      have n2 := name_stop q.data.toList C false hsome hw hc59
      have e1 : (⟨(38 :: q.data.toList).toArray⟩ : ByteArray) = ⟨#[38]⟩ ++ q := str_ext (by rw [app_list, List.toList_toArray]; rfl)
      rw [n1.1, n1.2, h59, show (C == 61) = true by rw [hc]; rfl, show (true && !false && true) = true from rfl, if_pos rfl, e1, hql] at R1
      rw [n2.1, n2.2, show (false && !Lib.hasSuffix q.data.toList [59] && (C == 61)) = false from rfl, if_neg Bool.false_ne_true, hTq, hql] at R2
      have ga : 1 + q.size ≤ 33 := by omega
      clear n1 n2 hw hc hc59 e1 hsome hql hwI hC hTq h59 HCL h59c
      go_wp2_with (fail)
      refine HN1.out.mono ?_
      rintro e w2 ⟨rfl, rfl⟩
      go_wp2_with (fail)
      rw [oneByte _ _ _ HC.out]
      simp only [Result.andThen]
      rw [Oper.upon_value]
      have c2 : Below w.heap.size w (w1.alloc (.cells #[.int .u8 61] 5)) := c1.alloc c1.size _
      go_wp2_with (fail)
      refine (R1 _ (HW.out.below c2)).out.mono ?_
      rintro e w2 ⟨rfl, b2⟩
      have c3 := c2.trans (b2.mono c2.size)
      go_wp2_with (fail)
      refine (R2 _ (HW.out.below c3)).out.mono ?_
      rintro e w3 ⟨rfl, b3⟩
      have c4 := c3.trans (b3.mono c3.size)
      go_wp2_with (fail)
      refine (HT _).out.mono ?_
      rintro e w4 ⟨rfl, b4⟩
      have c5 := c4.trans (b4.mono c4.size)
      go_wp2
      go_ret
      exact ⟨ret_bool (by simp; try omega), c5⟩
    rcases HCL with ⟨k1, k2, k3, k4, k5⟩ | ⟨k1, k2, k3, k4, k5⟩ | ⟨k1, k2, k3, k4, k5⟩ | ⟨k1, k2, k3, k4, k5⟩ | ⟨k1, k2, k3, k4, k5⟩ | ⟨k1, k2, k3, k4, k5⟩ | ⟨k1, k2, k3, k4, k5⟩
    · have hw : wordN C = false := by
        rw [← hwI]
        unfold wordI letterI digitI
        rw [decide_eq_false (by omega), decide_eq_false (by omega)]; rfl
      have hc61 : (C == 61) = false := by
        rw [beq_eq_false_iff_ne]
        rintro rfl
        exact h61 hC.symm
      have hc59 : C ≠ 59 := by
        rintro rfl
        exact h59c hC.symm
      have n1 := name_stop q.data.toList C true hsome hw hc59
      have n2 := name_stop q.data.toList C false hsome hw hc59
      rw [n1.1, n1.2, hc61, Bool.and_false, if_neg Bool.false_ne_true, hTq, hql] at R1
      rw [n2.1, n2.2, hc61, Bool.and_false, if_neg Bool.false_ne_true, hTq, hql] at R2
      have d59 : (a1 == 59) = false := beq_eq_false_iff_ne.2 h59c
      have d61 : (a1 == 61) = false := beq_eq_false_iff_ne.2 h61
      clear n1 n2 hw hc61 hc59 hsome hql hwI hC hTq h59 h59c h61
      go_wp2_with (fail)
      refine HN1.out.mono ?_
      rintro e w2 ⟨rfl, rfl⟩
      go_wp2_with (fail)
      rw [oneByte _ _ _ HC.out]
      simp only [Result.andThen]
      rw [Oper.upon_value]
      have c2 : Below w.heap.size w (w1.alloc (.cells #[.int .u8 a1] 5)) := c1.alloc c1.size _
      go_wp2_with (fail)
      refine (R1 _ (HW.out.below c2)).out.mono ?_
      rintro e w2 ⟨rfl, b2⟩
      have c3 := c2.trans (b2.mono c2.size)
      go_wp2_with (fail)
      refine (R2 _ (HW.out.below c3)).out.mono ?_
      rintro e w3 ⟨rfl, b3⟩
      have c4 := c3.trans (b3.mono c3.size)
      go_wp2_with (fail)
      refine (HT _).out.mono ?_
      rintro e w4 ⟨rfl, b4⟩
      have c5 := c4.trans (b4.mono c4.size)
      go_wp2
      go_ret
      exact ⟨ret_bool (by simp; try omega), c5⟩
    · obtain ⟨T1, hT1⟩ : ∃ T1 : ByteArray, ⟨(refT (q.data.toList ++ [C]) true).toArray⟩ = T1 := ⟨_, rfl⟩
      obtain ⟨T2, hT2⟩ : ∃ T2 : ByteArray, ⟨(refT (q.data.toList ++ [C]) false).toArray⟩ = T2 := ⟨_, rfl⟩
      have hm0 := name_more q.data.toList [C] hsome
      obtain ⟨m, hm⟩ : ∃ m, 1 + refM (q.data.toList ++ [C]) = m := ⟨_, rfl⟩
      have hmq : q.size + 1 ≤ m := by omega
      rw [hT1, hm] at R1
      rw [hT2, hm] at R2
      clear h59c h61 hT1 hT2 hm hm0 hsome hql hwI hC hTq h59 HT
      go_wp2_with (fail)
      refine HN1.out.mono ?_
      rintro e w2 ⟨rfl, rfl⟩
      go_wp2_with (fail)
      rw [oneByte _ _ _ HC.out]
      simp only [Result.andThen]
      rw [Oper.upon_value]
      have c2 : Below w.heap.size w (w1.alloc (.cells #[.int .u8 a1] 5)) := c1.alloc c1.size _
      go_wp2_with (fail)
      refine (R1 _ (HW.out.below c2)).out.mono ?_
      rintro e w2 ⟨rfl, b2⟩
      have c3 := c2.trans (b2.mono c2.size)
      go_wp2_with (fail)
      refine (R2 _ (HW.out.below c3)).out.mono ?_
      rintro e w3 ⟨rfl, b3⟩
      have c4 := c3.trans (b3.mono c3.size)
      go_wp2
      go_ret
      exact ⟨ret_bool (by simp; try omega), c4⟩
    · have hw : wordN C = false := by
        rw [← hwI]
        unfold wordI letterI digitI
        rw [decide_eq_false (by omega), decide_eq_false (by omega)]; rfl
      have hc61 : (C == 61) = false := by
        rw [beq_eq_false_iff_ne]
        rintro rfl
        exact h61 hC.symm
      have hc59 : C ≠ 59 := by
        rintro rfl
        exact h59c hC.symm
      have n1 := name_stop q.data.toList C true hsome hw hc59
      have n2 := name_stop q.data.toList C false hsome hw hc59
      rw [n1.1, n1.2, hc61, Bool.and_false, if_neg Bool.false_ne_true, hTq, hql] at R1
      rw [n2.1, n2.2, hc61, Bool.and_false, if_neg Bool.false_ne_true, hTq, hql] at R2
      have d59 : (a1 == 59) = false := beq_eq_false_iff_ne.2 h59c
      have d61 : (a1 == 61) = false := beq_eq_false_iff_ne.2 h61
      clear n1 n2 hw hc61 hc59 hsome hql hwI hC hTq h59 h59c h61
      go_wp2_with (fail)
      refine HN1.out.mono ?_
      rintro e w2 ⟨rfl, rfl⟩
      go_wp2_with (fail)
      rw [oneByte _ _ _ HC.out]
      simp only [Result.andThen]
      rw [Oper.upon_value]
      have c2 : Below w.heap.size w (w1.alloc (.cells #[.int .u8 a1] 5)) := c1.alloc c1.size _
      go_wp2_with (fail)
      refine (R1 _ (HW.out.below c2)).out.mono ?_
      rintro e w2 ⟨rfl, b2⟩
      have c3 := c2.trans (b2.mono c2.size)
      go_wp2_with (fail)
      refine (R2 _ (HW.out.below c3)).out.mono ?_
      rintro e w3 ⟨rfl, b3⟩
      have c4 := c3.trans (b3.mono c3.size)
      go_wp2_with (fail)
      refine (HT _).out.mono ?_
      rintro e w4 ⟨rfl, b4⟩
      have c5 := c4.trans (b4.mono c4.size)
      go_wp2
      go_ret
      exact ⟨ret_bool (by simp; try omega), c5⟩
    · obtain ⟨T1, hT1⟩ : ∃ T1 : ByteArray, ⟨(refT (q.data.toList ++ [C]) true).toArray⟩ = T1 := ⟨_, rfl⟩
      obtain ⟨T2, hT2⟩ : ∃ T2 : ByteArray, ⟨(refT (q.data.toList ++ [C]) false).toArray⟩ = T2 := ⟨_, rfl⟩
      have hm0 := name_more q.data.toList [C] hsome
      obtain ⟨m, hm⟩ : ∃ m, 1 + refM (q.data.toList ++ [C]) = m := ⟨_, rfl⟩
      have hmq : q.size + 1 ≤ m := by omega
      rw [hT1, hm] at R1
      rw [hT2, hm] at R2
      clear h59c h61 hT1 hT2 hm hm0 hsome hql hwI hC hTq h59 HT
      go_wp2_with (fail)
      refine HN1.out.mono ?_
      rintro e w2 ⟨rfl, rfl⟩
      go_wp2_with (fail)
      rw [oneByte _ _ _ HC.out]
      simp only [Result.andThen]
      rw [Oper.upon_value]
      have c2 : Below w.heap.size w (w1.alloc (.cells #[.int .u8 a1] 5)) := c1.alloc c1.size _
      go_wp2_with (fail)
      refine (R1 _ (HW.out.below c2)).out.mono ?_
      rintro e w2 ⟨rfl, b2⟩
      have c3 := c2.trans (b2.mono c2.size)
      go_wp2_with (fail)
      refine (R2 _ (HW.out.below c3)).out.mono ?_
      rintro e w3 ⟨rfl, b3⟩
      have c4 := c3.trans (b3.mono c3.size)
      go_wp2
      go_ret
      exact ⟨ret_bool (by simp; try omega), c4⟩
    · have hw : wordN C = false := by
        rw [← hwI]
        unfold wordI letterI digitI
        rw [decide_eq_false (by omega), decide_eq_false (by omega)]; rfl
      have hc61 : (C == 61) = false := by
        rw [beq_eq_false_iff_ne]
        rintro rfl
        exact h61 hC.symm
      have hc59 : C ≠ 59 := by
        rintro rfl
        exact h59c hC.symm
      have n1 := name_stop q.data.toList C true hsome hw hc59
      have n2 := name_stop q.data.toList C false hsome hw hc59
      rw [n1.1, n1.2, hc61, Bool.and_false, if_neg Bool.false_ne_true, hTq, hql] at R1
      rw [n2.1, n2.2, hc61, Bool.and_false, if_neg Bool.false_ne_true, hTq, hql] at R2
      have d59 : (a1 == 59) = false := beq_eq_false_iff_ne.2 h59c
      have d61 : (a1 == 61) = false := beq_eq_false_iff_ne.2 h61
      clear n1 n2 hw hc61 hc59 hsome hql hwI hC hTq h59 h59c h61
      go_wp2_with (fail)
      refine HN1.out.mono ?_
      rintro e w2 ⟨rfl, rfl⟩
      go_wp2_with (fail)
      rw [oneByte _ _ _ HC.out]
      simp only [Result.andThen]
      rw [Oper.upon_value]
      have c2 : Below w.heap.size w (w1.alloc (.cells #[.int .u8 a1] 5)) := c1.alloc c1.size _
      go_wp2_with (fail)
      refine (R1 _ (HW.out.below c2)).out.mono ?_
      rintro e w2 ⟨rfl, b2⟩
      have c3 := c2.trans (b2.mono c2.size)
      go_wp2_with (fail)
      refine (R2 _ (HW.out.below c3)).out.mono ?_
      rintro e w3 ⟨rfl, b3⟩
      have c4 := c3.trans (b3.mono c3.size)
      go_wp2_with (fail)
      refine (HT _).out.mono ?_
      rintro e w4 ⟨rfl, b4⟩
      have c5 := c4.trans (b4.mono c4.size)
      go_wp2
      go_ret
      exact ⟨ret_bool (by simp; try omega), c5⟩
    · obtain ⟨T1, hT1⟩ : ∃ T1 : ByteArray, ⟨(refT (q.data.toList ++ [C]) true).toArray⟩ = T1 := ⟨_, rfl⟩
      obtain ⟨T2, hT2⟩ : ∃ T2 : ByteArray, ⟨(refT (q.data.toList ++ [C]) false).toArray⟩ = T2 := ⟨_, rfl⟩
      have hm0 := name_more q.data.toList [C] hsome
      obtain ⟨m, hm⟩ : ∃ m, 1 + refM (q.data.toList ++ [C]) = m := ⟨_, rfl⟩
      have hmq : q.size + 1 ≤ m := by omega
      rw [hT1, hm] at R1
      rw [hT2, hm] at R2
      clear h59c h61 hT1 hT2 hm hm0 hsome hql hwI hC hTq h59 HT
      go_wp2_with (fail)
      refine HN1.out.mono ?_
      rintro e w2 ⟨rfl, rfl⟩
      go_wp2_with (fail)
      rw [oneByte _ _ _ HC.out]
      simp only [Result.andThen]
      rw [Oper.upon_value]
      have c2 : Below w.heap.size w (w1.alloc (.cells #[.int .u8 a1] 5)) := c1.alloc c1.size _
      go_wp2_with (fail)
      refine (R1 _ (HW.out.below c2)).out.mono ?_
      rintro e w2 ⟨rfl, b2⟩
      have c3 := c2.trans (b2.mono c2.size)
      go_wp2_with (fail)
      refine (R2 _ (HW.out.below c3)).out.mono ?_
      rintro e w3 ⟨rfl, b3⟩
      have c4 := c3.trans (b3.mono c3.size)
      go_wp2
      go_ret
      exact ⟨ret_bool (by simp; try omega), c4⟩
    · have hw : wordN C = false := by
        rw [← hwI]
        unfold wordI letterI digitI
        rw [decide_eq_false (by omega), decide_eq_false (by omega)]; rfl
      have hc61 : (C == 61) = false := by
        rw [beq_eq_false_iff_ne]
        rintro rfl
        exact h61 hC.symm
      have hc59 : C ≠ 59 := by
        rintro rfl
        exact h59c hC.symm
      have n1 := name_stop q.data.toList C true hsome hw hc59
      have n2 := name_stop q.data.toList C false hsome hw hc59
      rw [n1.1, n1.2, hc61, Bool.and_false, if_neg Bool.false_ne_true, hTq, hql] at R1
      rw [n2.1, n2.2, hc61, Bool.and_false, if_neg Bool.false_ne_true, hTq, hql] at R2
      have d59 : (a1 == 59) = false := beq_eq_false_iff_ne.2 h59c
      have d61 : (a1 == 61) = false := beq_eq_false_iff_ne.2 h61
      clear n1 n2 hw hc61 hc59 hsome hql hwI hC hTq h59 h59c h61
      go_wp2_with (fail)
      refine HN1.out.mono ?_
      rintro e w2 ⟨rfl, rfl⟩
      go_wp2_with (fail)
      rw [oneByte _ _ _ HC.out]
      simp only [Result.andThen]
      rw [Oper.upon_value]
      have c2 : Below w.heap.size w (w1.alloc (.cells #[.int .u8 a1] 5)) := c1.alloc c1.size _
      go_wp2_with (fail)
      refine (R1 _ (HW.out.below c2)).out.mono ?_
      rintro e w2 ⟨rfl, b2⟩
      have c3 := c2.trans (b2.mono c2.size)
      go_wp2_with (fail)
      refine (R2 _ (HW.out.below c3)).out.mono ?_
      rintro e w3 ⟨rfl, b3⟩
      have c4 := c3.trans (b3.mono c3.size)
      go_wp2_with (fail)
      refine (HT _).out.mono ?_
      rintro e w4 ⟨rfl, b4⟩
      have c5 := c4.trans (b4.mono c4.size)
      go_wp2
      go_ret
      exact ⟨ret_bool (by simp; try omega), c5⟩
  -- go_wp2
  -- go_ret
  -- exact ⟨rfl, by repeat (first | exact Grown.refl _ | apply Grown.drew | apply Grown.alloc)⟩

theorem laid_met (os : Os) : laidMet Tryd.prog Rows.refNamesRow.laid ((laidWorld os).forCall (fun _ _ => 0) ⟨#[], #[.int .u16 0, .int .u8 0], []⟩).memory :=
  laidMet_of_run' 8 (by kernel_rfl) (by kernel_rfl)
theorem reads (os : Os) {H : Type} (enc : TypeId × Value → H) : ∃ places, DataW.whole enc Tryd.prog ((laidWorld os).forCall (fun _ _ => 0) ⟨#[], #[.int .u16 0, .int .u8 0], []⟩).memory Tryd.f5.params.toList Rows.refNamesSpec.vars false (#[.int .u16 0, .int .u8 0] : Array Value).toList 8 = some ([.lit (.int .u16 0), .lit (.int .u8 0)], [], places) :=
  ⟨[], by kernel_rfl⟩
set_option maxRecDepth 100000 in
theorem lifted (os : Os) (started : os.Started) (H : Type) (enc : TypeId × Value → H) (F : Stop.Interp) :
    ReturnsInHanded {} Tryd.checked os 5 .any ((OpenSpec.ofChange Rows.refNamesSpec).preRow enc Tryd.prog Tryd.f5 Rows.refNamesRow.domain false Rows.refNamesRow.laid) (((OpenSpec.ofChange Rows.refNamesSpec).at F).post enc Tryd.prog Tryd.f5 false true false false) := by
  obtain ⟨places, hx⟩ := reads os enc
  refine returnsInHanded_of_row (C := Tryd.checked) (s := OpenSpec.ofChange Rows.refNamesSpec) own started (by kernel_rfl) Tryd.func5
    (witness_row_at (enc := enc) (C := Tryd.checked) false (laidWorld os) #[.int .u16 0, .int .u8 0] rfl (by kernel_rfl) (by kernel_rfl) (by kernel_rfl)
      (OpenSpec.preRow_of_cond 8 hx (by kernel_rfl) (fun k hk => by cases hk) (by kernel_rfl) (laid_met os))) ?_
  intro W base args ds gs before hval0 hW _ _ _ hL _ _
  have hval : ∀ (j : Nat) t v, Tryd.f5.params[j]? = some t → args[j]? = some v → Value.okWide Tryd.prog W .any base t v := hval0
  have hW' := hW
  obtain ⟨p, q, hA0, hV, rfl, hfz, hnd⟩ := hW
  have hA : DataW.TrodAll enc Tryd.prog W 0 (fun _ => true) true Tryd.f5.params.toList args.toList ds p := hA0
  rw [Tryd.params5] at hA hval
  obtain ⟨v0, vs0, d0, ds0, p0, q0, hargs, rfl, rfl, h0, r0⟩ := trodAll_cons hA
  obtain ⟨v1, vs1, d1, ds1, p1, q1, rfl, rfl, rfl, h1, r1⟩ := trodAll_cons r0
  obtain ⟨rfl, rfl, rfl⟩ := trodAll_nil r1
  obtain rfl : args = #[v0, v1] := by cases args; simp_all
  obtain ⟨rfl, rfl⟩ := trodVars_none hV
  obtain ⟨a0, rfl, rfl, rfl, w0⟩ := open_int Tryd.underlying28 (hval 0 28 v0 rfl rfl) h0
  obtain ⟨a1, rfl, rfl, rfl, w1⟩ := open_int Tryd.underlying5 (hval 1 5 v1 rfl rfl) h1
  clear hA0 hval0
  refine (walk a0 a1 w0 w1 W (tabAt_of hL)).mono fun e W' ⟨he, bel⟩ => ?_
  subst he
  exact ⟨_, rfl, _, _, _, [], _, [], hW', trodAll_mk1 (shut_bool Tryd.underlying4 _), (trodAll_cons_mk (shut_int Tryd.underlying28 w0) (trodAll_cons_mk (shut_int Tryd.underlying5 w1) trodAll_mk0)), rfl, bel.frame _, fun h => by cases h⟩

theorem said : Rows.RefNamesSaid :=
  OpenClaim.holds_of_cond 5 Tryd.f5 rfl rfl rfl rfl rfl rfl rfl ⟨rfl, rfl, rfl, rfl, rfl⟩ rfl rfl rfl rfl rfl (by kernel_rfl) Tryd.func5 (by kernel_rfl)
    (of_decide_eq_true (by kernel_rfl)) (by unfold Func.isWrapper; first | (rw [if_pos (by decide +kernel)]; kernel_rfl) | (rw [if_neg (by decide +kernel)]; exact ⟨rfl, rfl⟩))
    (fun os started H enc _ F => by rw [OpenClaim.pre_eq_preRow]; exact lifted os started H enc F)
theorem plain (f : FuncId) (fn : Func) (hf : Tryd.pinned.checked.prog.funcNamed "flail/flaillaw07.RefNames" = some f) (hfn : Tryd.pinned.checked.prog.funcs[f]? = some fn) :
    true = Tryd.pinned.checked.prog.looks [] ∧ ∀ (j : Nat) t, fn.params[j]? = some t → Tryd.pinned.checked.prog.wantsStandIn t = false := by
  obtain rfl : f = 5 := Option.some.inj ((show Tryd.prog.funcNamed "flail/flaillaw07.RefNames" = some 5 by kernel_rfl).symm.trans hf) |>.symm
  obtain rfl : fn = Tryd.f5 := (Option.some.inj (Tryd.func5.symm.trans hfn)).symm
  refine ⟨by kernel_rfl, fun j t ht => ?_⟩
  rw [Tryd.params5] at ht
  have hm : t ∈ [28, 5] := by simpa using Array.mem_of_getElem? ht
  have hall : ([28, 5].all fun u => !Tryd.prog.wantsStandIn u) = true := by kernel_rfl
  exact (show Tryd.prog.wantsStandIn t = false by simpa using List.all_eq_true.1 hall t hm)
/-- the statement: the row's card -/
theorem proved : Rows.RefNamesCardSaid :=
  Claim7.holds_tied_plain_at .later [] _ _ _ _ said (fun _ h => by cases h) (by kernel_rfl) (fun _ h => by cases h) refNames_row_tie rfl ⟨rfl, rfl⟩ (by kernel_rfl) rfl plain (by kernel_rfl)
end Go.Proofs.YtdpgdcbclgdjaaaDoor.refNames
