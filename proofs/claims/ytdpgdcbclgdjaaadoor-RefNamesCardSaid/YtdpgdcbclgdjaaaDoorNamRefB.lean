/-
  What the document's functions of layer 6 answer, for every input: a name's value.
-/
import Derived.Test.YtdpgdcbclgdjaaaDoorNamRef
namespace Go.Proofs.YtdpgdcbclgdjaaaDoor
open Go.RowKit Go.Lib

/-- what the walk along a line's rest asks of the table -/
structure RestI (T : ByteArray) (p : Nat) (r : Txt) : Prop where
  le : p + r.length ≤ T.size
  byte : ∀ (i j : Nat) (hj : j < r.length) (hi : i < T.size), i = p + j → T[i] = r[j]
  fin : p + r.length = T.size ∨ ∃ h : p + r.length < T.size, T[p + r.length] = 10
  bytes : ∀ c ∈ r, c = 32 ∨ hexB c = true
theorem restI {T : ByteArray} (hT : T.data.toList = flatL nmRows) (k : Nat) (hk : k < nmRows.length) : RestI T (offN nmRows k + nmRows[k].1.length + 1) nmRows[k].2 := by
  have h1 := offN_lt_to nmRows k nmRows.length hk (Nat.le_refl _)
  rw [toN_all, lineL_len] at h1
  have hTs : T.size = (flatL nmRows).length := by rw [Lib.size_eq, hT]
  refine ⟨by omega, ?_, ?_, row_bytes (nm_row _ (List.getElem_mem hk))⟩
  · intro i j hj hi e
    subst e
    have h2 := rest_at k hk j hj
    rw [some_at T _ hT _ hi] at h2
    exact Option.some.inj h2
  · rcases rest_end k hk with h2 | h2
    · exact .inl (by omega)
    · right
      have h3 : offN nmRows k + nmRows[k].1.length + 1 + nmRows[k].2.length < T.size := by
        have := (List.getElem?_eq_some_iff.1 h2).1
        omega
      rw [some_at T _ hT _ h3] at h2
      exact ⟨h3, Option.some.inj h2⟩
theorem stepP_32 (p : Par) : stepP p 32 = ⟨p.a, p.b, false⟩ := if_pos rfl
theorem stepP_one (a b : Nat) (c : UInt8) (d : Nat) (h : hexB c = true) (hd : hexI (c.toNat : Int) = (d : Int)) : stepP ⟨a, b, true⟩ c = ⟨16 * a + d, b, true⟩ := by
  unfold stepP
  rw [if_neg (hexB_int c h).2.2.2.1, if_pos rfl]
  unfold stepH
  rw [hd]; rfl
theorem stepP_two (a b : Nat) (c : UInt8) (d : Nat) (h : hexB c = true) (hd : hexI (c.toNat : Int) = (d : Int)) : stepP ⟨a, b, false⟩ c = ⟨a, 16 * b + d, false⟩ := by
  unfold stepP
  rw [if_neg (hexB_int c h).2.2.2.1, if_neg Bool.false_ne_true]
  unfold stepH
  rw [hd]; rfl

set_option maxHeartbeats 8000000 in
set_option maxRecDepth 1000000 in
theorem refNmValue_any (name : ByteArray) (w : World) (hs : name.size ≤ 1099511627776) :
    Calls Tryd.prog 34 #[.string name] w fun e w' => e = .returned (.tuple #[.int .i64 (aOf (nmLook name.data.toList) : Int), .int .i64 (bOf (nmLook name.data.toList) : Int), .bool (nmLook name.data.toList).isSome]) ∧ ∃ n, w' = w.drewN n := by
  refine calls_of_wp Tryd.func34 rfl ?_
  generalize hT : (ByteArray.mk (List.toArray (List.append _ _))) = T
  have HT : IsNm T := ⟨by rw [← hT]; kernel_rfl⟩
  clear hT
  have hTs := HT.size
  have HC := fun h w => Lib.hid (refAt_any name w h hs)
  have HB := fun h => Lib.hid (look_bad name.data.toList h)
  obtain ⟨o, ho⟩ : ∃ o, nmLook name.data.toList = o := ⟨_, rfl⟩
  obtain ⟨R, hR⟩ : ∃ R, atL nmRows name.data.toList = R := ⟨_, rfl⟩
  have HL : Hid ((R = -1 ∧ o = none) ∨ ∃ (p q : Nat) (r : Txt), R = (q : Int) ∧ (q : Int) + name.size + 1 = (p : Int) ∧ RestI T p r ∧ p + r.length ≤ 1000000 ∧ o = some r ∧ RowP (name.data.toList, r)) := Lib.hid (by
    rcases look_atL name.data.toList with ⟨h1, h2⟩ | ⟨k, hk, h1, h2, h3⟩
    · exact .inl ⟨by rw [← hR, h1], by rw [← ho, h2]⟩
    · right
      have h4 := restI HT.list k hk
      have h5 := nm_row _ (List.getElem_mem hk)
      refine ⟨_, offN nmRows k, nmRows[k].2, by rw [← hR, h2], ?_, h4, by have := h4.le; omega, by rw [← ho, h3], ?_⟩
      · rw [Lib.size_eq, ← h1]; push_cast; rfl
      · rw [← h1]; exact h5)
  rw [hR] at HC
  rw [ho] at HB ⊢
  clear HT hR ho
  obtain ⟨A, hA⟩ : ∃ A : Int, (aOf o : Int) = A := ⟨_, rfl⟩
  obtain ⟨B, hB⟩ : ∃ B : Int, (bOf o : Int) = B := ⟨_, rfl⟩
  obtain ⟨I, hI⟩ : ∃ I, o.isSome = I := ⟨_, rfl⟩
  rw [hA, hB, hI]
  have HN : Hid (o = none → A = 0 ∧ B = 0 ∧ I = false) := Lib.hid (by rintro rfl; exact ⟨hA.symm, hB.symm, hI.symm⟩)
  have HS : Hid (∀ r, o = some r → (hexN (firL r) : Int) = A ∧ (hexN (secL r) : Int) = B ∧ I = true) := Lib.hid (by rintro r rfl; exact ⟨hA, hB, hI.symm⟩)
  clear hA hB hI
  simp only [Tryd.ntmps34, List.size_toArray, List.length_cons, List.length_nil, Nat.reduceAdd, Nat.reduceSub, Array.replicate_succ, Array.replicate_zero, List.push_toArray, List.append_toArray, List.nil_append, List.cons_append]
  go_wp2
  go_loopw [5] (fun v wr => ∃ k : Nat, v = .int .i64 (k : Int) ∧ k ≤ name.size ∧ (∀ c ∈ name.data.toList.take k, ¬ (c = 10 ∨ c = 32)) ∧ w = wr) (fun v _ => name.size - (intOf v).toNat)
  case atStart => exact ⟨0, rfl, Nat.zero_le _, by simp, rfl⟩
  case round =>
    obtain ⟨k, rfl, hk, hd, rfl⟩ := hrel
    have HD := Lib.hid hd
    clear hd
    by_cases hlt : k < name.size
    · by_cases h10 : ((name[k].toNat : Nat) : Int) = 10
      · have b1 : (((name[k].toNat : Nat) : Int) == 10) = true := by simpa using h10
        have HO := HB ⟨name[k], by rw [← at_list name k hlt]; exact List.getElem_mem _, .inl (u8_eq _ 10 (by decide) h10)⟩
        obtain ⟨rfl, rfl, rfl⟩ := HN.out HO.out
        clear h10 HO HN HS HL HB HC
        go_wp2
        go_ret3
        exact ⟨rfl, 0, rfl⟩
      · have b1 : (((name[k].toNat : Nat) : Int) == 10) = false := by simpa using h10
        by_cases h32 : ((name[k].toNat : Nat) : Int) = 32
        · have b2 : (((name[k].toNat : Nat) : Int) == 32) = true := by simpa using h32
          have HO := HB ⟨name[k], by rw [← at_list name k hlt]; exact List.getElem_mem _, .inr (u8_eq _ 32 (by decide) h32)⟩
          obtain ⟨rfl, rfl, rfl⟩ := HN.out HO.out
          clear h10 h32 HO HN HS HL HB HC
          go_wp2
          go_ret3
          exact ⟨rfl, 0, rfl⟩
        · have b2 : (((name[k].toNat : Nat) : Int) == 32) = false := by simpa using h32
          have HE : Hid (∀ c ∈ name.data.toList.take (k + 1), ¬ (c = 10 ∨ c = 32)) := Lib.hid (by
            rw [List.take_succ_eq_append_getElem (by rw [← Lib.size_eq]; exact hlt), at_list name k hlt]
            intro c hc
            rcases List.mem_append.1 hc with hc | hc
            · exact HD.out c hc
            · rw [List.mem_singleton.1 hc]
              rintro (e | e)
              · exact h10 (by rw [e]; rfl)
              · exact h32 (by rw [e]; rfl))
          clear h10 h32 HN HS HL HB HC
          go_wp2
          go_roundw
          case rel => exact ⟨k + 1, rfl, by omega, HE.out, trivial⟩
          case measure => simp [intOf]; omega
    · have h32 : 32 ∉ name.data.toList := by
        intro hm
        refine HD.out 32 ?_ (.inr rfl)
        rw [List.take_of_length_le (by rw [← Lib.size_eq]; omega)]
        exact hm
      have HC1 := fun w => HC h32 w
      clear h32 HC HB HD
      rcases HL.out with ⟨rfl, e⟩ | ⟨p, q, r, rfl, hp, hI, hpl, e, hrow⟩
      · obtain ⟨rfl, rfl, rfl⟩ := HN.out e
        clear HN HS HL e
        go_wp2_with (fail)
        refine (HC1 _).out.mono ?_
        rintro e w1 ⟨rfl, n, rfl⟩
        go_wp2
        go_ret3
        exact ⟨rfl, n, rfl⟩
      · obtain ⟨hA, hB, rfl⟩ := HS.out r e
        have hpar := par_row hrow
        simp only at hpar
        rw [hpar.1.symm] at hA
        rw [hpar.2.symm] at hB
        have HPS := fun j => Lib.hid (par_small hrow j)
        simp only at HPS
        have HA := Lib.hid hA
        have HB := Lib.hid hB
        have HI := Lib.hid hI
        have hq : (q : Int) + name.size + 1 ≤ T.size := by have := hI.le; omega
        clear hpl
        have hq0 : (0 : Int) ≤ (q : Int) := by omega
        clear hA hB hI e hpar hrow HN HS HL
        go_wp2_with (fail)
        refine (HC1 _).out.mono ?_
        rintro e w1 ⟨rfl, n, rfl⟩
        obtain ⟨W, hW⟩ : ∃ W, W = w.drewN n := ⟨_, rfl⟩
        rw [← hW]
        have HW := Lib.hid hW
        clear hW HC1
        go_wp2
        go_loopw [7, 8, 9, 11] (fun va vb vo v wr => ∃ i j : Nat, va = .int .i64 ((parL (r.take j)).a : Int) ∧ vb = .int .i64 ((parL (r.take j)).b : Int) ∧ vo = .bool (parL (r.take j)).one ∧ v = .int .i64 (i : Int) ∧ Hid (i = p + j) ∧ j ≤ r.length ∧ W = wr) (fun _ _ _ v _ => T.size - (intOf v).toNat)
        case atStart => exact ⟨p, 0, rfl, rfl, rfl, by go_num, Lib.hid rfl, Nat.zero_le _, rfl⟩
        case round =>
          obtain ⟨i, j, rfl, rfl, rfl, rfl, hij, hj, rfl⟩ := hrel
          have hsm := (HPS j).out
          have hiT : i ≤ T.size := by have := HI.out.le; have := hij.out; omega
          by_cases hjl : j < r.length
          · have hiT2 : i < T.size := by have := HI.out.le; have := hij.out; omega
            have hbyte := HI.out.byte i j hjl hiT2 hij.out
            have hkind := HI.out.bytes _ (List.getElem_mem hjl)
            have hstep := parL_snoc r j hjl
            rw [← hbyte] at hkind hstep
            generalize parL (r.take j) = P at *
            obtain ⟨a, b, one⟩ := P
            simp only at hsm
            by_cases h32 : T[i] = 32
            · have b1 : (((T[i].toNat : Nat) : Int) == 10) = false := by rw [h32]; rfl
              have b2 : (((T[i].toNat : Nat) : Int) == 32) = true := by rw [h32]; rfl
              rw [h32, stepP_32] at hstep
              have HST := Lib.hid hstep
              clear hstep hbyte hkind h32
              go_wp2
              go_roundw
              case rel => exact ⟨i + 1, j + 1, by rw [HST.out], by rw [HST.out], by rw [HST.out], rfl, Lib.hid (by have := hij.out; omega), by omega, trivial⟩
              case measure => simp [intOf]; omega
            · have hx := hkind.resolve_left h32
              obtain ⟨x0, x1, x2, x3, -⟩ := hexB_int _ hx
              obtain ⟨d, hd⟩ : ∃ d : Nat, hexI ((T[i].toNat : Nat) : Int) = (d : Int) := ⟨(hexI ((T[i].toNat : Nat) : Int)).toNat, by omega⟩
              have hd16 : d < 16 := by omega
              have b1 : (((T[i].toNat : Nat) : Int) == 10) = false := by rw [beq_eq_false_iff_ne]; exact fun e => x2 (u8_eq _ 10 (by decide) e)
              have b2 : (((T[i].toNat : Nat) : Int) == 32) = false := by rw [beq_eq_false_iff_ne]; exact fun e => x3 (u8_eq _ 32 (by decide) e)
              have hc := T[i].toNat_lt
              have HD := Lib.hid hd
              cases one
              · rw [stepP_two a b _ d hx hd] at hstep
                have HST := Lib.hid hstep
                clear hstep hbyte hkind h32 hx x0 x1 x2 x3 hd
                go_wp2_with (fail)
                refine (refHex _ _ (by omega) (by omega)).mono ?_
                rintro e w1 ⟨rfl, rfl⟩
                rw [HD.out]
                go_wp2
                go_roundw
                case rel => exact ⟨i + 1, j + 1, by rw [HST.out], by rw [HST.out]; go_num, by rw [HST.out], rfl, Lib.hid (by have := hij.out; omega), by omega, trivial⟩
                case measure => simp [intOf]; omega
              · rw [stepP_one a b _ d hx hd] at hstep
                have HST := Lib.hid hstep
                clear hstep hbyte hkind h32 hx x0 x1 x2 x3 hd
                go_wp2_with (fail)
                refine (refHex _ _ (by omega) (by omega)).mono ?_
                rintro e w1 ⟨rfl, rfl⟩
                rw [HD.out]
                go_wp2
                go_roundw
                case rel => exact ⟨i + 1, j + 1, by rw [HST.out]; go_num, by rw [HST.out], by rw [HST.out], rfl, Lib.hid (by have := hij.out; omega), by omega, trivial⟩
                case measure => simp [intOf]; omega
          · have e1 : r.take j = r := List.take_of_length_le (by omega)
            rw [e1, HA.out, HB.out]
            rcases HI.out.fin with hf | ⟨hf, h10⟩
            · have hiT2 : i = T.size := by have := hij.out; omega
              subst hiT2
              go_wp2
              go_ret3
              exact ⟨rfl, n, HW.out⟩
            · have hiT2 : i < T.size := by have := hij.out; omega
              have b1 : (((T[i].toNat : Nat) : Int) == 10) = true := by
                have : i = p + r.length := by have := hij.out; omega
                subst this
                rw [h10]; rfl
              clear h10 hf
              go_wp2
              go_ret3
              exact ⟨rfl, n, HW.out⟩
end Go.Proofs.YtdpgdcbclgdjaaaDoor
