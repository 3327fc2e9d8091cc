/-
  Texts laid together: Rec, DtRef, TxtRef, TxtRefB, RawRef, RawRefT, ScrRef.
-/
import Derived.Test.YtajpoodpbbbkfaaGreatDoorP1
import Derived.Below
import Derived.Deep.QuietTactic
import Derived.Test.YtajpoodpbbbkfaaGreatDoorQA
import Derived.Test.YtajpoodpbbbkfaaGreatDoorP4
import Derived.Test.YtajpoodpbbbkfaaGreatDoorQC
import Derived.Test.YtajpoodpbbbkfaaGreatDoorP6
set_option maxHeartbeats 8000000
set_option maxRecDepth 100000
namespace Go.Proofs.YtajpoodpbbbkfaaGreatDoor
open Go.RowKit Go.Lib
section
variable {P:Program} {ops:Array Oper} {rest:List Oper} {o:Oper} {a:Act} {w:World} {Q:Exit→Act→World→Prop}
theorem pV (hg : o.guard = none) (ty : TypeId) (x y : Operand) (ho : o.op = .store ty x y) (g : Nat) (cells : Array Value) (T : TypeId)
    (hx : a.eval x = .pointer (some ⟨g, 0, none⟩)) (hy : a.eval y = .agg cells) (old : Array Value) (hb : w.heap[g]? = some (.cells old T (0, 0))) (hi : (P.info? ty).map (·.size) = some cells.size) (h5 : old.size = cells.size) (h1 : cells.all (·.oneCell') = true)
    (hK : ∀ w', w'.heap[g]? = some (.cells cells T (0, 0)) → w.grownBy w' (some g) → wpList P ops Q rest (a.put o.dst undef) w') :
    wpList P ops Q (o :: rest) a w :=
  wpList_plain hg fun K' hK' => wp_store_row ty x y ho g cells hx hy T old hb hi h5 h1 (hK' _ _ (hK _ (setRow_heap w g old _ _ _ hb) ⟨rfl, rfl, rfl, by simp, fun k _ hk => setRow_other w g k _ (fun e => hk (by rw [e]))⟩))
theorem jQ (g i : Nat) (cur : Array Value) (T ty : TypeId) (v : Value) (hb : w.heap[g]? = some (.cells cur T (0, 0))) (hi : i < cur.size) (hs : (P.info? ty).map (·.size) = some 1) (h1 : v.oneCell' = true) (hc : v.cells = #[v]) :
    (storeVar ty ⟨g, i, none⟩ v).run P w = .ok () (w.setCell ⟨g, i, none⟩ v) := by
  have hadd : (⟨g, i, none⟩ : Addr).add 0 = ⟨g, i, none⟩ := by unfold Addr.add; split <;> simp_all
  have hcell : w.cell? ⟨g, i, none⟩ = some cur[i] := by simp [World.cell?, hb, hi]
  have hfro : w.frozen? ⟨g, i, none⟩ = false := by simp [World.frozen?, hb]
  have hst : (store ⟨g, i, none⟩ v).run P w = .ok () (w.setCell ⟨g, i, none⟩ v) := by
    rw [run_store P w _ v _ h1, hcell]
    simp [hfro]
  cases hq : P.info? ty with
  | none => simp [hq] at hs
  | some z =>
    have hz : z.size = 1 := by simpa [hq] using hs
    simp [storeVar, sizeOf, typeInfo, hq, hc, hz, storeCells, hadd, Sem.run_bind, hst]
theorem jR (hg : o.guard = none) (ty : TypeId) (x y : Operand) (ho : o.op = .store ty x y) (g i : Nat) (v : Value) (T : TypeId)
    (hx : a.eval x = .pointer (some ⟨g, i, none⟩)) (hy : a.eval y = v) (cur : Array Value) (hb : w.heap[g]? = some (.cells cur T (0, 0))) (hi : i < cur.size) (hs : (P.info? ty).map (·.size) = some 1) (h1 : v.oneCell' = true) (hc : v.cells = #[v])
    (hK : ∀ w', w'.heap[g]? = some (.cells (cur.setIfInBounds i v) T (0, 0)) → w.grownBy w' (some g) → wpList P ops Q rest (a.put o.dst undef) w') :
    wpList P ops Q (o :: rest) a w := by
  refine wpList_plain hg fun K' hK' => ?_
  unfold Oper.wp execOp
  simp only [ho, hx, hy, Instr.storeAt, Instr.sureAddr, Sem.run_bind, Sem.run_pure, Result.andThen_ok, jQ g i cur T ty v hb hi hs h1 hc]
  refine hK' _ _ (hK _ (Go.heap_setCell_same w g i cur T v hb) ⟨rfl, rfl, rfl, by simp, fun k _ hk => ?_⟩)
  exact Below.heap_setCell w ⟨g, i, none⟩ v _ (fun e => hk (congrArg some e))
end
end Go.Proofs.YtajpoodpbbbkfaaGreatDoor
namespace Go.Proofs.YtajpoodpbbbkfaaGreatDoor
open Go.RowKit Go.Lib
theorem LQ (s:ByteArray) (a:Int):bf s a ⟨#[60,33,100,111,99,116,121,112,101]⟩=dV s.data.toList a:=by
 by_cases h:0≤a∧a≤(s.size:Int)
 ·unfold bf dV
  rw [decide_eq_true h,decide_eq_true h.1]
  rfl
 ·rw [oy _ _ (fun e=>h ⟨e.1,by rw [Lib.size_eq];omega⟩)]
  unfold bf
  rw [decide_eq_false h,Bool.false_and]
theorem gW (s:ByteArray) (a:Int) (w:World) (hs:s.size≤1048576) (ha: -9223372036854775808≤a∧a≤9223372036854775807):Calls Tryz.prog 125 #[.string s,.int .i64 a] w fun e w'=>e= .returned (.bool (dV s.data.toList a))∧Below w.heap.size w w':=by
 have HB:=fun w=>Lib.hid (gh s a ⟨#[60,33,100,111,99,116,121,112,101]⟩ w (by omega) (by decide) ha.1 ha.2)
 rw [LQ] at HB
 obtain ⟨B,hB⟩:∃B,dV s.data.toList a=B:=⟨_,rfl⟩
 rw [hB] at HB⊢
 clear hB
 go_enter Tryz.func125,Tryz.ntmps125
 go_wp2_with (fail)
 refine (HB _).out.mono ?_
 rintro e w1 ⟨rfl,b1⟩
 go_wp2
 go_ret
 exact ⟨rfl,b1⟩
theorem uo (s : ByteArray) (a : Int) (w : World) (hs : s.size ≤ 1048576) (ha : -9223372036854775808 ≤ a ∧ a ≤ 9223372036854775807) :
    Calls Tryz.prog 126 #[.string s, .int .i64 a] w (mV (q8 s.data.toList a) w) := by
  have HBg := fun w => Lib.hid (gW s a w hs ha)
  cases hb : dV s.data.toList a
  · rw [hb] at HBg
    have HV := Lib.hid (IL s.data.toList a hb)
    clear hb ha
    go_enter Tryz.func126, Tryz.ntmps126
    go_wp2_with (fail)
    refine (HBg _).out.mono ?_
    rintro e w1 ⟨rfl, b1⟩
    have HB := Lib.hid ((b1.block _ (by simp)).trans (heap_alloc_new w _))
    have B1 := Lib.hid (((Below.refl _ w).alloc (Nat.le_refl _) _).trans (b1.mono (by simp)))
    clear b1
    go_wp2_with (refine ak rfl _ _ rfl w.heap.size aJ none 0 0 rfl rfl _ HB.out rfl ?_; intro w2 hb2 hg2)
    have B2 := B1.out.grown hg2 B1.out.size (fun j hj => by cases hj; exact Nat.le_refl _)
    refine bodyPost_ret (aw rfl _ _ w.heap.size aJ none 0 0 rfl (aN hb2)) rfl ?_
    exact ⟨aJ, none, 0, 0, _, false, rfl, av _, HV.out, B2⟩
  have hin : 0 ≤ a ∧ a + 9 ≤ (s.size : Int) := by
    by_cases h : 0 ≤ a ∧ a + 9 ≤ (s.size : Int)
    · exact h
    · rw [oy _ _ (by rw [← Lib.size_eq]; exact h)] at hb; cases hb
  obtain ⟨k, rfl⟩ : ∃ k : Nat, a = k := ⟨a.toNat, by omega⟩
  rw [hb] at HBg
  rw [rA] at hb
  have hk9 : k + 9 ≤ s.size := by omega
  have hv := BN s.data.toList k hb
  rw [← Fj (· != 62) s (k + 9), ← Lib.size_eq] at hv
  have hle := LK (· != 62) s (k + 9) hk9
  obtain ⟨E, hE⟩ : ∃ E, cw (· != 62) s.data.toList (k + 9) = E := ⟨_, rfl⟩
  rw [hE] at hv hle
  have HE := Lib.hid hE
  have HV := Lib.hid hv
  have hk : k ≤ 1048576 := by omega
  clear hb hv hE ha hin
  go_enter Tryz.func126, Tryz.ntmps126
  go_wp2_with (fail)
  refine (HBg _).out.mono ?_
  rintro e w1 ⟨rfl, bb1⟩
  have HB := Lib.hid ((bb1.block _ (by simp)).trans (heap_alloc_new w _))
  have B1 := Lib.hid (((Below.refl _ w).alloc (Nat.le_refl _) _).trans (bb1.mono (by simp)))
  have hlt1 : w.heap.size < w1.heap.size := (Array.getElem?_eq_some_iff.1 HB.out).1
  clear bb1
  go_wp2
  go_loopw [8] (fun v wr => ∃ i : Nat, v = .int .i64 (i : Int) ∧ w1 = wr ∧ i ≤ s.size ∧ k + 9 ≤ i ∧ Hid (cw (· != 62) s.data.toList i = E)) (fun v _ => s.size - (ae v).toNat)
  case atStart => exact ⟨k + 9, by go_num, rfl, hk9, Nat.le_refl _, HE⟩
  case round =>
    obtain ⟨i, rfl, rfl, hi, hKi, HI⟩ := hrel
    have hi9 : (k : Int) + 9 ≤ (i : Int) := by omega
    by_cases hlt : i < s.size
    focus
      by_cases c62 : s[i] = 62
    focus
      have b62 : (((s[i].toNat : Nat) : Int) == 62) = true := by rw [c62]; rfl
      have HEi := Lib.hid ((LJ (· != 62) s i hlt (by rw [c62]; rfl)).symm.trans HI.out)
      have HV2 : Hid (q8 s.data.toList (k : Int) = (ui (s.extract (k + 9) i).data.toList, (i : Int) + 1, true)) := Lib.hid (by
        rw [HV.out, ← HEi.out, if_pos hlt, Int.natCast_add]; rfl)
      have HC := fun w => Lib.hid (bc (s.extract (k + 9) i) w (by rw [ByteArray.size_extract]; omega))
      have ht : ui (s.extract (k + 9) i).data.toList = ⟨4, [], ap (s.extract (k + 9) i).data.toList, [], false⟩ := rfl
      obtain ⟨X, hX⟩ : ∃ X, ap (s.extract (k + 9) i).data.toList = X := ⟨_, rfl⟩
      rw [hX] at HC ht
      rw [ht] at HV2
      clear c62 ht hX
    rotate_left
    · have b62 : (((s[i].toNat : Nat) : Int) == 62) = false := by
        rw [beq_eq_false_iff_ne]; exact fun h => c62 (aT _ 62 (by decide) h)
      have HN := Lib.hid ((IH (· != 62) s i hlt (by simpa using c62)).symm.trans HI.out)
      clear c62
      go_wp2
      go_roundw
      case rel => exact ⟨i + 1, by go_num, trivial, by omega, by omega, HN⟩
      case measure => simp [ae]; omega
    focus
      obtain rfl : i = s.size := by omega
      have HEi := Lib.hid ((II (· != 62) s _ (Nat.le_refl _)).symm.trans HI.out)
      have HV2 : Hid (q8 s.data.toList (k : Int) = (ui (s.extract (k + 9) s.size).data.toList, (s.size : Int), true)) := Lib.hid (by
        rw [HV.out, ← HEi.out, if_neg (by omega)])
      have HC := fun w => Lib.hid (bc (s.extract (k + 9) s.size) w (by rw [ByteArray.size_extract]; omega))
      have ht : ui (s.extract (k + 9) s.size).data.toList = ⟨4, [], ap (s.extract (k + 9) s.size).data.toList, [], false⟩ := rfl
      obtain ⟨X, hX⟩ : ∃ X, ap (s.extract (k + 9) s.size).data.toList = X := ⟨_, rfl⟩
      rw [hX] at HC ht
      rw [ht] at HV2
      clear ht hX
    rotate_left
    all_goals
      go_wp2_with (fail)
      refine (HC _).out.mono ?_
      rintro e w4 ⟨rfl, b4⟩
      have HB4 := Lib.hid ((b4.block _ hlt1).trans HB.out)
      have B4 := Lib.hid (B1.out.trans (b4.mono B1.out.size))
      clear b4
      go_wp2_with (refine ak rfl _ _ rfl w.heap.size ⟨4, [], X, [], false⟩ none 0 0 rfl rfl _ HB4.out rfl ?_; intro w5 hb5 hg5)
      have B5 := B4.out.grown hg5 B4.out.size (fun j hj => by cases hj; exact Nat.le_refl _)
      refine bodyPost_ret (aw rfl _ _ w.heap.size ⟨4, [], X, [], false⟩ none 0 0 rfl (aN hb5)) rfl ?_
      exact ⟨⟨4, [], X, [], false⟩, none, 0, 0, _, true, rfl, av _, HV2.out, B5⟩
end Go.Proofs.YtajpoodpbbbkfaaGreatDoor
namespace Go.Proofs.YtajpoodpbbbkfaaGreatDoor
open Go.RowKit Go.Lib
theorem rb (s:ByteArray) (a:Int) (w:World) (hs:s.size≤1048576) (ha: -9223372036854775808≤a∧a≤9223372036854775807):Calls Tryz.prog 198 #[.string s,.int .i64 a] w fun e w'=>e= .returned (.bool (OR s.data.toList a))∧Below w.heap.size w w':=by
 have H1:=fun w=>Lib.hid (lA s a w hs ha)
 have H2:=fun w=>Lib.hid (gV s a w hs ha)
 have H3:=fun w=>Lib.hid (gW s a w hs ha)
 have H4:=fun w=>Lib.hid (gh s a ⟨#[60,47,62]⟩ w (by omega) (by decide) ha.1 ha.2)
 rw [xm] at H4
 rw [DQ]
 obtain ⟨b1,hb1⟩:∃b,gJ s.data.toList a=b:=⟨_,rfl⟩
 obtain ⟨b2,hb2⟩:∃b,ee s.data.toList a=b:=⟨_,rfl⟩
 obtain ⟨b3,hb3⟩:∃b,dV s.data.toList a=b:=⟨_,rfl⟩
 obtain ⟨b4,hb4⟩:∃b,jM s.data.toList a=b:=⟨_,rfl⟩
 rw [hb1] at H1⊢
 rw [hb2] at H2⊢
 rw [hb3] at H3⊢
 rw [hb4] at H4⊢
 clear hb1 hb2 hb3 hb4 ha
 cases b1
 ·cases b2
  ·cases b3
   ·go_enter Tryz.func198,Tryz.ntmps198
    go_wp2_with (fail)
    refine (H1 _).out.mono ?_
    rintro e w1 ⟨rfl,rfl⟩
    go_wp2_with (fail)
    refine (H2 _).out.mono ?_
    rintro e w2 ⟨rfl,c2⟩
    go_wp2_with (fail)
    refine (H3 _).out.mono ?_
    rintro e w3 ⟨rfl,c3⟩
    go_wp2_with (fail)
    refine (H4 _).out.mono ?_
    rintro e w4 ⟨rfl,c4⟩
    go_wp2
    go_ret
    exact ⟨au (by simp),(c2.trans (c3.mono c2.size)).trans (c4.mono (Nat.le_trans c2.size c3.size))⟩
   ·go_enter Tryz.func198,Tryz.ntmps198
    go_wp2_with (fail)
    refine (H1 _).out.mono ?_
    rintro e w1 ⟨rfl,rfl⟩
    go_wp2_with (fail)
    refine (H2 _).out.mono ?_
    rintro e w2 ⟨rfl,c2⟩
    go_wp2_with (fail)
    refine (H3 _).out.mono ?_
    rintro e w3 ⟨rfl,c3⟩
    go_wp2
    go_ret
    exact ⟨au (by simp),c2.trans (c3.mono c2.size)⟩
  ·go_enter Tryz.func198,Tryz.ntmps198
   go_wp2_with (fail)
   refine (H1 _).out.mono ?_
   rintro e w1 ⟨rfl,rfl⟩
   go_wp2_with (fail)
   refine (H2 _).out.mono ?_
   rintro e w2 ⟨rfl,c2⟩
   go_wp2
   go_ret
   exact ⟨au (by simp),c2⟩
 ·go_enter Tryz.func198,Tryz.ntmps198
  go_wp2_with (fail)
  refine (H1 _).out.mono ?_
  rintro e w1 ⟨rfl,rfl⟩
  go_wp2
  go_ret
  exact ⟨au (by simp),Below.refl _ _⟩
end Go.Proofs.YtajpoodpbbbkfaaGreatDoor
namespace Go.Proofs.YtajpoodpbbbkfaaGreatDoor
open Go.RowKit Go.Lib
theorem IZ (s:ByteArray) (k:Nat) (h:k<s.size) (hm:q9 (s.data.toList.drop k)=false):bz s.data.toList ((k+1:Nat):Int)=bz s.data.toList (k:Int):=by
 rw [mp s k (by omega),mp s (k+1) (by omega),vy s k h hm]
theorem BY (s:ByteArray) (k:Nat) (h:k<s.size) (hm:q9 (s.data.toList.drop k)=true):bz s.data.toList (k:Int)=k:=by
 rw [mp s k (by omega),vz s k hm]
theorem uq (s:ByteArray) (a:Int) (w:World) (hs:s.size≤1048576) (ha: -9223372036854775808≤a∧a≤9223372036854775807):Calls Tryz.prog 169 #[.string s,.int .i64 a] w fun e w'=>e= .returned (.int .i64 (bz s.data.toList a:Int))∧Below w.heap.size w w':=by
 have HB:=fun (i:Nat) (h:i<s.size) w=>Lib.hid (rb s (i:Int) w hs (by omega))
 simp only [Nr] at HB
 obtain ⟨R,hR⟩:∃R,bz s.data.toList a=R:=⟨_,rfl⟩
 rw [hR]
 obtain ⟨v0,hv0⟩:∃v,max (0:Int) a=v:=⟨_,rfl⟩
 have h00:0≤v0:=by omega
 have h01:v0≤9223372036854775807:=by omega
 have HS0:Hid (bz s.data.toList v0=R):=Lib.hid (by
  by_cases h:a<0
  ·rw [show v0=0 by omega,←IM _ a (by omega),hR]
  ·rw [show v0=a by omega,hR])
 have hmx:max (0:Int) a=v0:=hv0
 clear hR hv0
 go_enter Tryz.func169,Tryz.ntmps169
 go_wp2
 go_loopw [5] (fun v wr=>∃i:Int,v= .int .i64 i∧0≤i∧i≤9223372036854775807∧Below w.heap.size w wr∧Hid (bz s.data.toList i=R)) (fun v _=>s.size-(ae v).toNat)
 case atStart=>exact ⟨v0,by first|rfl|(rw [hmx])|(simp [hmx])|(simp only [←hmx];congr 1;omega),h00,h01,Below.refl _ _,HS0⟩
 case round=>
  obtain ⟨v,rfl,hv0,hv1,hb,HI⟩:=hrel
  clear hmx
  by_cases hlt:v<(s.size:Int)
  ·obtain ⟨k,rfl⟩:∃k:Nat,v=k:=⟨v.toNat,by omega⟩
   have hk:k<s.size:=by omega
   have HC:=fun w=>HB k hk w
   have hkk:k≤1048576:=by omega
   have HBW:=Lib.hid hb
   clear hb
   cases hbb:q9 (s.data.toList.drop k)
   ·have HN:=Lib.hid ((IZ s k hk hbb).trans HI.out)
    rw [hbb] at HC
    clear hbb HB
    go_wp2_with (fail)
    refine (HC _).out.mono ?_
    rintro e w2 ⟨rfl,c2⟩
    go_wp2
    go_roundw
    case rel=>exact ⟨((k+1:Nat):Int),by go_num,by omega,by omega,HBW.out.trans (c2.mono HBW.out.size),HN⟩
    case measure=>simp [ae];omega
   ·have HN:=Lib.hid ((BY s k hk hbb).symm.trans HI.out)
    rw [hbb] at HC
    clear hbb HB
    go_wp2_with (fail)
    refine (HC _).out.mono ?_
    rintro e w2 ⟨rfl,c2⟩
    go_wp2
    go_ret
    exact ⟨az (by rw [HN.out]),HBW.out.trans (c2.mono HBW.out.size)⟩
  ·have HN:Hid (R=s.size):=Lib.hid (by rw [←HI.out,zC _ _ (by rw [←Lib.size_eq];omega),←Lib.size_eq])
   go_wp2
   go_ret
   exact ⟨az (by rw [HN.out]),hb⟩
theorem BZ (s:ab) (a:Int):bz s ((jv s a:Nat):Int)=bz s a:=by
 have h:=gS s a
 unfold bz
 rw [gT _ _ h]
theorem us (s:ByteArray) (a:Int) (w:World) (hs:s.size≤1048576) (ha: -9223372036854775808≤a∧a≤9223372036854775807):Calls Tryz.prog 128 #[.string s,.int .i64 a] w fun e w'=>e= .returned (.tuple #[.string ⟨(uj s.data.toList a).toArray⟩,.int .i64 (bz s.data.toList a:Int)])∧Below w.heap.size w w':=by
 obtain ⟨k,hk⟩:∃k,jv s.data.toList a=k:=⟨_,rfl⟩
 have hks:k≤s.size:=by rw [←hk,Lib.size_eq];exact gS _ _
 have hkk:k≤1048576:=by omega
 have hmx:max (0:Int) (min a (s.size:Int))=(k:Int):=by
  rw [←hk,Lib.size_eq];unfold jv;omega
 have HN:=fun w=>Lib.hid (uq s (k:Int) w hs (by omega))
 have hcl:=BZ s.data.toList a
 rw [hk] at hcl
 rw [hcl] at HN
 have hv:uj s.data.toList a=dQ false (s.extract k (bz s.data.toList a)).data.toList:=by
  unfold uj
  rw [hk,Lib.extract_data,show bz s.data.toList a-k=bJ (s.data.toList.drop k) by unfold bz;rw [hk];omega]
 have htop:=oA s.data.toList a
 rw [hk,←Lib.size_eq] at htop
 rw [hv]
 obtain ⟨N,hN⟩:∃N,bz s.data.toList a=N:=⟨_,rfl⟩
 rw [hN] at HN htop⊢
 obtain ⟨ht1,ht2⟩:=htop
 have HD:=fun w=>Lib.hid (jq (s.extract k N) false w (by rw [ByteArray.size_extract];omega))
 obtain ⟨T,hT⟩:∃T:ByteArray,(⟨(dQ false (s.extract k N).data.toList).toArray⟩:ByteArray)=T:=⟨_,rfl⟩
 rw [hT] at HD⊢
 have hN2:N≤1048576:=by omega
 clear hk hcl hv hN hT ha
 go_enter Tryz.func128,Tryz.ntmps128
 go_wp2_with (fail)
 refine (HN _).out.mono ?_
 rintro e w1 ⟨rfl,c1⟩
 go_wp2_with (fail)
 refine (HD _).out.mono ?_
 rintro e w2 ⟨rfl,c2⟩
 go_wp2
 go_ret2
 exact ⟨rfl,c1.trans (c2.mono c1.size)⟩
end Go.Proofs.YtajpoodpbbbkfaaGreatDoor
namespace Go.Proofs.YtajpoodpbbbkfaaGreatDoor
open Go.RowKit Go.Lib
theorem LS (s:ByteArray) (k:Nat) (nm:ByteArray) (h:k≤s.size):bf s (k:Int) (⟨#[60,47]⟩++nm)=(60::47::nm.data.toList).isPrefixOf (aF (s.data.toList.drop k)):=by
 unfold bf
 rw [decide_eq_true (show 0≤(k:Int)∧(k:Int)≤(s.size:Int) by omega),Bool.true_and,show ((k:Nat):Int).toNat=k by omega,ByteArray.data_append,Array.toList_append]
 rfl
theorem m7 (s:ByteArray) (a:Int) (nm:ByteArray) (w:World) (hs:s.size≤1048576) (hn:nm.size≤1048576) (ha: -9223372036854775808≤a∧a≤9223372036854775807):Calls Tryz.prog 171 #[.string s,.int .i64 a,.string nm] w fun e w'=>e= .returned (.bool (oB nm.data.toList s.data.toList a))∧Below w.heap.size w w':=by
 by_cases h0:nm.size=0
 ·have hv:oB nm.data.toList s.data.toList a=false:=by
   have:nm.data.toList=[]:=List.length_eq_zero_iff.1 (by rw [←Lib.size_eq];exact h0)
   unfold oB cb;rw [this];simp
  rw [hv]
  have b0:((nm.size:Int)==0)=true:=by rw [h0];rfl
  have H0:=Lib.hid h0
  clear hv h0
  go_enter Tryz.func171,Tryz.ntmps171
  go_wp2
  go_ret
  exact ⟨rfl,Below.refl _ _⟩
 have b0:((nm.size:Int)==0)=false:=by rw [beq_eq_false_iff_ne];omega
 by_cases hin:0≤a∧a<(s.size:Int)
 ·obtain ⟨k,rfl⟩:∃k:Nat,a=k:=⟨a.toNat,by omega⟩
  have hk:k<s.size:=by omega
  have d0:decide ((k:Int)<0)=false:=decide_eq_false (by omega)
  have d1:decide ((s.size:Int)≤(k:Int))=false:=decide_eq_false (by omega)
  have g1:¬9223372036854775807<(⟨#[60,47]⟩:ByteArray).size+nm.size:=by
   rw [show (⟨#[60,47]⟩:ByteArray).size=2 from rfl];omega
  have HB:=fun w=>Lib.hid (gh s (k:Int) (⟨#[60,47]⟩++nm) w (by omega) (by rw [ByteArray.size_append,show (⟨#[60,47]⟩:ByteArray).size=2 from rfl];omega) (by omega) (by omega))
  rw [LS s k nm (by omega)] at HB
  have hv:oB nm.data.toList s.data.toList (k:Int)=((60::47::nm.data.toList).isPrefixOf (aF (s.data.toList.drop k))&&(s.data.toList.drop (k+2+nm.size)).head?.any eX):=by
   rw [kE]
   unfold cb
   rw [show nm.data.toList.isEmpty=false by
    cases hh:nm.data.toList with
    |nil=>exact (h0 (by rw [Lib.size_eq,hh];rfl)).elim
    |cons=>rfl,List.drop_drop,←Lib.size_eq,show k+(2+nm.size)=k+2+nm.size by omega]
   rfl
  rw [hv]
  have hp:(60::47::nm.data.toList).isPrefixOf (aF (s.data.toList.drop k))=true→k+2+nm.size≤s.size:=fun h=>by
   have:=(List.isPrefixOf_iff_prefix.1 h).length_le
   rw [ej,List.length_drop,List.length_cons,List.length_cons,←Lib.size_eq,←Lib.size_eq] at this;omega
  obtain ⟨B,hB⟩:∃B,(60::47::nm.data.toList).isPrefixOf (aF (s.data.toList.drop k))=B:=⟨_,rfl⟩
  rw [hB] at HB hp⊢
  clear hB hv ha hin h0
  cases B
  ·rw [Bool.false_and]
   clear hp
   go_enter Tryz.func171,Tryz.ntmps171
   go_wp2_with (fail)
   refine (HB _).out.mono ?_
   rintro e w1 ⟨rfl,b1⟩
   go_wp2
   go_ret
   exact ⟨rfl,b1⟩
  ·rw [Bool.true_and]
   have hle:=hp rfl
   clear hp
   obtain ⟨j,hj⟩:∃j,k+2+nm.size=j:=⟨_,rfl⟩
   rw [hj] at hle⊢
   have hjj:(k:Int)+2+(nm.size:Int)=(j:Int):=by omega
   have hk20:k≤1048576:=by omega
   have hj2:j≤1048576:=by omega
   clear hj
   by_cases hlt:j<s.size
   ·have dj:decide ((s.size:Int)≤(j:Int))=false:=decide_eq_false (by omega)
    rw [aj s j hlt]
    simp only [List.head?_cons,Option.any_some]
    rw [mq]
    have HS:=fun w=>Lib.hid (nT ((s[j].toNat:Nat):Int) w)
    obtain ⟨S,hS⟩:∃S,cG ((s[j].toNat:Nat):Int)=S:=⟨_,rfl⟩
    obtain ⟨T,hT⟩:∃S,(((s[j].toNat:Nat):Int)==47)=S:=⟨_,rfl⟩
    obtain ⟨U,hU⟩:∃S,(((s[j].toNat:Nat):Int)==62)=S:=⟨_,rfl⟩
    rw [hS] at HS
    rw [hS,hT,hU]
    clear hS
    cases S
    ·cases T
     ·cases U
      all_goals
       go_enter Tryz.func171,Tryz.ntmps171
       go_wp2_with (fail)
       refine (HB _).out.mono ?_
       rintro e w1 ⟨rfl,b1⟩
       go_wp2_with (fail)
       refine (HS _).out.mono ?_
       rintro e w2 ⟨rfl,rfl⟩
       go_wp2
       go_ret
       exact ⟨rfl,b1⟩
     ·go_enter Tryz.func171,Tryz.ntmps171
      go_wp2_with (fail)
      refine (HB _).out.mono ?_
      rintro e w1 ⟨rfl,b1⟩
      go_wp2_with (fail)
      refine (HS _).out.mono ?_
      rintro e w2 ⟨rfl,rfl⟩
      go_wp2
      go_ret
      exact ⟨rfl,b1⟩
    ·go_enter Tryz.func171,Tryz.ntmps171
     go_wp2_with (fail)
     refine (HB _).out.mono ?_
     rintro e w1 ⟨rfl,b1⟩
     go_wp2_with (fail)
     refine (HS _).out.mono ?_
     rintro e w2 ⟨rfl,rfl⟩
     go_wp2
     go_ret
     exact ⟨rfl,b1⟩
   ·have dj:decide ((s.size:Int)≤(j:Int))=true:=decide_eq_true (by omega)
    rw [List.drop_eq_nil_of_le (by rw [←Lib.size_eq];omega)]
    have hje:s.size≤j:=by omega
    clear hlt hle
    go_enter Tryz.func171,Tryz.ntmps171
    go_wp2_with (fail)
    refine (HB _).out.mono ?_
    rintro e w1 ⟨rfl,b1⟩
    go_wp2
    go_ret
    exact ⟨rfl,b1⟩
 ·have hv:oB nm.data.toList s.data.toList a=false:=zE _ _ _ (by rw [←Lib.size_eq];omega)
  rw [hv]
  clear hv
  by_cases hn0:a<0
  ·clear hin
   go_enter Tryz.func171,Tryz.ntmps171
   go_wp2
   go_ret
   exact ⟨rfl,Below.refl _ _⟩
  ·have d0:decide (a<0)=false:=decide_eq_false hn0
   have d1:decide ((s.size:Int)≤a)=true:=decide_eq_true (by omega)
   clear hin hn0
   go_enter Tryz.func171,Tryz.ntmps171
   go_wp2
   go_ret
   exact ⟨rfl,Below.refl _ _⟩
theorem na (s:ByteArray) (a:Int) (nm:ByteArray) (w:World) (hs:s.size≤1048576) (hn:nm.size≤1048576) (ha: -9223372036854775808≤a∧a≤9223372036854775807):Calls Tryz.prog 129 #[.string s,.int .i64 a,.string nm] w fun e w'=>e= .returned (.int .i64 (eZ nm.data.toList s.data.toList a:Int))∧Below w.heap.size w w':=by
 have HE:=fun (i:Nat) (h:i<s.size) w=>Lib.hid (m7 s (i:Int) nm w hs hn (by omega))
 obtain ⟨R,hR⟩:∃R,eZ nm.data.toList s.data.toList a=R:=⟨_,rfl⟩
 rw [hR]
 obtain ⟨v0,hv0⟩:∃v,max (0:Int) a=v:=⟨_,rfl⟩
 have h00:0≤v0:=by omega
 have h01:v0≤9223372036854775807:=by omega
 have HS0:Hid (eZ nm.data.toList s.data.toList v0=R):=Lib.hid (by
  by_cases h:a<0
  ·rw [show v0=0 by omega,←Fl _ _ a h,hR]
  ·rw [show v0=a by omega,hR])
 have HM:=Lib.hid hv0
 clear hR hv0
 have hrun:∀(K:Nat),(K:Int)=v0∨(s.size<K∧v0=K)→True:=fun _ _=>trivial
 clear hrun
 have hmx:max (0:Int) a=v0:=HM.out
 go_enter Tryz.func129,Tryz.ntmps129
 go_wp2
 go_loopw [7] (fun v wr=>∃i:Int,v= .int .i64 i∧0≤i∧i≤9223372036854775807∧Below w.heap.size w wr∧Hid (eZ nm.data.toList s.data.toList i=R)) (fun v _=>s.size-(ae v).toNat)
 case atStart=>exact ⟨v0,by first|rfl|(rw [hmx])|(simp [hmx])|(simp only [←hmx];congr 1;omega),h00,h01,Below.refl _ _,HS0⟩
 case round=>
  obtain ⟨v,rfl,hv0,hv1,hb,HI⟩:=hrel
  clear hmx
  by_cases hlt:v<(s.size:Int)
  ·obtain ⟨k,rfl⟩:∃k:Nat,v=k:=⟨v.toNat,by omega⟩
   have hk:k<s.size:=by omega
   have HC:=fun w=>HE k hk w
   have hkk:k≤1048576:=by omega
   have HBW:=Lib.hid hb
   clear hb
   rw [kE] at HC
   cases hbb:cb nm.data.toList (s.data.toList.drop k)
   ·have HN:=Lib.hid ((BP nm.data.toList s.data.toList k (by rw [←Lib.size_eq];exact hk) hbb).symm.trans HI.out)
    rw [hbb] at HC
    clear hbb HE
    go_wp2_with (fail)
    refine (HC _).out.mono ?_
    rintro e w2 ⟨rfl,c2⟩
    go_wp2
    go_roundw
    case rel=>exact ⟨((k+1:Nat):Int),by go_num,by omega,by omega,HBW.out.trans (c2.mono HBW.out.size),HN⟩
    case measure=>simp [ae];omega
   ·have HN:=Lib.hid ((Fo nm.data.toList s.data.toList k (by rw [←Lib.size_eq];exact hk) hbb).symm.trans HI.out)
    rw [hbb] at HC
    clear hbb HE
    go_wp2_with (fail)
    refine (HC _).out.mono ?_
    rintro e w2 ⟨rfl,c2⟩
    go_wp2
    go_ret
    exact ⟨az (by rw [HN.out]),HBW.out.trans (c2.mono HBW.out.size)⟩
  ·have HN:Hid (R=s.size):=Lib.hid (by rw [←HI.out,BO _ _ _ (by rw [←Lib.size_eq];omega),←Lib.size_eq])
   go_wp2
   go_ret
   exact ⟨az (by rw [HN.out]),hb⟩
end Go.Proofs.YtajpoodpbbbkfaaGreatDoor
namespace Go.Proofs.YtajpoodpbbbkfaaGreatDoor
open Go.RowKit Go.Lib
theorem ut (s:ByteArray) (refs:Bool) (w:World) (hs:s.size≤1048576):Calls Tryz.prog 130 #[.string s,.bool refs] w fun e w'=>e= .returned (.string ⟨(kF refs s.data.toList).toArray⟩)∧Below w.heap.size w w':=by
 unfold kF
 cases refs
 ·rw [if_neg Bool.false_ne_true]
  have HC:=fun w=>Lib.hid (bc s w (by omega))
  go_enter Tryz.func130,Tryz.ntmps130
  go_wp2_with (fail)
  refine (HC _).out.mono ?_
  rintro e w1 ⟨rfl,b1⟩
  go_wp2
  go_ret
  exact ⟨rfl,b1⟩
 ·rw [if_pos rfl]
  have HD:=fun w=>Lib.hid (jq s false w (by omega))
  have hl:=lx false s.data.toList.length s.data.toList (Nat.le_refl _)
  rw [←Lib.size_eq] at hl
  have HC:=fun w=>Lib.hid (bc ⟨(dQ false s.data.toList).toArray⟩ w (by rw [Lib.size_eq,List.toList_toArray];omega))
  obtain ⟨X,hX⟩:∃X:ByteArray,(⟨(dQ false s.data.toList).toArray⟩:ByteArray)=X:=⟨_,rfl⟩
  obtain ⟨Y,hY⟩:∃X:ByteArray,(⟨(ap (dQ false s.data.toList)).toArray⟩:ByteArray)=X:=⟨_,rfl⟩
  have hXl:X.data.toList=dQ false s.data.toList:=by rw [←hX,List.toList_toArray]
  rw [hX] at HC HD
  rw [hXl,hY] at HC
  rw [hY]
  clear hX hXl hY hl
  go_enter Tryz.func130,Tryz.ntmps130
  go_wp2_with (fail)
  refine (HD _).out.mono ?_
  rintro e w1 hd
  obtain ⟨rfl,b1⟩:=hd
  go_wp2_with (fail)
  refine (HC _).out.mono ?_
  rintro e w2 ⟨rfl,b2⟩
  go_wp2
  go_ret
  exact ⟨rfl,by first|exact b1.trans (b2.mono b1.size)|(obtain ⟨n,rfl⟩:=b1;exact (ai _ _ n).trans b2)⟩
end Go.Proofs.YtajpoodpbbbkfaaGreatDoor
namespace Go.Proofs.YtajpoodpbbbkfaaGreatDoor
open Go.RowKit Go.Lib
theorem mw (s:ByteArray) (k:Nat) (low:ByteArray) (h:k≤s.size):bf s (k:Int) low=low.data.toList.isPrefixOf (aF (s.data.toList.drop k)):=by
 unfold bf
 rw [decide_eq_true (show 0≤(k:Int)∧(k:Int)≤(s.size:Int) by omega),Bool.true_and,show ((k:Nat):Int).toNat=k by omega]
theorem I0 (s:ByteArray) (k:Nat) (op:ByteArray) (h:k≤s.size):bf s (k:Int) (op++⟨#[115,99,114,105,112,116]⟩)=(op.data.toList++nz).isPrefixOf (aF (s.data.toList.drop k)):=by
 rw [mw s k _ h,ByteArray.data_append,Array.toList_append]
 rfl
theorem nb (s:ByteArray) (k:Nat) (op:ByteArray) (w:World) (hs:s.size≤1048576) (hk:k<s.size) (ho:op.size≤2):Calls Tryz.prog 172 #[.string s,.int .i64 (k:Int),.string op] w fun e w'=>e= .returned (.bool (ef op.data.toList (s.data.toList.drop k)))∧Below w.heap.size w w':=by
 have g1:¬9223372036854775807<op.size+(⟨#[115,99,114,105,112,116]⟩:ByteArray).size:=by
  rw [show (⟨#[115,99,114,105,112,116]⟩:ByteArray).size=6 from rfl];omega
 have HB:=fun w=>Lib.hid (gh s (k:Int) (op++⟨#[115,99,114,105,112,116]⟩) w (by omega) (by rw [ByteArray.size_append,show (⟨#[115,99,114,105,112,116]⟩:ByteArray).size=6 from rfl];omega) (by omega) (by omega))
 rw [I0 s k op (by omega)] at HB
 have hv:ef op.data.toList (s.data.toList.drop k)=((op.data.toList++nz).isPrefixOf (aF (s.data.toList.drop k))&&(s.data.toList.drop (k+op.size+6)).head?.any eX):=by
  unfold ef
  rw [List.drop_drop,←Lib.size_eq,show k+(op.size+6)=k+op.size+6 by omega]
 rw [hv]
 obtain ⟨B,hB⟩:∃B,(op.data.toList++nz).isPrefixOf (aF (s.data.toList.drop k))=B:=⟨_,rfl⟩
 rw [hB] at HB⊢
 clear hB hv
 cases B
 ·rw [Bool.false_and]
  go_enter Tryz.func172,Tryz.ntmps172
  go_wp2_with (fail)
  refine (HB _).out.mono ?_
  rintro e w1 ⟨rfl,b1⟩
  go_wp2
  go_ret
  exact ⟨rfl,b1⟩
 ·rw [Bool.true_and]
  obtain ⟨j,hj⟩:∃j,k+op.size+6=j:=⟨_,rfl⟩
  rw [hj]
  have hjj:(k:Int)+(op.size:Int)+6=(j:Int):=by omega
  have hk20:k≤1048576:=by omega
  have hj2:j≤1048584:=by omega
  clear hj
  by_cases hlt:j<s.size
  ·have dj:decide ((s.size:Int)≤(j:Int))=false:=decide_eq_false (by omega)
   rw [aj s j hlt]
   simp only [List.head?_cons,Option.any_some]
   rw [mq]
   have HS:=fun w=>Lib.hid (nT ((s[j].toNat:Nat):Int) w)
   obtain ⟨S,hS⟩:∃S,cG ((s[j].toNat:Nat):Int)=S:=⟨_,rfl⟩
   obtain ⟨T,hT⟩:∃S,(((s[j].toNat:Nat):Int)==47)=S:=⟨_,rfl⟩
   obtain ⟨U,hU⟩:∃S,(((s[j].toNat:Nat):Int)==62)=S:=⟨_,rfl⟩
   rw [hS] at HS
   rw [hS,hT,hU]
   clear hS
   rcases S with _|_<;>rcases T with _|_<;>rcases U with _|_
   all_goals
    go_enter Tryz.func172,Tryz.ntmps172
    go_wp2_with (fail)
    refine (HB _).out.mono ?_
    rintro e w1 ⟨rfl,b1⟩
    go_wp2_with (fail)
    refine (HS _).out.mono ?_
    rintro e w2 ⟨rfl,rfl⟩
    go_wp2
    go_ret
    exact ⟨rfl,b1⟩
  ·have dj:decide ((s.size:Int)≤(j:Int))=true:=decide_eq_true (by omega)
   rw [List.drop_eq_nil_of_le (by rw [←Lib.size_eq];omega)]
   have hje:s.size≤j:=by omega
   clear hlt
   go_enter Tryz.func172,Tryz.ntmps172
   go_wp2_with (fail)
   refine (HB _).out.mono ?_
   rintro e w1 ⟨rfl,b1⟩
   go_wp2
   go_ret
   exact ⟨rfl,b1⟩
theorem I1 (k:Nat) (l:ab) (h:cb nz l=true):bO 0 k l=none:=by unfold bO;rw [if_pos rfl,if_pos h]
theorem Nv (k:Nat) (l:ab) (h:cb nz l=false) (c:zG.isPrefixOf (aF l)=true):bO 0 k l=some (4,1,2):=by
 unfold bO;rw [if_pos rfl,if_neg (by rw [h];simp),if_pos c]
theorem Nw (k:Nat) (l:ab) (h:cb nz l=false) (c:zG.isPrefixOf (aF l)=false):bO 0 k l=some (1,0,0):=by
 unfold bO;rw [if_pos rfl,if_neg (by rw [h];simp),if_neg (by rw [c];simp)]
theorem I2 (st k:Nat) (l:ab) (h0:st≠0) (h:l.head?=some 45):bO st k l=some (1,st,k+1):=by
 unfold bO;rw [if_neg h0,if_pos h]
theorem I4 (st k:Nat) (l:ab) (h0:st≠0) (h1:l.head?≠some 45) (h:l.head?=some 62∧2≤k):bO st k l=some (1,0,0):=by
 unfold bO;rw [if_neg h0,if_neg h1,if_pos h]
theorem I5 (k:Nat) (l:ab) (h1:l.head?≠some 45) (h:¬(l.head?=some 62∧2≤k)) (e:cb nz l=true):bO 1 k l=none:=by
 unfold bO;rw [if_neg (by decide),if_neg h1,if_neg h,if_pos ⟨rfl,e⟩]
theorem Nx (k:Nat) (l:ab) (h1:l.head?≠some 45) (h:¬(l.head?=some 62∧2≤k)) (e:cb nz l=false) (o:ef [60] l=true):bO 1 k l=some (8,2,0):=by
 unfold bO;rw [if_neg (by decide),if_neg h1,if_neg h,if_neg (by rw [e];simp),if_pos ⟨rfl,o⟩]
theorem Nz (k:Nat) (l:ab) (h1:l.head?≠some 45) (h:¬(l.head?=some 62∧2≤k)) (e:cb nz l=false) (o:ef [60] l=false):bO 1 k l=some (1,1,0):=by
 unfold bO;rw [if_neg (by decide),if_neg h1,if_neg h,if_neg (by rw [e];simp),if_neg (by rw [o];simp),if_neg (by simp)]
theorem NA (k:Nat) (l:ab) (h1:l.head?≠some 45) (h:¬(l.head?=some 62∧2≤k)) (o:ef [60,47] l=true):bO 2 k l=some (9,1,0):=by
 unfold bO;rw [if_neg (by decide),if_neg h1,if_neg h,if_neg (by simp),if_neg (by simp),if_pos ⟨rfl,o⟩]
theorem NC (k:Nat) (l:ab) (h1:l.head?≠some 45) (h:¬(l.head?=some 62∧2≤k)) (o:ef [60,47] l=false):bO 2 k l=some (1,2,0):=by
 unfold bO;rw [if_neg (by decide),if_neg h1,if_neg h,if_neg (by simp),if_neg (by simp),if_neg (by rw [o];simp)]
theorem xt (l:ab) (i:Nat) (h:i<l.length):l.drop i≠[]:=fun e=>by
 have:=congrArg List.length e
 rw [List.length_drop,List.length_nil] at this;omega
theorem iR (l:ab) (i st k n st' k' R1 R2:Nat) (hl:i<l.length) (h:bO st k (l.drop i)=some (n,st',k')) (hR:i+(dg st k (l.drop i)).1=R1∧(dg st k (l.drop i)).2=R2):i+n+(dg st' k' (l.drop (i+n))).1=R1∧(dg st' k' (l.drop (i+n))).2=R2:=by
 rw [zH st k _ (xt l i hl) n st' k' h,List.drop_drop] at hR
 exact ⟨by rw [←hR.1];simp only;omega,hR.2⟩
theorem sI (l:ab) (i st k R1 R2:Nat) (hl:i<l.length) (h:bO st k (l.drop i)=none) (hR:i+(dg st k (l.drop i)).1=R1∧(dg st k (l.drop i)).2=R2):R1=i∧R2=st:=by
 rw [DT st k _ (xt l i hl) h] at hR
 exact ⟨hR.1.symm,hR.2.symm⟩
theorem zO (l:ab) (i st k R1 R2:Nat) (hl:i=l.length) (hR:i+(dg st k (l.drop i)).1=R1∧(dg st k (l.drop i)).2=R2):R1=i∧R2=st:=by
 rw [List.drop_eq_nil_of_le (by omega),LM] at hR
 exact ⟨hR.1.symm,hR.2.symm⟩
theorem oL {a b m n:Int} (h1:a=b) (h2:m=n):Ending.returned (.tuple #[.int .i64 a,.int .i64 m])= .returned (.tuple #[.int .i64 b,.int .i64 n]):=by rw [h1,h2]
theorem oM (s:ByteArray) (i:Nat) (h:i<s.size) (c:UInt8):((s.data.toList.drop i).head?=some c)↔((s[i].toNat:Nat):Int)=(c.toNat:Int):=by
 rw [aj s i h,List.head?_cons,Option.some.injEq,←UInt8.toNat_inj]
 omega
theorem uu (s : ByteArray) (a : Int) (w : World) (hs : s.size ≤ 1048576) (ha : -9223372036854775808 ≤ a ∧ a ≤ 9223372036854775807) :
    Calls Tryz.prog 131 #[.string s, .int .i64 a] w fun e w' => e = .returned (.tuple #[.int .i64 ((ra s.data.toList a).1 : Int), .int .i64 ((ra s.data.toList a).2 : Int)]) ∧ Below w.heap.size w w' := by
  obtain ⟨R1, hR1⟩ : ∃ R, (ra s.data.toList a).1 = R := ⟨_, rfl⟩
  obtain ⟨R2, hR2⟩ : ∃ R, (ra s.data.toList a).2 = R := ⟨_, rfl⟩
  obtain ⟨i0, hi0⟩ : ∃ i, yp s.data.toList.length a = i := ⟨_, rfl⟩
  have hmx : max (0 : Int) (min a (s.size : Int)) = (i0 : Int) := by
    rw [← hi0, ← Lib.size_eq]; unfold yp; omega
  have hi1 : i0 ≤ s.size := by rw [← hi0, ← Lib.size_eq]; unfold yp; omega
  have H0 : Hid (i0 + (dg 0 0 (s.data.toList.drop i0)).1 = R1 ∧ (dg 0 0 (s.data.toList.drop i0)).2 = R2) := Lib.hid (by
    unfold ra at hR1 hR2
    rw [hi0] at hR1 hR2
    exact ⟨hR1, hR2⟩)
  rw [hR1, hR2]
  clear hR1 hR2 hi0
  have HMX := Lib.hid hmx
  have HEE := fun (i : Nat) (h : i < s.size) w => Lib.hid (show Calls Tryz.prog 171 #[.string s, .int .i64 (i : Int), .string ⟨#[115, 99, 114, 105, 112, 116]⟩] w fun e w' => e = .returned (.bool (cb nz (s.data.toList.drop i))) ∧ Below w.heap.size w w' from by
    have := m7 s (i : Int) ⟨#[115, 99, 114, 105, 112, 116]⟩ w hs (by decide) (by omega)
    rwa [kE] at this)
  have HII := fun (i : Nat) (h : i < s.size) w => Lib.hid (show Calls Tryz.prog 172 #[.string s, .int .i64 (i : Int), .string ⟨#[60]⟩] w fun e w' => e = .returned (.bool (ef [60] (s.data.toList.drop i))) ∧ Below w.heap.size w w' from nb s i ⟨#[60]⟩ w hs h (by decide))
  have HOO := fun (i : Nat) (h : i < s.size) w => Lib.hid (show Calls Tryz.prog 172 #[.string s, .int .i64 (i : Int), .string ⟨#[60, 47]⟩] w fun e w' => e = .returned (.bool (ef [60, 47] (s.data.toList.drop i))) ∧ Below w.heap.size w w' from nb s i ⟨#[60, 47]⟩ w hs h (by decide))
  have HCC := fun (i : Nat) (h : i < s.size) w => Lib.hid (show Calls Tryz.prog 127 #[.string s, .int .i64 (i : Int), .string ⟨#[60, 33, 45, 45]⟩] w fun e w' => e = .returned (.bool (zG.isPrefixOf (aF (s.data.toList.drop i)))) ∧ Below w.heap.size w w' from by
    have := gh s (i : Int) ⟨#[60, 33, 45, 45]⟩ w (by omega) (by decide) (by omega) (by omega)
    rwa [mw s i _ (by omega)] at this)
  go_enter Tryz.func131, Tryz.ntmps131
  go_wp2
  go_loopw [6, 7, 8] (fun v6 v7 v8 wr => ∃ st k i : Nat, v6 = .int .i64 (st : Int) ∧ v7 = .int .i64 (k : Int) ∧ v8 = .int .i64 (i : Int) ∧ st ≤ 2 ∧ (st = 0 → k = 0) ∧ k ≤ i ∧ i ≤ s.size ∧ Below w.heap.size w wr ∧ Hid (i + (dg st k (s.data.toList.drop i)).1 = R1 ∧ (dg st k (s.data.toList.drop i)).2 = R2)) (fun _ _ v _ => s.size - (ae v).toNat)
  case atStart => exact ⟨0, 0, i0, rfl, rfl, by first | rfl | (rw [hmx]) | (simp [hmx]) | (simp only [← hmx]; congr 1; omega), by omega, fun _ => rfl, by omega, hi1, Below.refl _ _, H0⟩
  case round =>
    obtain ⟨st, k, i, rfl, rfl, rfl, hst, hz, hki, his, hb, HR⟩ := hrel
    clear hmx HMX H0 hi1
    have HBW := Lib.hid hb
    clear hb
    by_cases hlt : i < s.size
    · have hi20 : i ≤ 1048576 := by omega
      have hk20 : k ≤ 1048576 := by omega
      have HE := fun w => HEE i hlt w
      have HI := fun w => HII i hlt w
      have HO := fun w => HOO i hlt w
      have HC := fun w => HCC i hlt w
      clear HEE HII HOO HCC
      obtain ⟨E, hE⟩ : ∃ E, cb nz (s.data.toList.drop i) = E := ⟨_, rfl⟩
      obtain ⟨I, hI⟩ : ∃ E, ef [60] (s.data.toList.drop i) = E := ⟨_, rfl⟩
      obtain ⟨O, hO⟩ : ∃ E, ef [60, 47] (s.data.toList.drop i) = E := ⟨_, rfl⟩
      rw [hE] at HE
      rw [hI] at HI
      rw [hO] at HO
      by_cases h0 : st = 0
      · subst h0
        obtain rfl := hz rfl
        cases E
        · obtain ⟨C, hC⟩ : ∃ E, zG.isPrefixOf (aF (s.data.toList.drop i)) = E := ⟨_, rfl⟩
          rw [hC] at HC
          cases C
          · have HN := Lib.hid (iR s.data.toList i 0 0 1 0 (0) R1 R2 (by rw [← Lib.size_eq]; exact hlt) (Nw 0 _ hE hC) HR.out)
            clear hE hI hO HR
            go_wp2_with (fail)
            refine (HE _).out.mono ?_
            rintro e w2 ⟨rfl, c2⟩
            have B2 := Lib.hid (HBW.out.trans (c2.mono HBW.out.size))
            clear c2
            go_wp2_with (fail)
            refine (HI _).out.mono ?_
            rintro e w3 ⟨rfl, c3⟩
            have B3 := Lib.hid (B2.out.trans (c3.mono B2.out.size))
            clear c3
            go_wp2_with (fail)
            refine (HO _).out.mono ?_
            rintro e w4 ⟨rfl, c4⟩
            have B4 := Lib.hid (B3.out.trans (c4.mono B3.out.size))
            clear c4
            go_wp2_with (fail)
            refine (HC _).out.mono ?_
            rintro e w5 ⟨rfl, c5⟩
            have B5 := Lib.hid (B4.out.trans (c5.mono B4.out.size))
            clear c5
            go_wp2
            go_roundw
            case rel => exact ⟨0, 0, i + 1, by go_num, by go_num, by go_num, by omega, fun _ => rfl, by omega, by omega, B5.out, HN⟩
            case measure => simp [ae]; omega
          · have hbd := DR _ hC
            rw [List.length_drop, ← Lib.size_eq] at hbd
            have HN := Lib.hid (iR s.data.toList i 0 0 4 1 (2) R1 R2 (by rw [← Lib.size_eq]; exact hlt) (Nv 0 _ hE hC) HR.out)
            clear hE hI hO HR
            go_wp2_with (fail)
            refine (HE _).out.mono ?_
            rintro e w2 ⟨rfl, c2⟩
            have B2 := Lib.hid (HBW.out.trans (c2.mono HBW.out.size))
            clear c2
            go_wp2_with (fail)
            refine (HI _).out.mono ?_
            rintro e w3 ⟨rfl, c3⟩
            have B3 := Lib.hid (B2.out.trans (c3.mono B2.out.size))
            clear c3
            go_wp2_with (fail)
            refine (HO _).out.mono ?_
            rintro e w4 ⟨rfl, c4⟩
            have B4 := Lib.hid (B3.out.trans (c4.mono B3.out.size))
            clear c4
            go_wp2_with (fail)
            refine (HC _).out.mono ?_
            rintro e w5 ⟨rfl, c5⟩
            have B5 := Lib.hid (B4.out.trans (c5.mono B4.out.size))
            clear c5
            go_wp2
            go_roundw
            case rel => exact ⟨1, 2, i + 4, by go_num, by go_num, by go_num, by omega, fun h => by omega, by omega, by omega, B5.out, HN⟩
            case measure => simp [ae]; omega
        · have HN := Lib.hid (sI s.data.toList i 0 0 R1 R2 (by rw [← Lib.size_eq]; exact hlt) (I1 0 _ hE) HR.out)
          clear hE hI hO HR
          go_wp2_with (fail)
          refine (HE _).out.mono ?_
          rintro e w2 ⟨rfl, c2⟩
          have B2 := Lib.hid (HBW.out.trans (c2.mono HBW.out.size))
          clear c2
          go_wp2_with (fail)
          refine (HI _).out.mono ?_
          rintro e w3 ⟨rfl, c3⟩
          have B3 := Lib.hid (B2.out.trans (c3.mono B2.out.size))
          clear c3
          go_wp2_with (fail)
          refine (HO _).out.mono ?_
          rintro e w4 ⟨rfl, c4⟩
          have B4 := Lib.hid (B3.out.trans (c4.mono B3.out.size))
          clear c4
          go_wp2
          go_ret2
          exact ⟨oL (by rw [HN.out.1]) (by rw [HN.out.2]; rfl), B4.out⟩
      clear HC hz
      by_cases h45 : ((s[i].toNat : Nat) : Int) = 45
      · have b45 : (((s[i].toNat : Nat) : Int) == 45) = true := by rw [beq_iff_eq]; exact h45
        have f45 := (oM s i hlt 45).2 h45
        clear h45
        obtain h1 | h1 : st = 1 ∨ st = 2 := by omega
        · subst h1
          have HN := Lib.hid (iR s.data.toList i 1 k 1 1 (k + 1) R1 R2 (by rw [← Lib.size_eq]; exact hlt) (I2 1 k _ h0 f45) HR.out)
          clear hE hI hO HR
          go_wp2_with (fail)
          refine (HE _).out.mono ?_
          rintro e w2 ⟨rfl, c2⟩
          have B2 := Lib.hid (HBW.out.trans (c2.mono HBW.out.size))
          clear c2
          go_wp2_with (fail)
          refine (HI _).out.mono ?_
          rintro e w3 ⟨rfl, c3⟩
          have B3 := Lib.hid (B2.out.trans (c3.mono B2.out.size))
          clear c3
          go_wp2_with (fail)
          refine (HO _).out.mono ?_
          rintro e w4 ⟨rfl, c4⟩
          have B4 := Lib.hid (B3.out.trans (c4.mono B3.out.size))
          clear c4
          go_wp2
          go_roundw
          case rel => exact ⟨1, k + 1, i + 1, by go_num, by go_num, by go_num, by omega, fun h => by omega, by omega, by omega, B4.out, HN⟩
          case measure => simp [ae]; omega
        · subst h1
          have HN := Lib.hid (iR s.data.toList i 2 k 1 2 (k + 1) R1 R2 (by rw [← Lib.size_eq]; exact hlt) (I2 2 k _ h0 f45) HR.out)
          clear hE hI hO HR
          go_wp2_with (fail)
          refine (HE _).out.mono ?_
          rintro e w2 ⟨rfl, c2⟩
          have B2 := Lib.hid (HBW.out.trans (c2.mono HBW.out.size))
          clear c2
          go_wp2_with (fail)
          refine (HI _).out.mono ?_
          rintro e w3 ⟨rfl, c3⟩
          have B3 := Lib.hid (B2.out.trans (c3.mono B2.out.size))
          clear c3
          go_wp2_with (fail)
          refine (HO _).out.mono ?_
          rintro e w4 ⟨rfl, c4⟩
          have B4 := Lib.hid (B3.out.trans (c4.mono B3.out.size))
          clear c4
          go_wp2
          go_roundw
          case rel => exact ⟨2, k + 1, i + 1, by go_num, by go_num, by go_num, by omega, fun h => by omega, by omega, by omega, B4.out, HN⟩
          case measure => simp [ae]; omega
      have b45 : (((s[i].toNat : Nat) : Int) == 45) = false := by rw [beq_eq_false_iff_ne]; exact h45
      have f45 : (s.data.toList.drop i).head? ≠ some 45 := fun e => h45 ((oM s i hlt 45).1 e)
      clear h45
      by_cases hk : ((s[i].toNat : Nat) : Int) = 62 ∧ 2 ≤ k
      · have b62 : (((s[i].toNat : Nat) : Int) == 62) = true := by rw [beq_iff_eq]; exact hk.1
        have bk : decide ((2 : Int) ≤ (k : Int)) = true := decide_eq_true (by omega)
        have f62 := (oM s i hlt 62).2 hk.1
        have hk2 := hk.2
        clear hk
        obtain h1 | h1 : st = 1 ∨ st = 2 := by omega
        focus
          subst h1
          have HN := Lib.hid (iR s.data.toList i 1 k 1 0 (0) R1 R2 (by rw [← Lib.size_eq]; exact hlt) (I4 1 k _ h0 f45 ⟨f62, hk2⟩) HR.out)
        rotate_left
        focus
          subst h1
          have HN := Lib.hid (iR s.data.toList i 2 k 1 0 (0) R1 R2 (by rw [← Lib.size_eq]; exact hlt) (I4 2 k _ h0 f45 ⟨f62, hk2⟩) HR.out)
        rotate_left
        all_goals
          clear hE hI hO HR
          go_wp2_with (fail)
          refine (HE _).out.mono ?_
          rintro e w2 ⟨rfl, c2⟩
          have B2 := Lib.hid (HBW.out.trans (c2.mono HBW.out.size))
          clear c2
          go_wp2_with (fail)
          refine (HI _).out.mono ?_
          rintro e w3 ⟨rfl, c3⟩
          have B3 := Lib.hid (B2.out.trans (c3.mono B2.out.size))
          clear c3
          go_wp2_with (fail)
          refine (HO _).out.mono ?_
          rintro e w4 ⟨rfl, c4⟩
          have B4 := Lib.hid (B3.out.trans (c4.mono B3.out.size))
          clear c4
          go_wp2
          go_roundw
          case rel => exact ⟨0, 0, i + 1, by go_num, by go_num, by go_num, by omega, fun _ => rfl, by omega, by omega, B4.out, HN⟩
          case measure => simp [ae]; omega
      have hK : ¬ ((s.data.toList.drop i).head? = some 62 ∧ 2 ≤ k) := fun e => hk ⟨(oM s i hlt 62).1 e.1, e.2⟩
      have hb2 : (((s[i].toNat : Nat) : Int) == 62) = false ∨ (((s[i].toNat : Nat) : Int) == 62) = true ∧ decide ((2 : Int) ≤ (k : Int)) = false := by
        by_cases h : ((s[i].toNat : Nat) : Int) = 62
        · exact .inr ⟨by rw [beq_iff_eq]; exact h, decide_eq_false (fun h2 => hk ⟨h, by omega⟩)⟩
        · exact .inl (by rw [beq_eq_false_iff_ne]; exact h)
      clear hk
      obtain h1 | h1 : st = 1 ∨ st = 2 := by omega
      · subst h1
        cases E
        · cases I
          · rcases hb2 with b62 | ⟨b62, bk⟩
            all_goals
              have HN := Lib.hid (iR s.data.toList i 1 k 1 1 (0) R1 R2 (by rw [← Lib.size_eq]; exact hlt) (Nz k _ f45 hK hE hI) HR.out)
              clear hE hI hO HR
              go_wp2_with (fail)
              refine (HE _).out.mono ?_
              rintro e w2 ⟨rfl, c2⟩
              have B2 := Lib.hid (HBW.out.trans (c2.mono HBW.out.size))
              clear c2
              go_wp2_with (fail)
              refine (HI _).out.mono ?_
              rintro e w3 ⟨rfl, c3⟩
              have B3 := Lib.hid (B2.out.trans (c3.mono B2.out.size))
              clear c3
              go_wp2_with (fail)
              refine (HO _).out.mono ?_
              rintro e w4 ⟨rfl, c4⟩
              have B4 := Lib.hid (B3.out.trans (c4.mono B3.out.size))
              clear c4
              go_wp2
              go_roundw
              case rel => exact ⟨1, 0, i + 1, by go_num, by go_num, by go_num, by omega, fun h => by omega, by omega, by omega, B4.out, HN⟩
              case measure => simp [ae]; omega
          · rcases hb2 with b62 | ⟨b62, bk⟩
            all_goals
              have hbd := oD _ _ hI
              rw [List.length_drop, ← Lib.size_eq] at hbd
              simp only [List.length_cons, List.length_nil] at hbd
              have HN := Lib.hid (iR s.data.toList i 1 k 8 2 (0) R1 R2 (by rw [← Lib.size_eq]; exact hlt) (Nx k _ f45 hK hE hI) HR.out)
              clear hE hI hO HR
              go_wp2_with (fail)
              refine (HE _).out.mono ?_
              rintro e w2 ⟨rfl, c2⟩
              have B2 := Lib.hid (HBW.out.trans (c2.mono HBW.out.size))
              clear c2
              go_wp2_with (fail)
              refine (HI _).out.mono ?_
              rintro e w3 ⟨rfl, c3⟩
              have B3 := Lib.hid (B2.out.trans (c3.mono B2.out.size))
              clear c3
              go_wp2_with (fail)
              refine (HO _).out.mono ?_
              rintro e w4 ⟨rfl, c4⟩
              have B4 := Lib.hid (B3.out.trans (c4.mono B3.out.size))
              clear c4
              go_wp2
              go_roundw
              case rel => exact ⟨2, 0, i + 8, by go_num, by go_num, by go_num, by omega, fun h => by omega, by omega, by omega, B4.out, HN⟩
              case measure => simp [ae]; omega
        · rcases hb2 with b62 | ⟨b62, bk⟩
          all_goals
            have HN := Lib.hid (sI s.data.toList i 1 k R1 R2 (by rw [← Lib.size_eq]; exact hlt) (I5 k _ f45 hK hE) HR.out)
            clear hE hI hO HR
            go_wp2_with (fail)
            refine (HE _).out.mono ?_
            rintro e w2 ⟨rfl, c2⟩
            have B2 := Lib.hid (HBW.out.trans (c2.mono HBW.out.size))
            clear c2
            go_wp2_with (fail)
            refine (HI _).out.mono ?_
            rintro e w3 ⟨rfl, c3⟩
            have B3 := Lib.hid (B2.out.trans (c3.mono B2.out.size))
            clear c3
            go_wp2_with (fail)
            refine (HO _).out.mono ?_
            rintro e w4 ⟨rfl, c4⟩
            have B4 := Lib.hid (B3.out.trans (c4.mono B3.out.size))
            clear c4
            go_wp2
            go_ret2
            exact ⟨oL (by rw [HN.out.1]) (by rw [HN.out.2]; rfl), B4.out⟩
      · subst h1
        cases O
        · rcases hb2 with b62 | ⟨b62, bk⟩
          all_goals
            have HN := Lib.hid (iR s.data.toList i 2 k 1 2 (0) R1 R2 (by rw [← Lib.size_eq]; exact hlt) (NC k _ f45 hK hO) HR.out)
            clear hE hI hO HR
            go_wp2_with (fail)
            refine (HE _).out.mono ?_
            rintro e w2 ⟨rfl, c2⟩
            have B2 := Lib.hid (HBW.out.trans (c2.mono HBW.out.size))
            clear c2
            go_wp2_with (fail)
            refine (HI _).out.mono ?_
            rintro e w3 ⟨rfl, c3⟩
            have B3 := Lib.hid (B2.out.trans (c3.mono B2.out.size))
            clear c3
            go_wp2_with (fail)
            refine (HO _).out.mono ?_
            rintro e w4 ⟨rfl, c4⟩
            have B4 := Lib.hid (B3.out.trans (c4.mono B3.out.size))
            clear c4
            go_wp2
            go_roundw
            case rel => exact ⟨2, 0, i + 1, by go_num, by go_num, by go_num, by omega, fun h => by omega, by omega, by omega, B4.out, HN⟩
            case measure => simp [ae]; omega
        · rcases hb2 with b62 | ⟨b62, bk⟩
          all_goals
            have hbd := oD _ _ hO
            rw [List.length_drop, ← Lib.size_eq] at hbd
            simp only [List.length_cons, List.length_nil] at hbd
            have HN := Lib.hid (iR s.data.toList i 2 k 9 1 (0) R1 R2 (by rw [← Lib.size_eq]; exact hlt) (NA k _ f45 hK hO) HR.out)
            clear hE hI hO HR
            go_wp2_with (fail)
            refine (HE _).out.mono ?_
            rintro e w2 ⟨rfl, c2⟩
            have B2 := Lib.hid (HBW.out.trans (c2.mono HBW.out.size))
            clear c2
            go_wp2_with (fail)
            refine (HI _).out.mono ?_
            rintro e w3 ⟨rfl, c3⟩
            have B3 := Lib.hid (B2.out.trans (c3.mono B2.out.size))
            clear c3
            go_wp2_with (fail)
            refine (HO _).out.mono ?_
            rintro e w4 ⟨rfl, c4⟩
            have B4 := Lib.hid (B3.out.trans (c4.mono B3.out.size))
            clear c4
            go_wp2
            go_roundw
            case rel => exact ⟨1, 0, i + 9, by go_num, by go_num, by go_num, by omega, fun h => by omega, by omega, by omega, B4.out, HN⟩
            case measure => simp [ae]; omega
    · have HN := Lib.hid (zO s.data.toList i st k R1 R2 (by rw [← Lib.size_eq]; omega) HR.out)
      clear HEE HII HOO HCC
      go_wp2
      go_ret2
      exact ⟨oL (by rw [HN.out.1]) (by rw [HN.out.2]), HBW.out⟩
end Go.Proofs.YtajpoodpbbbkfaaGreatDoor
