/-
  What package text's Begins, Next and Read answer, and what they ask of the packages behind.
-/
import Derived.Test.YtajpoodpbbbkfaaGreatDoorQA
import Derived.Test.YtajpoodpbbbkfaaGreatDoorQE
import Derived.Test.YtajpoodpbbbkfaaGreatDoorQF
import Derived.Test.YtajpoodpbbbkfaaGreatDoorP6
set_option maxHeartbeats 2000000
set_option maxRecDepth 100000
namespace Go.Proofs.YtajpoodpbbbkfaaGreatDoor
open Go.RowKit Go.Lib
theorem wg (s:ByteArray) (a:Int) (w:World) (hs:s.size≤1048576) (ha: -9223372036854775808≤a∧a≤9223372036854775807) (h:bn w):Calls Tryz.prog 51 #[.string s,.int .i64 a] w fun e w'=>e= .returned (.bool (gJ s.data.toList a))∧Below w.heap.size w w':=uM s a w hs ha h
theorem wh (s:ByteArray) (a:Int) (w:World) (hs:s.size≤1048576) (ha: -9223372036854775808≤a∧a≤9223372036854775807) (_h:bn w):Calls Tryz.prog 53 #[.string s,.int .i64 a] w fun e w'=>e= .returned (.bool (ee s.data.toList a))∧Below w.heap.size w w':=nh s a w hs ha trivial
theorem wi (s:ByteArray) (a:Int) (w:World) (hs:s.size≤1048576) (ha: -9223372036854775808≤a∧a≤9223372036854775807) (_h:bn w):Calls Tryz.prog 55 #[.string s,.int .i64 a] w fun e w'=>e= .returned (.bool (dV s.data.toList a))∧Below w.heap.size w w':=ni s a w hs ha trivial
theorem Gp (s:ByteArray) (attr:Bool) (w:World) (hs:s.size≤1048576) (h:bn w):Calls Tryz.prog 109 #[.string s,.bool attr] w fun e w'=>e= .returned (.string ⟨(dQ attr s.data.toList).toArray⟩)∧Below w.heap.size w w':=ns s attr w (by omega) h.tab h.err
theorem wj (s:ByteArray) (a:Int) (w:World) (hs:s.size≤1048576) (ha: -9223372036854775808≤a∧a≤9223372036854775807) (_h:bn w):Calls Tryz.prog 57 #[.string s,.int .i64 a,.string ⟨#[60,47,62]⟩] w fun e w'=>e= .returned (.bool (jM s.data.toList a))∧Below w.heap.size w w':=by
 have:=cB s a ⟨#[60,47,62]⟩ w (by omega) (by decide) ha.1 ha.2
 rw [xm] at this
 refine this.mono ?_
 rintro e w' ⟨rfl,n,rfl⟩
 exact ⟨rfl,ai _ _ _⟩
theorem x6 (s:ByteArray) (a:Int) (w:World) (hs:s.size≤1048576) (ha: -9223372036854775808≤a∧a≤9223372036854775807) (h:bn w):Calls Tryz.prog 215 #[.string s,.int .i64 a] w fun e w'=>e= .returned (.bool (jM s.data.toList a))∧Below w.heap.size w w':=by
 have HB:=Lib.hid (wj s a w hs ha h)
 clear ha h
 go_enter Tryz.func215,Tryz.ntmps215
 go_wp2_with (fail)
 refine HB.out.mono ?_
 rintro e w1 ⟨rfl,b1⟩
 go_wp2
 go_ret
 exact ⟨rfl,b1⟩
theorem pc (s:ByteArray) (a:Int) (w:World) (_hs:s.size≤1048576) (ha: -9223372036854775808≤a∧a≤9223372036854775807):Calls Tryz.prog 107 #[.string s,.int .i64 a] w fun e w'=>e= .returned (.int .i64 (jv s.data.toList a:Int))∧w'=w:=by
 obtain ⟨k,hk⟩:∃k,jv s.data.toList a=k:=⟨_,rfl⟩
 have hmx:max (0:Int) (min a (s.size:Int))=(k:Int):=by
  rw [←hk,Lib.size_eq];unfold jv;omega
 rw [hk];clear hk
 go_enter Tryz.func107,Tryz.ntmps107
 go_wp2
 go_ret
 exact ⟨az (by first|exact hmx|omega),rfl⟩
theorem CT (w:World):Calls Tryz.prog 187 #[] w fun e w'=>e= .returned (.slice (some ⟨w.heap.size,0,none⟩) 4 4)∧w'.heap[w.heap.size]? =some (.cells #[.func (.func 51) #[] #[],.func (.func 53) #[] #[],.func (.func 55) #[] #[],.func (.func 215) #[] #[]] 171)∧Below w.heap.size w w':=by
 go_enter Tryz.func187,Tryz.ntmps187
 go_wp2
 go_ret
 exact ⟨rfl,heap_alloc_new w _,(Below.refl _ w).alloc (Nat.le_refl _) _⟩
theorem uP (s:ByteArray) (a:Int) (w:World) (hs:s.size≤1048576) (ha: -9223372036854775808≤a∧a≤9223372036854775807) (h:bn w):Calls Tryz.prog 157 #[.string s,.int .i64 a] w fun e w'=>e= .returned (.bool (OR s.data.toList a))∧Below w.heap.size w w':=by
 have HW:=Lib.hid h
 have K1:=fun w h=>Lib.hid (wg s a w hs ha h)
 have K2:=fun w h=>Lib.hid (wh s a w hs ha h)
 have K3:=fun w h=>Lib.hid (wi s a w hs ha h)
 have K4:=fun w h=>Lib.hid (x6 s a w hs ha h)
 rw [DQ]
 generalize gJ s.data.toList a=b1 at*
 generalize ee s.data.toList a=b2 at*
 generalize dV s.data.toList a=b3 at*
 generalize jM s.data.toList a=b4 at*
 clear ha h hs
 go_enter Tryz.func157,Tryz.ntmps157
 go_wp2_with (go_at_call 187;refine (CT _).mono ?_;rintro e w1 ⟨rfl,hb1,B1⟩;have HB1:=Lib.hid hb1;clear hb1)
 go_loopw [9] (fun v wr=>∃i:Int,v= .int .i64 i∧(i=0∨i=1∨i=2∨i=3∨i=4)∧Below w.heap.size w wr∧Hid (wr.heap[w.heap.size]? =some (.cells #[.func (.func 51) #[] #[],.func (.func 53) #[] #[],.func (.func 55) #[] #[],.func (.func 215) #[] #[]] 171))∧Hid ((1≤i→b1=false)∧(2≤i→b2=false)∧(3≤i→b3=false)∧(4≤i→b4=false))) (fun v _=>4-(ae v).toNat)
 case atStart=>exact ⟨0,rfl,.inl rfl,B1,HB1,Lib.hid ⟨fun h=>absurd h (by decide),fun h=>absurd h (by decide),fun h=>absurd h (by decide),fun h=>absurd h (by decide)⟩⟩
 case round=>
  obtain ⟨i,rfl,hi,hb,HC,HN⟩:=hrel
  have HB:=Lib.hid hb
  have hlt:w.heap.size<wr.heap.size:=(Array.getElem?_eq_some_iff.1 HC.out).1
  have HL:=Lib.hid (HW.out.below hb)
  clear hb
  rcases hi with rfl|rfl|rfl|rfl|rfl
  ·have c0:wr.cell? ⟨w.heap.size,0,none⟩=some (.func (.func 51) #[] #[]):=by rw [cell_of_row _ _ _ _ _ _ HC.out];rfl
   cases b1
   ·go_wp2_with (go_at_call 51;refine (K1 _ HL.out).out.mono ?_;rintro e w2 ⟨rfl,d2⟩)
    go_roundw
    case rel=>exact ⟨1,rfl,.inr (.inl rfl),HB.out.trans (d2.mono HB.out.size),Lib.hid ((d2.block _ hlt).trans HC.out),Lib.hid (by simp)⟩
    case measure=>simp [ae]
   ·go_wp2_with (go_at_call 51;refine (K1 _ HL.out).out.mono ?_;rintro e w2 ⟨rfl,d2⟩)
    go_ret
    exact ⟨au (by simp),HB.out.trans (d2.mono HB.out.size)⟩
  ·obtain rfl:=HN.out.1 (by decide)
   have c0:wr.cell? ⟨w.heap.size,1,none⟩=some (.func (.func 53) #[] #[]):=by rw [cell_of_row _ _ _ _ _ _ HC.out];rfl
   cases b2
   ·go_wp2_with (go_at_call 53;refine (K2 _ HL.out).out.mono ?_;rintro e w2 ⟨rfl,d2⟩)
    go_roundw
    case rel=>exact ⟨2,rfl,.inr (.inr (.inl rfl)),HB.out.trans (d2.mono HB.out.size),Lib.hid ((d2.block _ hlt).trans HC.out),Lib.hid (by simp)⟩
    case measure=>simp [ae]
   ·go_wp2_with (go_at_call 53;refine (K2 _ HL.out).out.mono ?_;rintro e w2 ⟨rfl,d2⟩)
    go_ret
    exact ⟨au (by simp),HB.out.trans (d2.mono HB.out.size)⟩
  ·obtain rfl:=HN.out.1 (by decide)
   obtain rfl:=HN.out.2.1 (by decide)
   have c0:wr.cell? ⟨w.heap.size,2,none⟩=some (.func (.func 55) #[] #[]):=by rw [cell_of_row _ _ _ _ _ _ HC.out];rfl
   cases b3
   ·go_wp2_with (go_at_call 55;refine (K3 _ HL.out).out.mono ?_;rintro e w2 ⟨rfl,d2⟩)
    go_roundw
    case rel=>exact ⟨3,rfl,.inr (.inr (.inr (.inl rfl))),HB.out.trans (d2.mono HB.out.size),Lib.hid ((d2.block _ hlt).trans HC.out),Lib.hid (by simp)⟩
    case measure=>simp [ae]
   ·go_wp2_with (go_at_call 55;refine (K3 _ HL.out).out.mono ?_;rintro e w2 ⟨rfl,d2⟩)
    go_ret
    exact ⟨au (by simp),HB.out.trans (d2.mono HB.out.size)⟩
  ·obtain rfl:=HN.out.1 (by decide)
   obtain rfl:=HN.out.2.1 (by decide)
   obtain rfl:=HN.out.2.2.1 (by decide)
   have c0:wr.cell? ⟨w.heap.size,3,none⟩=some (.func (.func 215) #[] #[]):=by rw [cell_of_row _ _ _ _ _ _ HC.out];rfl
   cases b4
   ·go_wp2_with (go_at_call 215;refine (K4 _ HL.out).out.mono ?_;rintro e w2 ⟨rfl,d2⟩)
    go_roundw
    case rel=>exact ⟨4,rfl,.inr (.inr (.inr (.inr rfl))),HB.out.trans (d2.mono HB.out.size),Lib.hid ((d2.block _ hlt).trans HC.out),Lib.hid (by simp)⟩
    case measure=>simp [ae]
   ·go_wp2_with (go_at_call 215;refine (K4 _ HL.out).out.mono ?_;rintro e w2 ⟨rfl,d2⟩)
    go_ret
    exact ⟨au (by simp),HB.out.trans (d2.mono HB.out.size)⟩
  ·obtain rfl:=HN.out.1 (by decide)
   obtain rfl:=HN.out.2.1 (by decide)
   obtain rfl:=HN.out.2.2.1 (by decide)
   obtain rfl:=HN.out.2.2.2 (by decide)
   go_wp2
   go_ret
   exact ⟨au (by simp),HB.out⟩
theorem Kn (s:ByteArray) (k:Nat) (h:k<s.size) (hm:q9 (s.data.toList.drop k)=false):bz s.data.toList ((k+1:Nat):Int)=bz s.data.toList (k:Int):=by
 rw [mp s k (by omega),mp s (k+1) (by omega),vy s k h hm]
theorem OI (s:ByteArray) (k:Nat) (h:k<s.size) (hm:q9 (s.data.toList.drop k)=true):bz s.data.toList (k:Int)=k:=by
 rw [mp s k (by omega),vz s k hm]
theorem Ep (s:ab) (a:Int):bz s ((jv s a:Nat):Int)=bz s a:=by
 have h:=gS s a
 unfold bz
 rw [gT _ _ h]
theorem A3 (s:ByteArray) (a:Int) (w:World) (hs:s.size≤1048576) (ha: -9223372036854775808≤a∧a≤9223372036854775807) (h:bn w):Calls Tryz.prog 108 #[.string s,.int .i64 a] w fun e w'=>e= .returned (.int .i64 (bz s.data.toList a:Int))∧Below w.heap.size w w':=by
 have HW:=Lib.hid h
 have HB:=fun (i:Nat) (h:i<s.size) w hl=>Lib.hid (uP s (i:Int) w hs (by omega) hl)
 simp only [Nr] at HB
 have HA:=fun w=>Lib.hid (pc s a w hs ha)
 have hcl:=Ep s.data.toList a
 have hal:=gS s.data.toList a
 obtain ⟨k,hk⟩:∃k,jv s.data.toList a=k:=⟨_,rfl⟩
 obtain ⟨R,hR⟩:∃R,bz s.data.toList a=R:=⟨_,rfl⟩
 rw [hk] at HA hcl hal
 rw [hR] at hcl⊢
 rw [←Lib.size_eq] at hal
 have HI0:=Lib.hid hcl
 clear ha h hcl hk hR
 go_enter Tryz.func108,Tryz.ntmps108
 go_wp2_with (go_at_call 107;refine (HA _).out.mono ?_;rintro e w1 ⟨rfl,rfl⟩)
 go_loopw [1] (fun v wr=>∃i:Nat,v= .int .i64 (i:Int)∧i≤s.size∧Below w1.heap.size w1 wr∧Hid (bz s.data.toList (i:Int)=R)) (fun v _=>s.size-(ae v).toNat)
 case atStart=>exact ⟨k,rfl,hal,Below.refl _ _,HI0⟩
 case round=>
  obtain ⟨i,rfl,hi,hb,HI⟩:=hrel
  have hi2:i≤1048576:=by omega
  have HBW:=Lib.hid hb
  have HL:=Lib.hid (HW.out.below hb)
  clear hb
  by_cases hlt:i<s.size
  ·have HC:=fun w hl=>HB i hlt w hl
   by_cases c60:s[i]=60
   ·have b60:(((s[i].toNat:Nat):Int)==60)=true:=by rw [c60];rfl
    cases hbb:q9 (s.data.toList.drop i)
    ·have HN:=Lib.hid ((Kn s i hlt hbb).trans HI.out)
     rw [hbb] at HC
     clear hbb HB c60
     go_wp2_with (go_at_call 157;refine (HC _ HL.out).out.mono ?_;rintro e w2 ⟨rfl,d2⟩)
     go_roundw
     case rel=>exact ⟨i+1,by go_num,by omega,HBW.out.trans (d2.mono HBW.out.size),HN⟩
     case measure=>simp [ae];omega
    ·have HN:=Lib.hid ((OI s i hlt hbb).symm.trans HI.out)
     rw [hbb] at HC
     clear hbb HB c60
     go_wp2_with (go_at_call 157;refine (HC _ HL.out).out.mono ?_;rintro e w2 ⟨rfl,d2⟩)
     go_ret
     exact ⟨az (by rw [HN.out]),HBW.out.trans (d2.mono HBW.out.size)⟩
   ·have b60:(((s[i].toNat:Nat):Int)==60)=false:=by
     rw [beq_eq_false_iff_ne];exact fun h=>c60 (aT _ 60 (by decide) h)
    have hbb:q9 (s.data.toList.drop i)=false:=by
     rw [Bool.eq_false_iff];intro e
     obtain ⟨t,e⟩:=rB _ e
     rw [aj s i hlt] at e
     exact c60 (List.cons.inj e).1
    have HN:=Lib.hid ((Kn s i hlt hbb).trans HI.out)
    clear hbb HB HC c60
    go_wp2
    go_roundw
    case rel=>exact ⟨i+1,by go_num,by omega,HBW.out,HN⟩
    case measure=>simp [ae];omega
  ·obtain rfl:i=s.size:=by omega
   have HN:Hid (R=s.size):=Lib.hid (by rw [←HI.out,zC _ _ (by rw [←Lib.size_eq];omega),←Lib.size_eq])
   go_wp2
   go_ret
   exact ⟨az (by rw [HN.out]),HBW.out⟩
theorem A5 (s:ByteArray) (a:Int) (w:World) (hs:s.size≤1048576) (ha: -9223372036854775808≤a∧a≤9223372036854775807) (h:bn w):Calls Tryz.prog 58 #[.string s,.int .i64 a] w fun e w'=>e= .returned (.tuple #[.string ⟨(uj s.data.toList a).toArray⟩,.int .i64 (bz s.data.toList a:Int)])∧Below w.heap.size w w':=by
 have HW:=Lib.hid h
 have HA:=fun w=>Lib.hid (pc s a w hs ha)
 obtain ⟨k,hk⟩:∃k,jv s.data.toList a=k:=⟨_,rfl⟩
 have hks:k≤s.size:=by rw [←hk,Lib.size_eq];exact gS _ _
 have hkk:k≤1048576:=by omega
 rw [hk] at HA
 have HN:=fun w hl=>Lib.hid (A3 s (k:Int) w hs (by omega) hl)
 have hcl:=Ep s.data.toList a
 rw [hk] at hcl
 rw [hcl] at HN
 have hv:uj s.data.toList a=dQ false (s.extract k (bz s.data.toList a)).data.toList:=by
  unfold uj
  rw [hk,Lib.extract_data,show bz s.data.toList a-k=bJ (s.data.toList.drop k) by unfold bz;rw [hk];omega]
 have htop:=oA s.data.toList a
 rw [hk,←Lib.size_eq] at htop
 rw [hv]
 obtain ⟨N,hN⟩:∃N,bz s.data.toList a=N:=⟨_,rfl⟩
 rw [hN] at HN htop⊢
 obtain ⟨ht1,ht2⟩:=htop
 have HD:=fun w hl=>Lib.hid (Gp (s.extract k N) false w (by rw [ByteArray.size_extract];omega) hl)
 obtain ⟨T,hT⟩:∃T:ByteArray,(⟨(dQ false (s.extract k N).data.toList).toArray⟩:ByteArray)=T:=⟨_,rfl⟩
 rw [hT] at HD⊢
 have hN2:N≤1048576:=by omega
 clear hk hcl hv hN hT ha h
 go_enter Tryz.func58,Tryz.ntmps58
 go_wp2_with (go_at_call 107;refine (HA _).out.mono ?_;rintro e w1 ⟨rfl,hw1⟩)
 obtain rfl:=hw1
 go_wp2_with (fail)
 refine (HN _ HW.out).out.mono ?_
 rintro e w2 ⟨rfl,c2⟩
 have C2:=Lib.hid c2
 clear c2
 go_wp2_with (fail)
 refine (HD _ (HW.out.below C2.out)).out.mono ?_
 rintro e w3 ⟨rfl,c3⟩
 go_wp2
 go_ret2
 exact ⟨rfl,C2.out.trans (c3.mono C2.out.size)⟩
end Go.Proofs.YtajpoodpbbbkfaaGreatDoor
