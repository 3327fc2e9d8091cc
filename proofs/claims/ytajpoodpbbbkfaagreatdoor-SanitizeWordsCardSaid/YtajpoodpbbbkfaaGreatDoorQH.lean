/-
  Texts laid together: TkNext, TkJoin, TkRest, TkTok.
-/
import Derived.Test.YtajpoodpbbbkfaaGreatDoorQB
import Derived.Test.YtajpoodpbbbkfaaGreatDoorQC
import Derived.Test.YtajpoodpbbbkfaaGreatDoorQD
import Derived.Test.YtajpoodpbbbkfaaGreatDoorP1
import Derived.OwnWalk
import Derived.Laws.AppendOwn
import Derived.Laws.OwnMore
import Derived.Test.YtajpoodpbbbkfaaGreatDoorP4
set_option maxHeartbeats 16000000
set_option maxRecDepth 100000
namespace Go.Proofs.YtajpoodpbbbkfaaGreatDoor
open Go.RowKit Go.Lib
theorem qK {w w':World} {ad:Option Addr} {len cap:Nat} {l:List Ln} {g:Nat} (h:cf w ad len cap l) (hg:w.grownBy w' (some g)) (hne:l=[]∨∀k,(Value.slice ad len cap).ownBlock=some k→k≠g):cf w' ad len cap l:=by
 rcases hne with h0|h0
 ·rw [h0] at h⊢
  exact ⟨h.1,h.2.1,h.2.2.1,fun i hi=>by cases hi⟩
 ·exact ie h hg h0
theorem kH {l:List Ln} {v:Value} {a b g:Nat} (h:l=[]∨∀k,v.ownBlock=some k→a≤k) (hab:b≤a) (hg:g<a):(l=[]∨∀k,v.ownBlock=some k→b≤k)∧(l=[]∨∀k,v.ownBlock=some k→k≠g):=by
 rcases h with h|h
 ·exact ⟨.inl h,.inl h⟩
 ·exact ⟨.inr fun k hk=>by have:=h k hk;omega,.inr fun k hk=>by have:=h k hk;omega⟩
theorem uv (s:ByteArray) (a:Int) (w:World) (hs:s.size≤1048576) (ha: -9223372036854775808≤a∧a≤9223372036854775807):Calls Tryz.prog 79 #[.string s,.int .i64 a] w (yN (BR s.data.toList a) w):=by
 have hks:=gS s.data.toList a
 have hmx:max (0:Int) (min a (s.size:Int))=((jv s.data.toList a:Nat):Int):=by
  rw [Lib.size_eq];unfold jv;omega
 rw [vF]
 obtain ⟨k,hk⟩:∃k,jv s.data.toList a=k:=⟨_,rfl⟩
 rw [hk] at hks hmx⊢
 have hw:=DW s.data.toList k hks
 rw [←Lib.size_eq] at hks
 have hkk:k≤1048576:=by omega
 have H9:=fun w=>Lib.hid (lA s (k:Int) w hs (by omega))
 have H10:=fun w=>Lib.hid (gV s (k:Int) w hs (by omega))
 have H11:=fun w=>Lib.hid (gW s (k:Int) w hs (by omega))
 have HE:=fun w=>Lib.hid (gh s (k:Int) ⟨#[60,47,62]⟩ w (by omega) (by decide) (by omega) (by omega))
 rw [xm] at HE
 have R9:=fun w=>Lib.hid (m0 s (k:Int) w hs (by omega))
 have R10:=fun w=>Lib.hid ((um s (k:Int) w hs (by omega)).mono fun _ _ h=>mV.plain h (vH _ _))
 have R11:=fun w=>Lib.hid ((uo s (k:Int) w hs (by omega)).mono fun _ _ h=>mV.plain h (vI _ _))
 have RT:=fun w=>Lib.hid (us s (k:Int) w hs (by omega))
 clear hk ha
 rcases hw with ⟨h1,hv0⟩|⟨h1,h2,hv0⟩|⟨h1,h2,h3,hv0⟩|⟨h1,h2,h3,h4,hv0⟩|⟨h1,h2,h3,h4,hn,hv0⟩|⟨h1,h2,h3,h4,hn,hv0⟩
 focus
  rw [h1] at H9
  rw [hv0]
  clear h1 hv0 H10 H11 HE R10 R11 RT
  go_enter Tryz.func79,Tryz.ntmps79
  go_wp2_with (fail)
  refine (H9 _).out.mono ?_
  rintro e w1 ⟨rfl,rfl⟩
  go_wp2_with (fail)
  refine (R9 _).out.mono ?_
  rintro e w2 ⟨t,ad,len,cap,n,ok,rfl,hr,hv,b2,hf⟩
  have HB:=Lib.hid ((b2.block _ (by simp)).trans (heap_alloc_new w _))
  have B2:=Lib.hid (((Below.refl _ w).alloc (Nat.le_refl _) _).trans (b2.mono (by simp)))
  have HF:=Lib.hid (kH (b:=w.heap.size) (g:=w.heap.size) hf (by simp) (by simp))
 rotate_left
 focus
  rw [h1] at H9
  rw [h2] at H10
  rw [hv0]
  clear h1 h2 hv0 H11 HE R9 R11 RT
  go_enter Tryz.func79,Tryz.ntmps79
  go_wp2_with (fail)
  refine (H9 _).out.mono ?_
  rintro e w1 ⟨rfl,rfl⟩
  go_wp2_with (fail)
  refine (H10 _).out.mono ?_
  rintro e w1 ⟨rfl,c1⟩
  have HB1:=Lib.hid ((c1.block _ (by simp)).trans (heap_alloc_new w _))
  have C1:=Lib.hid (((Below.refl _ w).alloc (Nat.le_refl _) _).trans (c1.mono (by simp)))
  have hlt:w.heap.size<w1.heap.size:=(Array.getElem?_eq_some_iff.1 HB1.out).1
  clear c1
  go_wp2_with (fail)
  refine (R10 _).out.mono ?_
  rintro e w2 ⟨t,ad,len,cap,n,ok,rfl,hr,hv,b2,hf⟩
  have HB:=Lib.hid ((b2.block _ hlt).trans HB1.out)
  have B2:=Lib.hid (C1.out.trans (b2.mono C1.out.size))
  have HF:=Lib.hid (kH (b:=w.heap.size) (g:=w.heap.size) hf C1.out.size hlt)
 rotate_left
 focus
  rw [h1] at H9
  rw [h2] at H10
  rw [h3] at H11
  rw [hv0]
  clear h1 h2 h3 hv0 HE R9 R10 RT
  go_enter Tryz.func79,Tryz.ntmps79
  go_wp2_with (fail)
  refine (H9 _).out.mono ?_
  rintro e w1 ⟨rfl,rfl⟩
  go_wp2_with (fail)
  refine (H10 _).out.mono ?_
  rintro e w1 ⟨rfl,c1⟩
  go_wp2_with (fail)
  refine (H11 _).out.mono ?_
  rintro e w4 ⟨rfl,c4⟩
  have c1:=c1.trans (c4.mono c1.size)
  have HB1:=Lib.hid ((c1.block _ (by simp)).trans (heap_alloc_new w _))
  have C1:=Lib.hid (((Below.refl _ w).alloc (Nat.le_refl _) _).trans (c1.mono (by simp)))
  have hlt:w.heap.size<w4.heap.size:=(Array.getElem?_eq_some_iff.1 HB1.out).1
  clear c1 c4
  go_wp2_with (fail)
  refine (R11 _).out.mono ?_
  rintro e w2 ⟨t,ad,len,cap,n,ok,rfl,hr,hv,b2,hf⟩
  have HB:=Lib.hid ((b2.block _ hlt).trans HB1.out)
  have B2:=Lib.hid (C1.out.trans (b2.mono C1.out.size))
  have HF:=Lib.hid (kH (b:=w.heap.size) (g:=w.heap.size) hf C1.out.size hlt)
 rotate_left
 ·rw [h1] at H9
  rw [h2] at H10
  rw [h3] at H11
  rw [h4] at HE
  rw [hv0]
  clear h1 h2 h3 h4 hv0 R9 R10 R11 RT
  go_enter Tryz.func79,Tryz.ntmps79
  go_wp2_with (fail)
  refine (H9 _).out.mono ?_
  rintro e w1 ⟨rfl,rfl⟩
  go_wp2_with (fail)
  refine (H10 _).out.mono ?_
  rintro e w1 ⟨rfl,c1⟩
  go_wp2_with (fail)
  refine (H11 _).out.mono ?_
  rintro e w4 ⟨rfl,c4⟩
  go_wp2_with (fail)
  refine (HE _).out.mono ?_
  rintro e w5 ⟨rfl,c5⟩
  have c1:=c1.trans (c4.mono c1.size)
  have c1:=c1.trans (c5.mono c1.size)
  have HB1:=Lib.hid ((c1.block _ (by simp)).trans (heap_alloc_new w _))
  have C1:=Lib.hid (((Below.refl _ w).alloc (Nat.le_refl _) _).trans (c1.mono (by simp)))
  clear c1 c4 c5
  go_wp2_with (refine ak rfl _ _ rfl w.heap.size aJ none 0 0 rfl rfl _ HB1.out rfl ?_;intro w3 hb3 hg3)
  have B3:=C1.out.grown hg3 C1.out.size (fun j hj=>by cases hj;exact Nat.le_refl _)
  refine bodyPost_ret (aw rfl _ _ w.heap.size aJ none 0 0 rfl (aN hb3)) rfl ?_
  exact ⟨aJ,none,0,0,_,false,rfl,av _,rfl,B3,.inl rfl⟩
 ·rw [h1] at H9
  rw [h2] at H10
  rw [h3] at H11
  rw [h4] at HE
  rw [hn] at RT
  rw [hv0]
  clear h1 h2 h3 h4 hn hv0 R9 R10 R11
  go_enter Tryz.func79,Tryz.ntmps79
  go_wp2_with (fail)
  refine (H9 _).out.mono ?_
  rintro e w1 ⟨rfl,rfl⟩
  go_wp2_with (fail)
  refine (H10 _).out.mono ?_
  rintro e w1 ⟨rfl,c1⟩
  go_wp2_with (fail)
  refine (H11 _).out.mono ?_
  rintro e w4 ⟨rfl,c4⟩
  go_wp2_with (fail)
  refine (HE _).out.mono ?_
  rintro e w5 ⟨rfl,c5⟩
  go_wp2_with (fail)
  refine (RT _).out.mono ?_
  rintro e w6 ⟨rfl,c6⟩
  have c1:=c1.trans (c4.mono c1.size)
  have c1:=c1.trans (c5.mono c1.size)
  have c1:=c1.trans (c6.mono c1.size)
  have HB1:=Lib.hid ((c1.block _ (by simp)).trans (heap_alloc_new w _))
  have C1:=Lib.hid (((Below.refl _ w).alloc (Nat.le_refl _) _).trans (c1.mono (by simp)))
  clear c1 c4 c5 c6
  go_wp2_with (refine ak rfl _ _ rfl w.heap.size aJ none 0 0 rfl rfl _ HB1.out rfl ?_;intro w3 hb3 hg3)
  have B3:=C1.out.grown hg3 C1.out.size (fun j hj=>by cases hj;exact Nat.le_refl _)
  refine bodyPost_ret (aw rfl _ _ w.heap.size aJ none 0 0 rfl (aN hb3)) rfl ?_
  exact ⟨aJ,none,0,0,_,false,rfl,av _,rfl,B3,.inl rfl⟩
 ·rw [h1] at H9
  rw [h2] at H10
  rw [h3] at H11
  rw [h4] at HE
  obtain ⟨N,hN⟩:∃N,bz s.data.toList (k:Int)=N:=⟨_,rfl⟩
  have htop:=(oA s.data.toList (k:Int)).1
  rw [hN,←Lib.size_eq] at htop
  rw [hN] at hn hv0 RT
  obtain ⟨X,hX⟩:∃X,uj s.data.toList (k:Int)=X:=⟨_,rfl⟩
  rw [hX] at hv0 RT
  rw [hv0]
  have hne:((N:Int)==(k:Int))=false:=by rw [beq_eq_false_iff_ne];omega
  have htt:d9 X=⟨0,[],X,[],false⟩:=rfl
  clear h1 h2 h3 h4 hn hv0 hN hX R9 R10 R11
  go_enter Tryz.func79,Tryz.ntmps79
  go_wp2_with (fail)
  refine (H9 _).out.mono ?_
  rintro e w1 ⟨rfl,rfl⟩
  go_wp2_with (fail)
  refine (H10 _).out.mono ?_
  rintro e w1 ⟨rfl,c1⟩
  go_wp2_with (fail)
  refine (H11 _).out.mono ?_
  rintro e w4 ⟨rfl,c4⟩
  go_wp2_with (fail)
  refine (HE _).out.mono ?_
  rintro e w5 ⟨rfl,c5⟩
  go_wp2_with (fail)
  refine (RT _).out.mono ?_
  rintro e w6 ⟨rfl,c6⟩
  have c1:=c1.trans (c4.mono c1.size)
  have c1:=c1.trans (c5.mono c1.size)
  have c1:=c1.trans (c6.mono c1.size)
  have HB1:=Lib.hid ((c1.block _ (by simp)).trans (heap_alloc_new w _))
  have C1:=Lib.hid (((Below.refl _ w).alloc (Nat.le_refl _) _).trans (c1.mono (by simp)))
  clear c1 c4 c5 c6 htt
  go_wp2_with (refine ak rfl _ _ rfl w.heap.size ⟨0,[],X,[],false⟩ none 0 0 rfl rfl _ HB1.out rfl ?_;intro w3 hb3 hg3)
  have B3:=C1.out.grown hg3 C1.out.size (fun j hj=>by cases hj;exact Nat.le_refl _)
  refine bodyPost_ret (aw rfl _ _ w.heap.size ⟨0,[],X,[],false⟩ none 0 0 rfl (aN hb3)) rfl ?_
  exact ⟨⟨0,[],X,[],false⟩,none,0,0,_,true,rfl,av _,rfl,B3,.inl rfl⟩
 all_goals
  have HR:=Lib.hid hr
  have HV:=Lib.hid hv
  clear b2 hf hr hv
  go_wp2_with (refine ak rfl _ _ rfl w.heap.size t ad len cap rfl rfl _ HB.out rfl ?_;intro w3 hb3 hg3)
  have B3:=B2.out.grown hg3 B2.out.size (fun j hj=>by cases hj;exact Nat.le_refl _)
  refine bodyPost_ret (aw rfl _ _ w.heap.size t ad len cap rfl (aN hb3)) rfl ?_
  exact ⟨t,ad,len,cap,n,ok,rfl,qK HR.out hg3 HF.out.2,HV.out,B3,HF.out.1⟩
end Go.Proofs.YtajpoodpbbbkfaaGreatDoor
namespace Go.Proofs.YtajpoodpbbbkfaaGreatDoor
open Go.RowKit Go.Lib
theorem Fu (S:ab) (rest:List aq) (h:∀t,rest.head?=some t→t.kind≠0):cE S rest=aQ S++cE [] rest:=by
 cases rest with
 |nil=>simp [cE,aQ]
 |cons t L=>
  have:=h t rfl
  simp only [cE,if_neg this]
  simp [aQ]
theorem I6 (S X:ByteArray):(S++X).data.toList=S.data.toList++X.data.toList:=by rw [ByteArray.data_append,Array.toList_append]
theorem sJ (L:List aq) (i:Nat) (h:i<L.length):L.drop i=L[i]::L.drop (i+1):=(List.getElem_cons_drop h).symm
def jS (w wr:World) (v:Value) (O:List aY) (S:ByteArray) (i:Nat) (L:List aq):Prop:=
 aH wr w.heap.size v O∧Below w.heap.size w wr∧O.map aY.t++cE S.data.toList (L.drop i)=bX L
theorem jS.more {w wr:World} {v:Value} {O:List aY} {S:ByteArray} {i:Nat} {L:List aq} (h:jS w wr v O S i L) (hi:i<L.length) (hk:L[i].kind=0) (X:ByteArray) (hX:X.data.toList=L[i].text):jS w wr v O (S++X) (i+1) L:=by
 obtain ⟨h1,h2,h3⟩:=h
 refine ⟨h1,h2,?_⟩
 rw [sJ L i hi,cE,if_pos hk] at h3
 rw [I6,hX];exact h3
theorem jS.empty {w wr:World} {v:Value} {O:List aY} {S:ByteArray} {i:Nat} {L:List aq} (h:jS w wr v O S i L) (hS:S.size=0):jS w wr v O ⟨#[]⟩ i L:=by
 obtain ⟨h1,h2,h3⟩:=h
 have:S.data.toList=[]:=List.eq_nil_of_length_eq_zero (by rw [←Lib.size_eq];exact hS)
 rw [this] at h3
 exact ⟨h1,h2,h3⟩
theorem jS.emit {w wr w1:World} {v v1:Value} {O:List aY} {S:ByteArray} {i:Nat} {L:List aq} (h:jS w wr v O S i L) (hS:S.size≠0) (hd:∀t,(L.drop i).head?=some t→t.kind≠0) (o:Obj) (hown:w1.ownsRow w.heap.size 33 5 v1 (O.length+1) (ag O++ag [⟨d9 S.data.toList,none,0,0⟩])) (hg:(wr.alloc o).grownBy w1 v.ownBlock) (hw:v1.ownBlock=v.ownBlock∨v1.ownBlock=some (wr.heap.size+1)):jS w w1 v1 (O++[⟨d9 S.data.toList,none,0,0⟩]) ⟨#[]⟩ i L:=by
 obtain ⟨h1,h2,h3⟩:=h
 have hne:S.data.toList≠[]:=fun e=>hS (by rw [Lib.size_eq,e];rfl)
 refine ⟨(h1.alloc o).app (R:=[⟨d9 S.data.toList,none,0,0⟩]) (fun q hq=>by
  simp only [List.mem_cons,List.not_mem_nil,or_false] at hq
  subst hq
  exact ⟨⟨rfl,Nat.le_refl _,by simp [maxLen],fun i hi=>by cases hi⟩,.inl rfl⟩) hown hg (by simpa using hw),?_,?_⟩
 ·exact (h2.alloc h2.size o).grown hg (by simp;have:=h2.size;omega) (fun k hk=>(h1.lt k hk).1)
 ·rw [Fu _ _ hd] at h3
  unfold aQ at h3
  rw [if_neg hne] at h3
  rw [List.map_append,List.append_assoc];exact h3
theorem jS.mark {w wr w1:World} {v v1:Value} {O:List aY} {S:ByteArray} {i:Nat} {L:List aq} (h:jS w wr v O S i L) (hS:S.size=0) (hi:i<L.length) (hk:L[i].kind≠0) (ad:Option Addr) (ln cp:Nat) (hq:g8 wr v ⟨L[i],ad,ln,cp⟩) (o:Obj) (hown:w1.ownsRow w.heap.size 33 5 v1 (O.length+1) (ag O++ag [⟨L[i],ad,ln,cp⟩])) (hg:(wr.alloc o).grownBy w1 v.ownBlock) (hw:v1.ownBlock=v.ownBlock∨v1.ownBlock=some (wr.heap.size+1)):jS w w1 v1 (O++[⟨L[i],ad,ln,cp⟩]) S (i+1) L:=by
 obtain ⟨h1,h2,h3⟩:=h
 have he:S.data.toList=[]:=List.eq_nil_of_length_eq_zero (by rw [←Lib.size_eq];exact hS)
 refine ⟨(h1.alloc o).app (R:=[⟨L[i],ad,ln,cp⟩]) (fun q hq'=>by
  simp only [List.mem_cons,List.not_mem_nil,or_false] at hq'
  subst hq'
  exact ⟨hq.1.below ((Below.refl _ wr).alloc (Nat.le_refl _) o) (Nat.le_refl _),hq.2⟩) hown hg (by simpa using hw),?_,?_⟩
 ·exact (h2.alloc h2.size o).grown hg (by simp;have:=h2.size;omega) (fun k hk=>(h1.lt k hk).1)
 ·rw [sJ L i hi,cE,if_neg hk,he] at h3
  rw [he,List.map_append,List.append_assoc];exact h3
theorem vL {w wr:World} {v:Value} {O:List aY} {q:aY} (hr:cf w q.ad q.len q.cap q.t.attrs) (hb:Below w.heap.size w wr) (ho:aH wr w.heap.size v O):g8 wr v q:=by
 refine ⟨hr.below hb (Nat.le_refl _),?_⟩
 by_cases he:q.t.attrs=[]
 ·exact .inl he
 ·refine .inr fun k hk e=>?_
  obtain ⟨x,hx,c1,-⟩:=hr.2.2.2 0 (List.length_pos_iff.2 he)
  have hlt:=block_lt_of_cell c1
  rw [show (x.add (0*2)).block=x.block by unfold Addr.add;split<;>rfl] at hlt
  rw [hx] at hk
  have h1:x.block=k:=by simpa [Value.ownBlock] using hk
  have:=(ho.lt k e).1
  omega
theorem uw (a:Option Addr) (len cap:Nat) (L:List aq) (w:World) (hL:gr w a len cap L) (hlen:len≤2097152) (htx:∀t∈L,t.text.length≤16777216):Calls Tryz.prog 82 #[.slice a len cap] w fun e w'=>∃v Q,e= .returned v∧aH w' w.heap.size v Q∧Q.map aY.t=bX L∧Below w.heap.size w w':=by
 obtain ⟨i0,hi0,hz0,hz1,hz2⟩:=info_parts gL
 have hll:=hL.1
 have HL:=Lib.hid hL
 have HT:=Lib.hid htx
 clear hL htx
 go_enter Tryz.func82,Tryz.ntmps82
 go_wp2
 go_loopw [3,4,5] (fun v3 v4 v5 wr=>∃(i:Nat) (O:List aY) (S:ByteArray),v4= .string S∧v5= .int .i64 (i:Int)∧jS w wr v3 O S i L∧i≤len∧O.length≤i∧S.size≤i*16777216∧Hid (S.size≠0→∃h:i<L.length,L[i].kind=0)) (fun _ _ v _=>len-(ae v).toNat)
 case atStart=>
  exact ⟨0,[],⟨#[]⟩,rfl,rfl,⟨bK _ _,Below.refl _ _,rfl⟩,Nat.zero_le _,Nat.le_refl _,Nat.zero_le _,Lib.hid fun h=>absurd rfl h⟩
 case round=>
  obtain ⟨i,O,S,rfl,rfl,hI,hi,hO,hS,HSK⟩:=hrel
  have HI:=Lib.hid hI
  have HB:=Lib.hid hI.2.1
  clear hI
  by_cases hlt:i<len
  ·obtain ⟨x,ad,ln,cp,rfl,xc,xr⟩:=HL.out.2.2.2 i (by omega)
   have xc':=(xc.below HB.out (Nat.le_refl _)).asked
   obtain ⟨x0,x1,x2,x3,x4⟩:=xc'
   have HXR:=Lib.hid xr
   have htl:=HT.out (L[i]'(by omega)) (List.getElem_mem (by omega))
   have hXt:(⟨(L[i]'(by omega)).text.toArray⟩:ByteArray).data.toList=(L[i]'(by omega)).text:=List.toList_toArray
   have hXs:(⟨(L[i]'(by omega)).text.toArray⟩:ByteArray).size≤16777216:=by rw [Lib.size_eq,hXt];exact htl
   have hiL:i<L.length:=by omega
   simp only at x0 x1 x2 x3 x4
   have HXT:=Lib.hid hXt
   obtain ⟨X,hX⟩:∃X:ByteArray,(⟨(L[i]'hiL).text.toArray⟩:ByteArray)=X:=⟨_,rfl⟩
   have HX:=Lib.hid hX
   rw [hX] at x2 hXs
   have HXT:Hid (X.data.toList=(L[i]'hiL).text):=Lib.hid (by rw [←hX])
   have s1:¬9223372036854775807<S.size+X.size:=by omega
   clear xc xr htl hXt hX
   by_cases hk:(L[i]'hiL).kind=0
   ·rw [hk] at x0
    have HM:=Lib.hid (HI.out.more hiL hk X HXT.out)
    clear hk
    obtain ⟨Y,hY⟩:∃Y,S++X=Y:=⟨_,rfl⟩
    have hYs:Y.size≤(i+1)*16777216:=by rw [←hY,ByteArray.size_append];omega
    rw [hY] at HM
    obtain ⟨j,hj⟩:∃j:Nat,(i:Int)+1=(j:Int):=⟨i+1,by omega⟩
    have hij:i+1=j:=by omega
    have HIJ:=Lib.hid hij
    rw [hij] at HM hYs
    have hjl:j≤len:=by omega
    by_cases hnx:∃h:j<L.length,(L[j]'h).kind=0
    ·obtain ⟨hj2,hk2⟩:=hnx
     obtain ⟨x',ad',ln',cp',hxx,yc,yr⟩:=HL.out.2.2.2 j hj2
     obtain rfl:=Option.some.inj hxx
     obtain ⟨y0,-,-,-,-⟩:=(yc.below HB.out (Nat.le_refl _)).asked
     simp only [hk2] at y0
     have HSK2:=Lib.hid (fun _:Y.size≠0=>(⟨hj2,hk2⟩:∃h:j<L.length,L[j].kind=0))
     have hj3:j<len:=by omega
     clear yc yr hxx hij hk2 hj2
     go_wp2
     go_roundw
     case rel=>exact ⟨j,O,Y,by first|rfl|trivial|go_num,by first|rfl|trivial|go_num,HM.out,by have:=HIJ.out;omega,by have:=HIJ.out;omega,hYs,HSK2⟩
     case measure=>simp [ae];have:=HIJ.out;omega
    ·have hd:∀t,(L.drop j).head?=some t→t.kind≠0:=fun t ht e=>by
      by_cases h2:j<L.length
      ·rw [sJ L j h2,List.head?_cons,Option.some.injEq] at ht
       exact hnx ⟨h2,by rw [ht];exact e⟩
      ·rw [List.drop_eq_nil_of_le (by omega)] at ht;cases ht
     have HD:=Lib.hid hd
     have hway:(¬j<len)∨(j<len∧∃k:Int,(k==0)=false∧wr.cell? (x.add (j*5))=some (.int .i64 k)):=by
      by_cases h2:j<L.length
      ·refine .inr ⟨by omega,(L[j]'h2).kind,beq_eq_false_iff_ne.2 (fun e=>hnx ⟨h2,e⟩),?_⟩
       obtain ⟨x',ad',ln',cp',hxx,yc,yr⟩:=HL.out.2.2.2 j h2
       obtain rfl:=Option.some.inj hxx
       exact (yc.below HB.out (Nat.le_refl _)).c0
      ·exact .inl (by omega)
     have HO:=Lib.hid HM.out.1
     have hbs:=HB.out.size
     clear hd hnx hij
     by_cases hY0:Y.size=0
     ·have HM0:=Lib.hid (HM.out.empty hY0)
      obtain rfl:Y=⟨#[]⟩:=bl (by rw [show Y.data.toList=[] from List.eq_nil_of_length_eq_zero (by rw [←Lib.size_eq];exact hY0)])
      clear hY0
      rcases hway with h1|⟨h1,k,h2,h3⟩
      all_goals
       go_wp2
       go_roundw
       case rel=>exact ⟨j,O,⟨#[]⟩,by first|rfl|trivial|go_num,by first|rfl|trivial|go_num,HM0.out,by have:=HIJ.out;omega,by have:=HIJ.out;omega,Nat.zero_le _,Lib.hid fun h=>absurd rfl h⟩
       case measure=>simp [ae];have:=HIJ.out;omega
     ·have HY0:=Lib.hid hY0
      have hne:¬Y.toList=[]:=fun e=>hY0 (by rw [ByteArray.toList_eq] at e;rw [Lib.size_eq,e];rfl)
      have hem:Y.toList.isEmpty=false:=by
       cases h:Y.toList with
       |nil=>exact absurd h hne
       |cons a l=>rfl
      clear hY0
      rcases hway with h1|⟨h1,k,h2,h3⟩
      all_goals
       go_wp2_with (at_builtin;refine wpList_append_own_at _ rfl _ _ 29 rfl w.heap.size 33 i0 _ 5 72 Tryz.underlying29 hi0 hz0 hz1 hz2 rfl (by decide) _ O.length (ag O) rfl (HO.out.alloc _).1 ⟨wr.heap.size,0,none⟩ 1 1 (ag [⟨d9 Y.data.toList,none,0,0⟩]) rfl rfl ?c1 ?c2 ?c3 ?c4 ?c5 ?_)
       case c1=>first|exact sy _ ⟨d9 Y.data.toList,none,0,0⟩ _|(intro j u hj;rw [bt] at hj;exact hj)
       case c2=>exact dl _
       case c3=>first|(simp [maxLen];omega)|omega
       case c4=>omega
       case c5=>first|omega|(simp;omega)
       intro v1 w1 hown1 hgr1 _ hat1
       have HE:=Lib.hid (HM.out.emit HY0.out HD.out _ hown1 hgr1 hat1)
       clear hown1 hgr1 hat1
       go_wp2
       go_roundw
       case rel=>exact ⟨j,O++[⟨d9 Y.data.toList,none,0,0⟩],⟨#[]⟩,by first|rfl|trivial|go_num,by first|rfl|trivial|go_num,HE.out,by have:=HIJ.out;omega,by have:=HIJ.out;simp;omega,Nat.zero_le _,Lib.hid fun h=>absurd rfl h⟩
       case measure=>simp [ae];have:=HIJ.out;omega
   ·have hS0:S.size=0:=Classical.byContradiction fun h=>by
     obtain ⟨_,e⟩:=HSK.out h
     exact hk e
    have HO:=Lib.hid HI.out.1
    have hbs:=HB.out.size
    have HQ:=Lib.hid (vL (q:=⟨(L[i]'hiL),ad,ln,cp⟩) HXR.out HB.out HO.out)
    have HS0:=Lib.hid hS0
    have HK:=Lib.hid hk
    have bk:((L[i]'hiL).kind==0)=false:=beq_eq_false_iff_ne.2 hk
    obtain ⟨q,hq⟩:∃q:aY,(⟨(L[i]'hiL),ad,ln,cp⟩:aY)=q:=⟨_,rfl⟩
    have HQQ:=Lib.hid hq
    have f0:Value.int IntKind.i64 (L[i]'hiL).kind= .int .i64 q.t.kind:=by rw [←hq]
    have f1:Value.string ⟨(L[i]'hiL).name.toArray⟩= .string ⟨q.t.name.toArray⟩:=by rw [←hq]
    have f2:Value.string X= .string ⟨q.t.text.toArray⟩:=by rw [←hq,←HX.out]
    have f3:Value.slice ad ln cp= .slice q.ad q.len q.cap:=by rw [←hq]
    have f4:Value.bool (L[i]'hiL).self= .bool q.t.self:=by rw [←hq]
    rw [f0] at x0
    rw [f1] at x1
    rw [f2] at x2
    rw [f3] at x3
    rw [f4] at x4
    have bk:(q.t.kind==0)=false:=by rw [←hq];exact bk
    clear hk hS0 hq f0 f1 f2 f3 f4 s1 hXs
    go_wp2_with (at_builtin;refine wpList_append_own_at _ rfl _ _ 29 rfl w.heap.size 33 i0 _ 5 72 Tryz.underlying29 hi0 hz0 hz1 hz2 rfl (by decide) _ O.length (ag O) rfl (HO.out.alloc _).1 ⟨wr.heap.size,0,none⟩ 1 1 (ag [q]) rfl rfl ?c1 ?c2 ?c3 ?c4 ?c5 ?_)
    case c1=>first|exact sy _ q _|(intro j u hj;rw [bt] at hj;exact hj)
    case c2=>exact dl _
    case c3=>first|(simp [maxLen];omega)|omega
    case c4=>omega
    case c5=>first|omega|(simp;omega)
    intro v1 w1 hown1 hgr1 _ hat1
    rw [←HQQ.out] at hown1
    have HE:=Lib.hid (HI.out.mark HS0.out hiL HK.out ad ln cp HQ.out _ hown1 hgr1 hat1)
    clear hown1 hgr1 hat1
    go_wp2
    go_roundw
    case rel=>exact ⟨i+1,_,S,by first|rfl|trivial|go_num,by first|rfl|trivial|go_num,HE.out,by omega,by simp;omega,by rw [HS0.out];exact Nat.zero_le _,Lib.hid fun h=>absurd HS0.out h⟩
    case measure=>simp [ae];omega
  ·have hil:i=len:=by omega
   have hS0:S.size=0:=Classical.byContradiction fun h=>by
    obtain ⟨h2,-⟩:=HSK.out h
    omega
   have HT2:Hid (O.map aY.t=bX L):=Lib.hid (by
    have h:=HI.out.2.2
    rw [List.drop_eq_nil_of_le (by omega)] at h
    have he:S.data.toList=[]:=List.eq_nil_of_length_eq_zero (by rw [←Lib.size_eq];exact hS0)
    rw [he] at h
    simpa [cE,aQ] using h)
   have HO:=Lib.hid HI.out.1
   clear HI hS0
   go_wp2
   go_ret
   exact ⟨_,O,rfl,HO.out,HT2.out,HB.out⟩
end Go.Proofs.YtajpoodpbbbkfaaGreatDoor
namespace Go.Proofs.YtajpoodpbbbkfaaGreatDoor
open Go.RowKit Go.Lib
theorem pW (X:ab) (h:X≠[]):¬(⟨X.toArray⟩:ByteArray).toList=[]∧(⟨X.toArray⟩:ByteArray).toList.isEmpty=false∧X.isEmpty=false:=by
 have e:(⟨X.toArray⟩:ByteArray).toList=X:=by rw [ByteArray.toList_eq,List.toList_toArray]
 rw [e]
 have h2:X.isEmpty=false:=by
  cases X with
  |nil=>exact absurd rfl h
  |cons c l=>rfl
 exact ⟨h,h2,h2⟩
theorem ux (s:ByteArray) (a st:Int) (nm:ByteArray) (w:World) (hs:s.size≤1048576) (hn:nm.size≤1048576) (ha: -9223372036854775808≤a∧a≤9223372036854775807):Calls Tryz.prog 81 #[.string s,.int .i64 a,.int .i64 st,.string nm] w fun e w'=>∃v Q n,e= .returned (.tuple #[v,.int .i64 ((n:Nat):Int)])∧aH w' w.heap.size v Q∧(Q.map aY.t,n)=ge st nm.data.toList s.data.toList a∧Q.length≤2∧Below w.heap.size w w':=by
 obtain ⟨i0,hi0,hz0,hz1,hz2⟩:=info_parts gL
 have hks:=gS s.data.toList a
 have hmx:max (0:Int) (min a (s.size:Int))=((jv s.data.toList a:Nat):Int):=by
  rw [Lib.size_eq];unfold jv;omega
 rw [qG]
 obtain ⟨k,hk⟩:∃k,jv s.data.toList a=k:=⟨_,rfl⟩
 rw [hk] at hks hmx⊢
 have hkk:k≤1048576:=by rw [←Lib.size_eq] at hks;omega
 by_cases hin:1≤st∧st≤4
 ·obtain ⟨t1,t2,t3⟩:=pS st nm.data.toList s.data.toList k hks hin
  rw [←Lib.size_eq] at hks t1 t2 t3
  obtain ⟨R,hR⟩:∃R,ge st nm.data.toList s.data.toList (k:Int)=R:=⟨_,rfl⟩
  rw [hR] at t2 t3⊢
  have hd:(s.data.toList.drop k).length=s.size-k:=by rw [List.length_drop,←Lib.size_eq]
  have hsays:fb st nm.data.toList (s.data.toList.drop k)=kF (decide (st=1)) (s.extract k (k+aG st nm.data.toList (s.data.toList.drop k))).data.toList:=by
   unfold fb;rw [Lib.extract_data,Nat.add_sub_cancel_left]
  have hE:aG st nm.data.toList (s.data.toList.drop k)=(if st=1∨st=2 then fs nm.data.toList (s.data.toList.drop k) else if st=3 then (dg 0 0 (s.data.toList.drop k)).1 else (s.data.toList.drop k).length):=rfl
  obtain ⟨D,hD⟩:∃D,aG st nm.data.toList (s.data.toList.drop k)=D:=⟨_,rfl⟩
  rw [hD] at t1 t2 t3 hsays hE
  obtain ⟨E,hEE⟩:∃E,k+D=E:=⟨_,rfl⟩
  rw [hEE] at t1 t2 t3 hsays
  have hkE:k≤E:=by omega
  have hEs:E≤1048576:=by omega
  obtain ⟨X,hX⟩:∃X,fb st nm.data.toList (s.data.toList.drop k)=X:=⟨_,rfl⟩
  rw [hX] at t2 t3 hsays
  have T2:=Lib.hid t2
  have T3:=Lib.hid t3
  have R9:=fun w=>Lib.hid (m0 s (E:Int) w hs (by omega))
  clear t2 t3 hD hX hR hk
  have HTX:=fun (r:Bool) w=>Lib.hid (ut (s.extract k E) r w (by rw [ByteArray.size_extract];omega))
  have hways:st=1∨st=2∨st=3∨st=4:=by omega
  rcases hways with rfl|rfl|rfl|rfl
  focus
   rw [if_pos (by decide)] at hE
   have HF:=fun w=>Lib.hid (na s (k:Int) nm w hs hn (by omega))
   rw [fa _ _ _ (by rw [←Lib.size_eq];exact hks),←hE,hEE] at HF
   have HT1:=HTX true
   rw [show kF true (s.extract k E).data.toList=X from hsays.symm] at HT1
  rotate_left
  focus
   rw [if_pos (by decide)] at hE
   have HF:=fun w=>Lib.hid (na s (k:Int) nm w hs hn (by omega))
   rw [fa _ _ _ (by rw [←Lib.size_eq];exact hks),←hE,hEE] at HF
   have HT1:=HTX false
   rw [show kF false (s.extract k E).data.toList=X from hsays.symm] at HT1
  rotate_left
  focus
   rw [if_neg (by decide),if_pos rfl] at hE
   have HF:=fun w=>Lib.hid (uu s (k:Int) w hs (by omega))
   rw [DU _ _ (by rw [←Lib.size_eq];exact hks),←hE,hEE] at HF
   have HT1:=HTX false
   rw [show kF false (s.extract k E).data.toList=X from hsays.symm] at HT1
  rotate_left
  ·rw [if_neg (by decide),if_neg (by decide)] at hE
   obtain rfl:E=s.size:=by omega
   have HT1:=fun w=>Lib.hid (bc (s.extract k s.size) w (by rw [ByteArray.size_extract];omega))
   rw [show ap (s.extract k s.size).data.toList=X from hsays.symm] at HT1
   clear HTX hsays hE hEE hd hin ha
   go_enter Tryz.func81,Tryz.ntmps81
   go_wp2_with (fail)
   refine (HT1 _).out.mono ?_
   rintro e w2 ⟨rfl,c2⟩
   have B2:=Lib.hid c2
   clear c2 hmx
   by_cases hX0:X=[]
   ·obtain rfl:=hX0
    have HRR:=Lib.hid (T2.out (by first|rfl|trivial))
    go_wp2
    go_ret2
    exact ⟨.slice none 0 0,[],_,rfl,bK _ _,by rw [HRR.out];rfl,by simp,B2.out⟩
   ·have hne:=pW X hX0
    obtain ⟨hne1,hne2,hne3⟩:=hne
    have HX0:=Lib.hid hX0
    have HRR:=Lib.hid (T2.out (by first|rfl|trivial))
    have HO0:=Lib.hid ((bK w2 w.heap.size).alloc (.cells #[.int .i64 0,.string ⟨#[]⟩,.string ⟨X.toArray⟩,.slice none 0 0,.bool false] 33))
    have hbs0:=B2.out.size
    go_wp2_with (at_builtin;refine wpList_append_own_at _ rfl _ _ 29 rfl w.heap.size 33 i0 _ 5 72 Tryz.underlying29 hi0 hz0 hz1 hz2 rfl (by decide) _ 0 (ag []) rfl (HO0.out).1 ⟨w2.heap.size,0,none⟩ 1 1 (ag [⟨⟨0,[],X,[],false⟩,none,0,0⟩]) rfl rfl ?c1 ?c2 ?c3 ?c4 ?c5 ?_)
    case c1=>first|exact bW _ ⟨⟨0,[],X,[],false⟩,none,0,0⟩ _ _ (by simp)|(intro j u hj;rw [bt] at hj;exact hj)
    case c2=>exact dl _
    case c3=>first|(simp [maxLen];done)|(simp [maxLen];omega)|omega
    case c4=>first|decide|omega
    case c5=>first|omega|(simp;omega)
    intro v3 w3 hown1 hgr1 _ hat1
    have HP3:=Lib.hid (dc (Q:=[]) HO0.out (nA _ _ X) (B2.out.alloc hbs0 _) (Nat.le_refl _) hown1 hgr1 (by simpa using hat1))
    clear hown1 hgr1 hat1 hne1 hne2 hne3 hX0 hbs0
    go_wp2
    go_ret2
    exact ⟨v3,_,_,rfl,HP3.out.1,by rw [HRR.out];simp [aQ,d9,HX0.out],by simp,HP3.out.2⟩
  all_goals
   clear HTX hsays hE hEE hd hin ha
   go_enter Tryz.func81,Tryz.ntmps81
   go_wp2_with (fail)
   refine (HF _).out.mono ?_
   rintro e w1 ⟨rfl,c1⟩
   have B1:=Lib.hid c1
   go_wp2_with (fail)
   refine (HT1 _).out.mono ?_
   rintro e w2 ⟨rfl,c2⟩
   have B2:=Lib.hid (B1.out.trans (c2.mono B1.out.size))
   clear c1 c2 hmx
   by_cases hX0:X=[]
   ·obtain rfl:=hX0
    have HX0:=Lib.hid (rfl:([]:ab)=[])
    have HOC:=Lib.hid (bK w2 w.heap.size)
    have BC:=Lib.hid B2.out
    have hbs:=BC.out.size
    by_cases hlt:E<s.size
    ·have hb:((E:Int)==(s.size:Int))=false:=by rw [beq_eq_false_iff_ne];omega
     go_wp2_with (fail)
     refine (R9 _).out.mono ?_
     rintro e w5 ⟨t,ad,len,cap,n,ok,rfl,hr,hv,b5,hf⟩
     obtain ⟨r1,r2⟩:=T3.out hlt t n ok hv
     have HO5:=Lib.hid (HOC.out.below b5)
     have HA5:=Lib.hid (iA (q:=⟨t,ad,len,cap⟩) HOC.out hr hf)
     have B5:=Lib.hid (BC.out.trans (b5.mono BC.out.size))
     have hbs5:=B5.out.size
     obtain ⟨R1,R2⟩:=R
     simp only at r1 r2
     subst r2
     have HR1:=Lib.hid r1
     clear hv b5 hr hf r1
     unfold eu
     cases ok
     ·go_wp2
      go_ret2
      exact ⟨.slice none 0 0,[],R2,rfl,HO5.out.alloc _,by rw [HR1.out];simp [aQ],by simp,B5.out.alloc hbs5 _⟩
     ·have HO6:=Lib.hid ((HO5.out.alloc (.cells #[.int .i64 t.kind,.string ⟨t.name.toArray⟩,.string ⟨t.text.toArray⟩,.slice ad len cap,.bool t.self] 33)).alloc (.cells #[.int .i64 t.kind,.string ⟨t.name.toArray⟩,.string ⟨t.text.toArray⟩,.slice ad len cap,.bool t.self] 33))
      go_wp2_with (at_builtin;refine wpList_append_own_at _ rfl _ _ 29 rfl w.heap.size 33 i0 _ 5 72 Tryz.underlying29 hi0 hz0 hz1 hz2 rfl (by decide) _ 0 (ag []) rfl (HO6.out).1 ⟨w5.heap.size+1,0,none⟩ 1 1 (ag [⟨t,ad,len,cap⟩]) rfl rfl ?c1 ?c2 ?c3 ?c4 ?c5 ?_)
      case c1=>first|exact bW _ ⟨t,ad,len,cap⟩ _ _ (by simp)|(intro j u hj;rw [bt] at hj;exact hj)
      case c2=>exact dl _
      case c3=>first|(simp [maxLen];done)|(simp [maxLen];omega)|omega
      case c4=>first|decide|omega
      case c5=>first|omega|(simp;omega)
      intro v6 w6 hown1 hgr1 _ hat1
      have HP:=Lib.hid (dc HO6.out (HA5.out.below (((Below.refl _ w5).alloc (Nat.le_refl _) _).alloc (by simp) _)) ((B5.out.alloc hbs5 _).alloc (by simp;omega) _) (Nat.le_refl _) hown1 hgr1 (by simpa using hat1))
      clear hown1 hgr1 hat1
      go_wp2
      go_ret2
      exact ⟨v6,[]++[⟨t,ad,len,cap⟩],R2,rfl,HP.out.1,by rw [HR1.out];simp [aQ],by simp,HP.out.2⟩
    ·obtain rfl:E=s.size:=by omega
     have HRR:=Lib.hid (T2.out (by first|rfl|trivial))
     go_wp2
     go_ret2
     exact ⟨.slice none 0 0,[],_,rfl,HOC.out,by rw [HRR.out];rfl,by simp,BC.out⟩
   ·have hne:=pW X hX0
    obtain ⟨hne1,hne2,hne3⟩:=hne
    have HX0:=Lib.hid hX0
    have HO0:=Lib.hid ((bK w2 w.heap.size).alloc (.cells #[.int .i64 0,.string ⟨#[]⟩,.string ⟨X.toArray⟩,.slice none 0 0,.bool false] 33))
    have hbs0:=B2.out.size
    go_wp2_with (at_builtin;refine wpList_append_own_at _ rfl _ _ 29 rfl w.heap.size 33 i0 _ 5 72 Tryz.underlying29 hi0 hz0 hz1 hz2 rfl (by decide) _ 0 (ag []) rfl (HO0.out).1 ⟨w2.heap.size,0,none⟩ 1 1 (ag [⟨⟨0,[],X,[],false⟩,none,0,0⟩]) rfl rfl ?c1 ?c2 ?c3 ?c4 ?c5 ?_)
    case c1=>first|exact bW _ ⟨⟨0,[],X,[],false⟩,none,0,0⟩ _ _ (by simp)|(intro j u hj;rw [bt] at hj;exact hj)
    case c2=>exact dl _
    case c3=>first|(simp [maxLen];done)|(simp [maxLen];omega)|omega
    case c4=>first|decide|omega
    case c5=>first|omega|(simp;omega)
    intro v3 w3 hown1 hgr1 _ hat1
    have HP3:=Lib.hid (dc (Q:=[]) HO0.out (nA _ _ X) (B2.out.alloc hbs0 _) (Nat.le_refl _) hown1 hgr1 (by simpa using hat1))
    have HOC:=Lib.hid (show aH w3 w.heap.size v3 [⟨⟨0,[],X,[],false⟩,none,0,0⟩] from HP3.out.1)
    have BC:=Lib.hid HP3.out.2
    have hbs:=BC.out.size
    clear hown1 hgr1 hat1 hne1 hne2 hne3 hX0 hbs0
    by_cases hlt:E<s.size
    ·have hb:((E:Int)==(s.size:Int))=false:=by rw [beq_eq_false_iff_ne];omega
     go_wp2_with (fail)
     refine (R9 _).out.mono ?_
     rintro e w5 ⟨t,ad,len,cap,n,ok,rfl,hr,hv,b5,hf⟩
     obtain ⟨r1,r2⟩:=T3.out hlt t n ok hv
     have HO5:=Lib.hid (HOC.out.below b5)
     have HA5:=Lib.hid (iA (q:=⟨t,ad,len,cap⟩) HOC.out hr hf)
     have B5:=Lib.hid (BC.out.trans (b5.mono BC.out.size))
     have hbs5:=B5.out.size
     obtain ⟨R1,R2⟩:=R
     simp only at r1 r2
     subst r2
     have HR1:=Lib.hid r1
     clear hv b5 hr hf r1
     unfold eu
     cases ok
     ·go_wp2
      go_ret2
      exact ⟨v3,[⟨⟨0,[],X,[],false⟩,none,0,0⟩],R2,rfl,HO5.out.alloc _,by rw [HR1.out];simp [aQ,d9,HX0.out],by simp,B5.out.alloc hbs5 _⟩
     ·have HO6:=Lib.hid ((HO5.out.alloc (.cells #[.int .i64 t.kind,.string ⟨t.name.toArray⟩,.string ⟨t.text.toArray⟩,.slice ad len cap,.bool t.self] 33)).alloc (.cells #[.int .i64 t.kind,.string ⟨t.name.toArray⟩,.string ⟨t.text.toArray⟩,.slice ad len cap,.bool t.self] 33))
      go_wp2_with (at_builtin;refine wpList_append_own_at _ rfl _ _ 29 rfl w.heap.size 33 i0 _ 5 72 Tryz.underlying29 hi0 hz0 hz1 hz2 rfl (by decide) _ 1 (ag [⟨⟨0,[],X,[],false⟩,none,0,0⟩]) rfl (HO6.out).1 ⟨w5.heap.size+1,0,none⟩ 1 1 (ag [⟨t,ad,len,cap⟩]) rfl rfl ?c1 ?c2 ?c3 ?c4 ?c5 ?_)
      case c1=>first|exact bW _ ⟨t,ad,len,cap⟩ _ _ (by simp)|(intro j u hj;rw [bt] at hj;exact hj)
      case c2=>exact dl _
      case c3=>first|(simp [maxLen];done)|(simp [maxLen];omega)|omega
      case c4=>first|decide|omega
      case c5=>first|omega|(simp;omega)
      intro v6 w6 hown1 hgr1 _ hat1
      have HP:=Lib.hid (dc HO6.out (HA5.out.below (((Below.refl _ w5).alloc (Nat.le_refl _) _).alloc (by simp) _)) ((B5.out.alloc hbs5 _).alloc (by simp;omega) _) (Nat.le_refl _) hown1 hgr1 (by simpa using hat1))
      clear hown1 hgr1 hat1
      go_wp2
      go_ret2
      exact ⟨v6,[⟨⟨0,[],X,[],false⟩,none,0,0⟩]++[⟨t,ad,len,cap⟩],R2,rfl,HP.out.1,by rw [HR1.out];simp [aQ,d9,HX0.out],by simp,HP.out.2⟩
    ·obtain rfl:E=s.size:=by omega
     have HRR:=Lib.hid (T2.out (by first|rfl|trivial))
     go_wp2
     go_ret2
     exact ⟨v3,_,_,rfl,HOC.out,by rw [HRR.out];simp [aQ,d9,HX0.out],by simp,BC.out⟩
 ·rw [vJ st _ _ k hks hin]
  have e1:(st==1)=false:=by rw [beq_eq_false_iff_ne];omega
  have e2:(st==2)=false:=by rw [beq_eq_false_iff_ne];omega
  have e3:(st==3)=false:=by rw [beq_eq_false_iff_ne];omega
  have e4:(st==4)=false:=by rw [beq_eq_false_iff_ne];omega
  clear hin hk hks ha
  go_enter Tryz.func81,Tryz.ntmps81
  go_wp2
  go_ret2
  exact ⟨.slice none 0 0,[],k,rfl,bK _ _,rfl,by simp,Below.refl _ _⟩
end Go.Proofs.YtajpoodpbbbkfaaGreatDoor
namespace Go.Proofs.YtajpoodpbbbkfaaGreatDoor
open Go.RowKit Go.Lib
end Go.Proofs.YtajpoodpbbbkfaaGreatDoor
