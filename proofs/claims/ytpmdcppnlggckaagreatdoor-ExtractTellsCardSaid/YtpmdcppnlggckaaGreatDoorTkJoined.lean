/-
  What package tok's Join answers.
-/
import Derived.Test.YtpmdcppnlggckaaGreatDoorTkAhead
set_option maxHeartbeats 2000000
set_option maxRecDepth 100000
namespace Go.Proofs.YtpmdcppnlggckaaGreatDoor
open Go.RowKit Go.Lib
theorem vk (n c:Nat) (w:World):Calls Tryz.prog 53 #[.slice none n c] w fun e w'=>e= .returned (.slice none 0 0)∧w'=w:=by
 have HC:=fun w=>Lib.hid (zO w n c)
 have HD:=fun w=>Lib.hid (sr w (.func (.func 96) #[] #[]))
 go_enter Tryz.func53,Tryz.ntmps53
 go_wp2_with (fail)
 refine (HC _).out.mono ?_
 rintro e w1 ⟨rfl,rfl⟩
 go_wp2_with (fail)
 refine (HD _).out.mono ?_
 rintro e w1 ⟨rfl,rfl⟩
 go_wp2
 go_loopw [3,4] (fun v3 v4 wr=>v3= .slice none 0 0∧v4= .slice none 0 0∧w1=wr) (fun _ _ _=>0)
 case atStart=>exact ⟨rfl,rfl,rfl⟩
 case round=>
  obtain ⟨rfl,rfl,rfl⟩:=hrel
  go_wp2
  go_ret
  exact ⟨rfl,rfl⟩
theorem Ls : (Tryz.prog.info? 9).map (·.size) = some 1 := by kernel_rfl
theorem GH {w:World} {g:Nat} {X:ByteArray} {S:ab} {ad:Option Addr} {ln cp:Nat} (h:w.heap[g]? =some (.cells ((#[.int .i64 0,.string ⟨#[]⟩,.string X,.slice ad ln cp,.bool false]:Array Value).setIfInBounds 2 (.string ⟨S.toArray⟩)) 54 (0,0))):eZ w g ⟨0,[],S,[],false⟩ ad ln cp:=by
 have e:(#[.int .i64 0,.string ⟨#[]⟩,.string X,.slice ad ln cp,.bool false]:Array Value).setIfInBounds 2 (.string ⟨S.toArray⟩)=#[.int .i64 0,.string ⟨#[]⟩,.string ⟨S.toArray⟩,.slice ad ln cp,.bool false]:=rfl
 rw [e] at h
 exact aJ h
theorem ie {ops:Array Oper} {rest:List Oper} {o:Oper} {a:Act} {w:World} {Q:Exit→Act→World→Prop} (hg:o.guard=none) (x y:Operand) (ho:o.op= .store 9 x y) (g:Nat) (X:ByteArray) (S:ab) (ad:Option Addr) (ln cp:Nat) (hx:a.eval x= .pointer (some ⟨g,2,none⟩)) (hy:a.eval y= .string ⟨S.toArray⟩) (hb:w.heap[g]? =some (.cells #[.int .i64 0,.string ⟨#[]⟩,.string X,.slice ad ln cp,.bool false] 54 (0,0))) (hK:∀w',eZ w' g ⟨0,[],S,[],false⟩ ad ln cp→w.grownBy w' (some g)→wpList Tryz.prog ops Q rest (a.put o.dst undef) w'):wpList Tryz.prog ops Q (o::rest) a w:=
 iS hg 9 x y ho g 2 (.string ⟨S.toArray⟩) 54 hx hy _ hb (by simp) Ls rfl rfl (fun w' h1 h2=>hK w' (GH h1) h2)
theorem jh {ops:Array Oper} {rest:List Oper} {o:Oper} {a:Act} {w:World} {Q:Exit→Act→World→Prop} (hg:o.guard=none) (x:Operand) (ho:o.op= .load 54 x) (g:Nat) (S:ab) (ad:Option Addr) (ln cp:Nat) (hx:a.eval x= .pointer (some ⟨g,0,none⟩)) (hT:eZ w g ⟨0,[],S,[],false⟩ ad ln cp) (hK:wpList Tryz.prog ops Q rest (a.put o.dst (.agg #[.int .i64 0,.string ⟨#[]⟩,.string ⟨S.toArray⟩,.slice ad ln cp,.bool false])) w):wpList Tryz.prog ops Q (o::rest) a w:=
 ci hg x ho g ⟨0,[],S,[],false⟩ ad ln cp hx hT hK
theorem yz (B:Nat) (x:Addr) (len cap:Nat) (L:List am) (w:World) (hL:bS w B (some x) len cap L) (hlen:len≤2097152) (htx:∀t∈L,t.text.length≤16777216) (hj:∀t∈L,iZ t):Calls Tryz.prog 53 #[.slice (some x) len cap] w fun e w'=>∃v Q,e= .returned v∧aE w' w.heap.size v Q∧Q.map aV.t=bN L∧(∀q∈Q,ic B q)∧Below w.heap.size w w':=by
 obtain ⟨i0,hi0,hz0,hz1,hz2⟩:=info_parts fP
 obtain ⟨T,hT⟩:∃T,bN L=T:=⟨_,rfl⟩
 rw [hT]
 have HTT:=Lib.hid hT
 clear hT
 have HC:=fun w h=>Lib.hid (zQ w B x len cap L h hlen)
 have HT:=Lib.hid htx
 have HJ:=Lib.hid hj
 have HL:=Lib.hid hL
 clear hL htx hj
 go_enter Tryz.func53,Tryz.ntmps53
 go_wp2_with (fail)
 refine (HC _ HL.out).out.mono ?_
 rintro e w1 ⟨g,c1,Q,R,rfl,hg,hrow,hQ1,hQ2,hQ3,b1⟩
 have HROW:=Lib.hid hrow
 have HG:=Lib.hid hg
 have HQ1:=Lib.hid hQ1
 have HQ3:=Lib.hid hQ3
 have HB1:=Lib.hid b1
 have HQ2:=Lib.hid hQ2
 clear hrow hg hQ1 hQ2 hQ3 b1 HC HL
 have HD:=fun w1 h=>Lib.hid (ss w.heap.size g c1 len Q R w1 h HQ2.out HG.out)
 go_wp2_with (fail)
 refine (HD _ HROW.out).out.mono ?_
 rintro e w2 ⟨E,m,rfl,hrow,hm,hE,htk,b2⟩
 have HB2:=Lib.hid (HB1.out.trans b2)
 have hs2:=HB2.out.size
 have HK1:Hid ((E.take m).map aV.t=L.filter fun t=> !du t):=Lib.hid (by rw [htk,Ft,HQ1.out])
 have HT0:=Lib.hid (hrow.toks (B:=B) m (by omega) (fun q hq=>HQ3.out q (by
  rw [htk] at hq
  exact (List.mem_filter.1 hq).1)))
 rw [HK1.out] at HT0
 have HS0:Hid (bN (L.filter fun t=> !du t)=T):=Lib.hid (by rw [←HTT.out];exact mX L [])
 have HP0:Hid (∀t∈L.filter (fun t=> !du t),du t=false∧iZ t∧t.text.length≤16777216):=Lib.hid (fun t ht=>by
  obtain ⟨h1,h2⟩:=List.mem_filter.1 ht
  exact ⟨by simpa using h2,HJ.out t h1,HT.out t h1⟩)
 have hm2:m≤2097152:=by omega
 clear hrow hm hE htk b2 HK1 HTT HROW HQ1 HQ2 HQ3 HB1 HD HT HJ
 go_wp2
 go_loopw [3,4] (fun v3 v4 wr=>∃(K:List am) (a':Option Addr) (m' c':Nat) (O:List aV),v3= .slice a' m' c'∧Hid (bS w2 B a' m' c' K)∧aE wr w2.heap.size v4 O∧Below w2.heap.size w2 wr∧O.length+m'≤2097152∧Hid (O.map aV.t++bN K=T)∧Hid (∀q∈O,ic B q)∧Hid (∀t∈K,du t=false∧iZ t∧t.text.length≤16777216)) (fun v _ _=>yt v)
 case atStart=>exact ⟨_,_,m,c1,[],rfl,HT0,bE _ _,Below.refl _ _,by simp;omega,HS0,Lib.hid (fun q h=>by cases h),HP0⟩
 case round=>
  obtain ⟨K,a',m',c',O,rfl,HTK,ho,hb,hom,HS,HN,HP⟩:=hrel
  have HO:=Lib.hid ho
  have HB:=Lib.hid hb
  have hbs:=hb.size
  clear ho hb HT0 HS0 HP0
  cases K with
  |nil=>
   obtain rfl:m'=0:=HTK.out.1.symm
   have HS1:Hid (O.map aV.t=T):=Lib.hid (by
    have h:=HS.out
    rw [show bN []=[] from rfl,List.append_nil] at h
    exact h)
   have HB9:=Lib.hid (HB2.out.trans (HB.out.mono hs2))
   have HO9:=Lib.hid (HO.out.base hs2)
   clear HS
   go_wp2
   go_ret
   exact ⟨_,O,rfl,HO9.out,HS1.out,HN.out,HB9.out⟩
  |cons t K=>
   have hml:K.length+1=m':=HTK.out.1
   have hmc:=HTK.out.2.1
   have hcm:=HTK.out.2.2.1
   unfold maxLen at hcm
   obtain ⟨y,ad,ln,cp,rfl,xc,xr,xn⟩:=HTK.out.2.2.2 0 (Nat.succ_pos _)
   simp only [List.getElem_cons_zero] at xc xr xn
   obtain ⟨x0,x1,x2,x3,x4⟩:=(xc.below HB.out (Nat.le_refl _)).asked
   have e0:y.add (0*5)=y:=rfl
   rw [e0] at x0 x1 x2 x3 x4
   obtain ⟨p1,p2,p3⟩:=HP.out t (.head _)
   have HPK:∀k,Hid (∀u∈(t::K).drop k,du u=false∧iZ u∧u.text.length≤16777216):=fun k=>Lib.hid (fun u hu=>HP.out u (List.mem_of_mem_drop hu))
   have hp1:1≤m':=by omega
   clear xc e0
   by_cases hk:t.kind=0
   ·obtain ⟨q1,q2,q3⟩:=p2 hk
    have HA:=fun w h=>Lib.hid (su (some y) m' c' (t::K) w h (by omega) (fun u hu=>(HP.out u hu).2.2))
    have hjt:=zu t K hk p1
    have hpos:=Cv t K hk
    have hle:=xp (t::K)
    rw [List.length_cons] at hle
    obtain ⟨N,hN⟩:∃N,(cU (t::K)).1=N:=⟨_,rfl⟩
    obtain ⟨S,hS⟩:∃N,(cU (t::K)).2=N:=⟨_,rfl⟩
    rw [hN] at hpos hle hjt HA
    rw [hS] at hjt HA
    rw [hk] at x0
    rw [q1] at x1
    rw [q3] at x4
    rw [q2] at xr
    have HXR:=Lib.hid xr
    have HS1:Hid ((O++[(⟨⟨0,[],S,[],false⟩,ad,ln,cp⟩:aV)]).map aV.t++bN ((t::K).drop N)=T):=Lib.hid (by
     have h:=HS.out
     rw [hjt] at h
     rw [List.map_append,List.append_assoc];exact h)
    have HN1:Hid (∀q∈O++[(⟨⟨0,[],S,[],false⟩,ad,ln,cp⟩:aV)],ic B q):=Lib.hid (fun q hq=>by
     rcases List.mem_append.1 hq with h|h
     ·exact HN.out q h
     ·rw [List.mem_singleton.1 h];exact .inl rfl)
    have hNm:N≤m':=by omega
    have hol:O.length+1+(m'-N)≤2097152:=by omega
    have HCUT:=Lib.hid (HTK.out.cut N hNm)
    have HD:=Lib.hid (show c'=N→(t::K).drop N=[] from fun e=>List.drop_eq_nil_of_le (by rw [List.length_cons];omega))
    have HPN:=HPK N
    have HI1:=Lib.hid (HTK.out.toks.below HB.out (Nat.le_refl _))
    clear hk q1 q2 q3 p1 p2 p3 hjt hle hN hS xr xn hml HPK HS HN
    obtain ⟨X,hX⟩:∃X:ByteArray,(⟨t.text.toArray⟩:ByteArray)=X:=⟨_,rfl⟩
    rw [hX] at x2
    clear hX
    go_wp2_with (fail)
    refine (HA _ (HI1.out.below ((Below.refl _ wr).alloc (Nat.le_refl _) _) (Nat.le_refl _))).out.mono ?_
    rintro e w5 ⟨rfl,b5⟩
    have HBX:=Lib.hid ((b5.block wr.heap.size (by simp)).trans (heap_alloc_new wr _))
    have B5:=Lib.hid (((Below.refl _ wr).alloc (Nat.le_refl _) _).trans (b5.mono (by simp)))
    clear b5 HA HI1
    by_cases hcn:c'=N
    ·have hnil:=HD.out hcn
     have hmN:m'=N:=by omega
     have HTKN:=Lib.hid (bS.nothing w2 B (some y) 0 (Nat.zero_le _))
     rw [←hnil] at HTKN
     subst hcn
     subst hmN
     clear HCUT hnil
     go_wp2_with (first
      |(refine ie rfl _ _ rfl wr.heap.size X S ad ln cp rfl rfl HBX.out ?_;intro w6 ht6 hg6;have HT6:=Lib.hid ht6;have B6:=Lib.hid (B5.out.grown hg6 B5.out.size (fun k hk=>by cases hk;exact Nat.le_refl _));have HO6:=Lib.hid (HO.out.below B6.out);have hs6:=B6.out.size;clear ht6 hg6)
      |(refine jh rfl _ rfl wr.heap.size S ad ln cp rfl HT6.out ?_)
      |(at_builtin;refine wpList_append_own_at _ rfl _ _ 33 rfl w2.heap.size 54 i0 _ 5 72 Tryz.underlying33 hi0 hz0 hz1 hz2 rfl (by decide) _ O.length (af O) rfl (HO6.out.alloc _).1 ⟨w6.heap.size,0,none⟩ 1 1 (af [⟨⟨0,[],S,[],false⟩,ad,ln,cp⟩]) rfl rfl ?c1 ?c2 ?c3 ?c4 ?c5 ?_))
     case c1=>first|exact bM _ ⟨⟨0,[],S,[],false⟩,ad,ln,cp⟩ _ _ rfl|(intro j u hj;rw [bo] at hj;exact hj)
     case c2=>exact cT _
     case c3=>first|(simp [maxLen];done)|(simp [maxLen];omega)|omega
     case c4=>first|decide|omega
     case c5=>first|omega|(simp;omega)
     intro v7 w7 hown1 hgr1 _ hat1
     have HB6:=Lib.hid (HB.out.trans (B6.out.mono hbs))
     have HP7:=Lib.hid (cG (w:=w2) (q:=⟨⟨0,[],S,[],false⟩,ad,ln,cp⟩) (HO6.out.alloc _) ⟨(HXR.out.below HB6.out (Nat.le_refl _)).below ((Below.refl _ w6).alloc (Nat.le_refl _) _) (Nat.le_refl _),.inl rfl⟩ (HB6.out.alloc HB6.out.size _) (Nat.le_refl _) hown1 hgr1 (by simpa using hat1))
     clear hown1 hgr1 hat1
     go_wp2
     go_roundw
     case rel=>exact ⟨_,_,_,_,_,rfl,HTKN,HP7.out.1,HP7.out.2,by simp;omega,HS1,HN1,HPN⟩
     case measure=>simp [yt];omega
    ·have HTKN:=HCUT
     clear HCUT
     go_wp2_with (first
      |(refine ie rfl _ _ rfl wr.heap.size X S ad ln cp rfl rfl HBX.out ?_;intro w6 ht6 hg6;have HT6:=Lib.hid ht6;have B6:=Lib.hid (B5.out.grown hg6 B5.out.size (fun k hk=>by cases hk;exact Nat.le_refl _));have HO6:=Lib.hid (HO.out.below B6.out);have hs6:=B6.out.size;clear ht6 hg6)
      |(refine jh rfl _ rfl wr.heap.size S ad ln cp rfl HT6.out ?_)
      |(at_builtin;refine wpList_append_own_at _ rfl _ _ 33 rfl w2.heap.size 54 i0 _ 5 72 Tryz.underlying33 hi0 hz0 hz1 hz2 rfl (by decide) _ O.length (af O) rfl (HO6.out.alloc _).1 ⟨w6.heap.size,0,none⟩ 1 1 (af [⟨⟨0,[],S,[],false⟩,ad,ln,cp⟩]) rfl rfl ?c1 ?c2 ?c3 ?c4 ?c5 ?_))
     case c1=>first|exact bM _ ⟨⟨0,[],S,[],false⟩,ad,ln,cp⟩ _ _ rfl|(intro j u hj;rw [bo] at hj;exact hj)
     case c2=>exact cT _
     case c3=>first|(simp [maxLen];done)|(simp [maxLen];omega)|omega
     case c4=>first|decide|omega
     case c5=>first|omega|(simp;omega)
     intro v7 w7 hown1 hgr1 _ hat1
     have HB6:=Lib.hid (HB.out.trans (B6.out.mono hbs))
     have HP7:=Lib.hid (cG (w:=w2) (q:=⟨⟨0,[],S,[],false⟩,ad,ln,cp⟩) (HO6.out.alloc _) ⟨(HXR.out.below HB6.out (Nat.le_refl _)).below ((Below.refl _ w6).alloc (Nat.le_refl _) _) (Nat.le_refl _),.inl rfl⟩ (HB6.out.alloc HB6.out.size _) (Nat.le_refl _) hown1 hgr1 (by simpa using hat1))
     clear hown1 hgr1 hat1
     go_wp2
     go_roundw
     case rel=>exact ⟨_,_,_,_,_,rfl,HTKN,HP7.out.1,HP7.out.2,by simp;omega,HS1,HN1,HPN⟩
     case measure=>simp [yt];omega
   ·have bk:(t.kind==0)=false:=beq_eq_false_iff_ne.2 hk
    have HS1:Hid ((O++[(⟨t,ad,ln,cp⟩:aV)]).map aV.t++bN K=T):=Lib.hid (by
     have h:=HS.out
     rw [tf t K hk] at h
     rw [List.map_append,List.append_assoc];exact h)
    have HN1:Hid (∀q∈O++[(⟨t,ad,ln,cp⟩:aV)],ic B q):=Lib.hid (fun q hq=>by
     rcases List.mem_append.1 hq with h|h
     ·exact HN.out q h
     ·rw [List.mem_singleton.1 h];exact xn)
    have hol:O.length+1+(m'-1)≤2097152:=by omega
    have HCUT:=Lib.hid (HTK.out.cut 1 hp1)
    have HD:=Lib.hid (show c'=1→K=[] from fun e=>List.eq_nil_of_length_eq_zero (by omega))
    have HPN:=HPK 1
    have HAT:=Lib.hid (tm (q:=⟨t,ad,ln,cp⟩) xr HB.out HO.out)
    have HO6:=Lib.hid ((HO.out.alloc (.cells #[.int .i64 t.kind,.string ⟨t.name.toArray⟩,.string ⟨t.text.toArray⟩,.slice ad ln cp,.bool t.self] 54)).alloc (.cells #[.int .i64 t.kind,.string ⟨t.name.toArray⟩,.string ⟨t.text.toArray⟩,.slice ad ln cp,.bool t.self] 54))
    rw [List.drop_succ_cons,List.drop_zero] at HCUT HPN
    clear hk p1 p2 p3 xr xn hml HPK HS HN
    go_wp2_with (at_builtin;refine wpList_append_own_at _ rfl _ _ 33 rfl w2.heap.size 54 i0 _ 5 72 Tryz.underlying33 hi0 hz0 hz1 hz2 rfl (by decide) _ O.length (af O) rfl (HO6.out).1 ⟨wr.heap.size+1,0,none⟩ 1 1 (af [⟨t,ad,ln,cp⟩]) rfl rfl ?c1 ?c2 ?c3 ?c4 ?c5 ?_)
    case c1=>first|exact bM _ ⟨t,ad,ln,cp⟩ _ _ (by simp)|(intro j u hj;rw [bo] at hj;exact hj)
    case c2=>exact cT _
    case c3=>first|(simp [maxLen];done)|(simp [maxLen];omega)|omega
    case c4=>first|decide|omega
    case c5=>first|omega|(simp;omega)
    intro v7 w7 hown1 hgr1 _ hat1
    have HP7:=Lib.hid (cG (w:=w2) (q:=⟨t,ad,ln,cp⟩) HO6.out (HAT.out.below (((Below.refl _ wr).alloc (Nat.le_refl _) _).alloc (by simp) _)) ((HB.out.alloc hbs _).alloc (by simp;omega) _) (Nat.le_refl _) hown1 hgr1 (by simpa using hat1))
    clear hown1 hgr1 hat1 bk
    by_cases hcn:c'=1
    ·have hnil:=HD.out hcn
     have hmN:m'=1:=by omega
     have HTKN:=Lib.hid (bS.nothing w2 B (some y) 0 (Nat.zero_le _))
     rw [←hnil] at HTKN
     subst hcn
     subst hmN
     clear HCUT hnil
     go_wp2
     go_roundw
     case rel=>exact ⟨K,_,_,_,_,rfl,HTKN,HP7.out.1,HP7.out.2,by simp;omega,HS1,HN1,HPN⟩
     case measure=>simp [yt]
    ·have HTKN:=HCUT
     clear HCUT
     go_wp2
     go_roundw
     case rel=>exact ⟨K,_,_,_,_,rfl,HTKN,HP7.out.1,HP7.out.2,by simp;omega,HS1,HN1,HPN⟩
     case measure=>simp [yt];omega
end Go.Proofs.YtpmdcppnlggckaaGreatDoor
