/-
  What the library's slices.Clone, IndexFunc and DeleteFunc do to a list of tokens, and package tok's silent.
-/
import Derived.Test.YtpmdcppnlggckaaGreatDoorTkRow
import Derived.Test.YtpmdcppnlggckaaGreatDoorQI
import Derived.Lib.SliceRun
import Derived.OwnWalk
import Derived.Laws.AppendOwn
import Derived.Laws.OwnMore
set_option maxHeartbeats 4000000
set_option maxRecDepth 100000
namespace Go.Proofs.YtpmdcppnlggckaaGreatDoor
open Go.RowKit Go.Lib
theorem rd (t:am) (a:Option Addr) (len cap:Nat) (w:World):Calls Tryz.prog 96 #[dU t a len cap] w fun e w'=>e= .returned (.bool (du t))∧Below w.heap.size w w':=by
 unfold dU
 by_cases hk:t.kind=0
 ·have bk:(t.kind==0)=true:=by rw [hk];rfl
  by_cases ht:t.text=[]
  ·have hs:du t=true:=by simp [du,hk,ht]
   rw [hs,ht]
   clear hs ht hk
   go_enter Tryz.func96,Tryz.ntmps96
   go_wp2
   go_ret
   exact ⟨rfl,(Below.refl _ w).alloc (Nat.le_refl _) _⟩
  ·have hs:du t=false:=by simp [du,ht]
   have hem:t.text.isEmpty=false:=by
    cases h:t.text with
    |nil=>exact absurd h ht
    |cons c l=>rfl
   rw [hs]
   clear hs hk
   go_enter Tryz.func96,Tryz.ntmps96
   go_wp2
   go_ret
   exact ⟨rfl,(Below.refl _ w).alloc (Nat.le_refl _) _⟩
 ·have bk:(t.kind==0)=false:=beq_eq_false_iff_ne.2 hk
  have hs:du t=false:=by simp [du,hk]
  rw [hs]
  clear hs hk
  go_enter Tryz.func96,Tryz.ntmps96
  go_wp2
  go_ret
  exact ⟨rfl,(Below.refl _ w).alloc (Nat.le_refl _) _⟩
theorem zN {w:World} {B:Nat} {x:Addr} {len cap:Nat} {L:List am} (h:bS w B (some x) len cap L):∃Q:List aV,Q.map aV.t=L∧Q.length=len∧(∀j u,(af Q)[j]? =some u→w.cell? (x.add j)=some u)∧∀q∈Q,bU w q.ad q.len q.cap q.t.attrs∧(q.t.attrs=[]∨∀k,(Value.slice q.ad q.len q.cap).ownBlock=some k→B≤k):=by
 have h0:=h.1
 have h2:∀i,∃q:aV,∀hi:i<L.length,q.t=L[i]∧dZ w x i q∧bU w q.ad q.len q.cap q.t.attrs∧(q.t.attrs=[]∨∀k,(Value.slice q.ad q.len q.cap).ownBlock=some k→B≤k):=by
  intro i
  by_cases hi:i<L.length
  ·obtain ⟨y,ad,ln,cp,h1,h2,h3,h4⟩:=h.2.2.2 i hi
   obtain rfl:=Option.some.inj h1
   exact ⟨⟨L[i],ad,ln,cp⟩,fun _=>⟨rfl,h2,h3,h4⟩⟩
  ·exact ⟨⟨aG,none,0,0⟩,fun h=>absurd h hi⟩
 obtain ⟨f,hf⟩:∃f:Nat→aV,∀i (hi:i<L.length),(f i).t=L[i]∧dZ w x i (f i)∧bU w (f i).ad (f i).len (f i).cap (f i).t.attrs∧((f i).t.attrs=[]∨∀k,(Value.slice (f i).ad (f i).len (f i).cap).ownBlock=some k→B≤k):=
  ⟨fun i=>Classical.choose (h2 i),fun i=>Classical.choose_spec (h2 i)⟩
 have hQl:((List.range len).map f).length=len:=by simp
 have hget:∀i (hi:i<((List.range len).map f).length),((List.range len).map f)[i]=f i:=fun i hi=>by
  rw [List.getElem_map,List.getElem_range]
 refine ⟨(List.range len).map f,?_,hQl,?_,?_⟩
 ·refine List.ext_getElem (by simp [h0]) fun i h1 h3=>?_
  rw [List.getElem_map,List.getElem_map,List.getElem_range]
  exact (hf i h3).1
 ·intro j u hj
  have hjl:j<(af ((List.range len).map f)).length:=(List.getElem?_eq_some_iff.1 hj).1
  rw [bJ,hQl] at hjl
  have hi:j/5<((List.range len).map f).length:=by rw [hQl];omega
  obtain ⟨e0,e1,e2,e3,e4⟩:=gD _ (j/5) hi
  rw [hget] at e0 e1 e2 e3 e4
  obtain ⟨-,hc,-⟩:=hf (j/5) (by omega)
  have hm:j=j/5*5∨j=j/5*5+1∨j=j/5*5+2∨j=j/5*5+3∨j=j/5*5+4:=by omega
  rcases hm with hm|hm|hm|hm|hm
  ·rw [hm,e0] at hj;rw [hm,←hj];exact hc.c0
  ·rw [hm,e1] at hj;rw [hm,←hj];exact hc.c1
  ·rw [hm,e2] at hj;rw [hm,←hj];exact hc.c2
  ·rw [hm,e3] at hj;rw [hm,←hj];exact hc.c3
  ·rw [hm,e4] at hj;rw [hm,←hj];exact hc.c4
 ·intro q hq
  obtain ⟨i,hi,rfl⟩:=List.mem_map.1 hq
  have hi':i<L.length:=by rw [h0];exact List.mem_range.1 hi
  obtain ⟨-,-,h3,h4⟩:=hf i hi'
  exact ⟨h3,h4⟩
theorem Gx {w w':World} {g:Nat} {q:aV} (h:bU w q.ad q.len q.cap q.t.attrs) (hg:w.heap.size≤g) (hb:Below w.heap.size w w'):uM w' g q:=by
 refine ⟨h.below hb (Nat.le_refl _),?_⟩
 by_cases he:q.t.attrs=[]
 ·exact .inl he
 ·refine .inr fun k hk e=>?_
  obtain ⟨x,hx,c1,-⟩:=h.2.2.2 0 (List.length_pos_iff.2 he)
  have hlt:=block_lt_of_cell c1
  rw [show (x.add (0*2)).block=x.block by unfold Addr.add;split<;>rfl] at hlt
  rw [hx] at hk
  have h1:x.block=k:=by simpa [Value.ownBlock] using hk
  omega
theorem zO (w:World) (n c:Nat):Calls Tryz.prog 95 #[.slice none n c] w fun e w'=>e= .returned (.slice none 0 0)∧w'=w:=by
 have q22:∀(w:World) (a:Option Addr) (n c n' c':Nat),(binOp .eql 33 (.slice a n c) (.slice none n' c')).run Tryz.prog w= .ok (.bool a.isNone) w:=fun w a n c n' c'=>Lib.run_eql_slice_nil w _ _ a n c n' c' Tryz.underlying33
 go_enter Tryz.func95,Tryz.ntmps95
 go_wp2
 go_ret
 exact ⟨rfl,rfl⟩
theorem zQ (w:World) (B:Nat) (x:Addr) (n c:Nat) (L:List am) (hL:bS w B (some x) n c L) (hn:n≤2097152):Calls Tryz.prog 95 #[.slice (some x) n c] w fun e w'=>∃g cap Q R,e= .returned (.slice (some ⟨g,0,none⟩) n cap)∧w.heap.size≤g∧gV w' g cap Q R∧Q.map aV.t=L∧Q.length=n∧(∀q∈Q,q.t.attrs=[]∨∀k,(Value.slice q.ad q.len q.cap).ownBlock=some k→B≤k)∧Below w.heap.size w w':=by
 obtain ⟨i0,hi0,hz0,hz1,hz2⟩:=info_parts fP
 obtain ⟨Q,hQ1,hQ2,hQ3,hQ4⟩:=zN hL
 have HC:=Lib.hid hQ3
 have HA:=Lib.hid hQ4
 have hql:=bJ Q
 rw [hQ2] at hql
 clear hL hQ3 hQ4
 have q22:∀(w:World) (a:Option Addr) (n c n' c':Nat),(binOp .eql 33 (.slice a n c) (.slice none n' c')).run Tryz.prog w= .ok (.bool a.isNone) w:=fun w a n c n' c'=>Lib.run_eql_slice_nil w _ _ a n c n' c' Tryz.underlying33
 go_enter Tryz.func95,Tryz.ntmps95
 go_wp2_with (at_builtin;refine wpList_append_own _ rfl _ _ 33 rfl w.heap.size 54 i0 _ 5 72 Tryz.underlying33 hi0 hz0 hz1 hz2 rfl (by decide) _ _ _ rfl (World.ownsRow_made w #[] 0 (Nat.le_refl _) (Nat.zero_le _) (by simp)) x n c (af Q) rfl ?qc1 ?qc2 ?qc3 ?qc4 ?qc5 ?qc6 ?_)
 case qc1=>exact hql
 case qc2=>
  intro j u hj
  exact Lib.cell?_alloc_some _ (HC.out j u hj)
 case qc3=>exact la Q
 case qc4=>rw [Nat.zero_add];unfold maxLen;omega
 case qc5=>rw [Nat.zero_add];omega
 case qc6=>simp
 intro v' w1 hown hgrow hnil
 have hb1:Below w.heap.size w w1:=((Below.refl _ w).alloc (Nat.le_refl _) _).grown hgrow (by simp) (by intro k hk;simp [Value.ownBlock] at hk;omega)
 have GV:∃g cap R,v'= .slice (some ⟨g,0,none⟩) n cap∧w.heap.size≤g∧gV w1 g cap Q R:=by
  rcases hown.2 with ⟨rfl,h0⟩|⟨g,cap,cur,rfl,h1,h2,h3,h4,h5,h6⟩
  ·exact absurd rfl hnil
  ·have hcur:cur=(af Q++cur.toList.drop (n*5)).toArray:=by
    have:cur.toList=af Q++cur.toList.drop (n*5):=by
     conv=>lhs;rw [←List.take_append_drop (n*5) cur.toList,h6]
    rw [←this]
   refine ⟨g,cap,cur.toList.drop (n*5),rfl,h1,⟨by rw [h2];exact congrArg (fun c=>some (Obj.cells c _ _)) hcur,?_,by omega,h4,fun q hq=>Gx (HA.out q hq).1 h1 hb1⟩⟩
   rw [List.length_append,hql,List.length_drop,Array.length_toList,h5]
   have:n*5≤cap*5:=by omega
   omega
 obtain ⟨g,cap,R,rfl,hg,hrow⟩:=GV
 have HR:=Lib.hid hrow
 have HB:=Lib.hid hb1
 clear hown hgrow hnil hrow hb1
 go_wp2
 go_ret
 exact ⟨g,cap,Q,R,rfl,hg,HR.out,hQ1,hQ2,fun q hq=>(HA.out q hq).2,HB.out⟩
theorem ve (w:World) (f:Value):Calls Tryz.prog 142 #[.slice none 0 0,f] w fun e w'=>e= .returned (.int .i64 (-1))∧w'=w:=by
 go_enter Tryz.func142,Tryz.ntmps142
 go_wp2
 go_loopw [5,8] (fun _ v wr=>v= .int .i64 0∧w=wr) (fun _ _ _=>0)
 case atStart=>exact ⟨rfl,rfl⟩
 case round=>
  obtain ⟨rfl,rfl⟩:=hrel
  go_wp2
  go_ret
  exact ⟨rfl,rfl⟩
theorem vf (g cap n:Nat) (D:List aV) (R:List Value) (w:World) (h:gV w g cap D R) (hn:D.length=n):Calls Tryz.prog 142 #[.slice (some ⟨g,0,none⟩) n cap,.func (.func 96) #[] #[]] w fun e w'=>(∃r:Int,e= .returned (.int .i64 r)∧((r= -1∧∀j (hj:j<D.length),du D[j].t=false)∨∃k:Nat,∃hk:k<D.length,r=k∧du D[k].t=true∧∀j (hj:j<D.length),j<k→du D[j].t=false))∧Below w.heap.size w w':=by
 have hm:=h.most
 have hf:=h.fits
 unfold maxLen at hm
 have H:=Lib.hid h
 have HN:=Lib.hid hn
 have hnc:n≤cap:=by omega
 clear h hn hf
 go_enter Tryz.func142,Tryz.ntmps142
 go_wp2
 go_loopw [5,8] (fun _ v wr=>∃i:Nat,v= .int .i64 (i:Int)∧i≤n∧Below w.heap.size w wr∧Hid (∀j (hj:j<D.length),j<i→du D[j].t=false)) (fun _ v _=>n-(ae v).toNat)
 case atStart=>exact ⟨0,rfl,Nat.zero_le _,Below.refl _ _,Lib.hid fun j _ h=>absurd h (by omega)⟩
 case round=>
  obtain ⟨i,rfl,hi,hb,HS⟩:=hrel
  have HB:=Lib.hid hb
  have hbs:=hb.size
  clear hb
  by_cases hlt:i<n
  ·have hiD:i<D.length:=by rw [HN.out];exact hlt
   obtain ⟨x0,x1,x2,x3,x4⟩:=(H.out.below HB.out (Nat.le_refl _)).asked i hiD
   obtain ⟨q,hq⟩:∃q,D[i]'hiD=q:=⟨_,rfl⟩
   rw [hq] at x0 x1 x2 x3 x4
   have HQ:=Lib.hid hq
   have HC:=fun w=>Lib.hid (rd q.t q.ad q.len q.cap w)
   obtain ⟨b,hb⟩:∃b,du q.t=b:=⟨_,rfl⟩
   rw [hb] at HC
   have HBB:=Lib.hid hb
   clear hq hb
   unfold dU at HC
   cases b
   ·go_wp2_with (fail)
    refine (HC _).out.mono ?_
    rintro e w1 ⟨rfl,b1⟩
    have HB1:=Lib.hid (HB.out.trans (b1.mono HB.out.size))
    have HS1:Hid (∀j (hj:j<D.length),j<i+1→du D[j].t=false):=Lib.hid fun j hj hji=>by
     rcases Nat.lt_or_eq_of_le (Nat.le_of_lt_succ hji) with h1|rfl
     ·exact HS.out j hj h1
     ·rw [HQ.out];exact HBB.out
    clear b1
    go_wp2
    go_roundw
    case rel=>exact ⟨i+1,by go_num,by omega,HB1.out,HS1⟩
    case measure=>simp [ae];omega
   ·go_wp2_with (fail)
    refine (HC _).out.mono ?_
    rintro e w1 ⟨rfl,b1⟩
    have HB1:=Lib.hid (HB.out.trans (b1.mono HB.out.size))
    clear b1
    go_wp2
    go_ret
    exact ⟨⟨_,rfl,.inr ⟨i,hiD,rfl,by rw [HQ.out];exact HBB.out,HS.out⟩⟩,HB1.out⟩
  ·have hin:i=n:=by omega
   go_wp2
   go_ret
   exact ⟨⟨_,rfl,.inl ⟨rfl,fun j hj=>HS.out j hj (by have:=HN.out;omega)⟩⟩,HB.out⟩
end Go.Proofs.YtpmdcppnlggckaaGreatDoor
