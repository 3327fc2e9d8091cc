/-
  Texts laid together: TkRow, TkDrop, TkDel, TkAhead, TkJoined.
-/
import Derived.Test.YtajpoodpbbbkfaaGreatDoorQB
import Derived.Test.YtajpoodpbbbkfaaGreatDoorQI
import Derived.Laws.CopyRow
import Derived.Deep.QuietTactic
import Derived.Lib.SliceRun
import Derived.OwnWalk
import Derived.Laws.AppendOwn
import Derived.Laws.OwnMore
import Derived.Test.YtajpoodpbbbkfaaGreatDoorQH
import Derived.Test.YtajpoodpbbbkfaaGreatDoorP4
import Derived.Test.YtajpoodpbbbkfaaGreatDoorQD
import Derived.Shelf.Strings.MapGrows
set_option maxHeartbeats 16000000
set_option maxRecDepth 100000
namespace Go.Proofs.YtajpoodpbbbkfaaGreatDoor
open Go.RowKit Go.Lib
def xu (w:World) (g:Nat) (q:aY):Prop:=
 cf w q.ad q.len q.cap q.t.attrs∧(q.t.attrs=[]∨∀k,(Value.slice q.ad q.len q.cap).ownBlock=some k→k≠g)
theorem xu.kept {w w':World} {g:Nat} {q:aY} (h:xu w g q) (hg:w.grownBy w' (some g)):xu w' g q:=by
 refine ⟨?_,h.2⟩
 rcases h.2 with h0|h0
 ·have h1:=h.1
  rw [h0] at h1⊢
  exact ⟨h1.1,h1.2.1,h1.2.2.1,fun i hi=>by cases hi⟩
 ·exact ie h.1 hg h0
structure iS (w:World) (g cap:Nat) (D:List aY) (R:List Value):Prop where
 heap:w.heap[g]? =some (.cells (ag D++R).toArray 33 (0,0))
 size:(ag D++R).length=cap*5
 fits:D.length≤cap
 most:cap≤maxLen
 atts:∀q∈D,xu w g q
theorem iS.lt {w:World} {g cap:Nat} {D:List aY} {R:List Value} (h:iS w g cap D R):g<w.heap.size:=(Array.getElem?_eq_some_iff.1 h.heap).1
theorem iS.below {w w':World} {B g cap:Nat} {D:List aY} {R:List Value} (h:iS w g cap D R) (hb:Below B w w') (hB:w.heap.size≤B):iS w' g cap D R:=
 ⟨(hb.block g (by have:=h.lt;omega)).trans h.heap,h.size,h.fits,h.most,fun q hq=>⟨(h.atts q hq).1.below hb hB,(h.atts q hq).2⟩⟩
theorem iS.cells {w:World} {g cap:Nat} {D:List aY} {R:List Value} (h:iS w g cap D R) (i:Nat) (hi:i<D.length):eC w ⟨g,0,none⟩ i D[i]:=by
 obtain ⟨e0,e1,e2,e3,e4⟩:=iz D i hi
 have hl:=bR D
 have hc:∀j u,(ag D)[j]? =some u→w.cell? ((⟨g,0,none⟩:Addr).add j)=some u:=by
  intro j u hj
  have ea:(⟨g,0,none⟩:Addr).add j=⟨g,j,none⟩:=by simp [Addr.add];omega
  have hjl:j<(ag D).length:=(List.getElem?_eq_some_iff.1 hj).1
  rw [ea,cell_of_row _ _ _ _ _ _ h.heap]
  simp only [List.getElem?_toArray]
  rw [List.getElem?_append_left hjl];exact hj
 exact ⟨hc _ _ e0,hc _ _ e1,hc _ _ e2,hc _ _ e3,hc _ _ e4⟩
theorem iS.asked {w:World} {g cap:Nat} {D:List aY} {R:List Value} (h:iS w g cap D R) (i:Nat) (hi:i<D.length):w.cell? ⟨g,i*5,none⟩=some (.int .i64 D[i].t.kind)∧w.cell? ⟨g,i*5+1,none⟩=some (.string ⟨D[i].t.name.toArray⟩)∧w.cell? ⟨g,i*5+2,none⟩=some (.string ⟨D[i].t.text.toArray⟩)∧w.cell? ⟨g,i*5+3,none⟩=some (.slice D[i].ad D[i].len D[i].cap)∧w.cell? ⟨g,i*5+4,none⟩=some (.bool D[i].t.self):=by
 have hx:=h.cells i hi
 have ea:∀j,(⟨g,0,none⟩:Addr).add j=⟨g,j,none⟩:=fun j=>by simp [Addr.add];omega
 exact ⟨by rw [←ea];exact hx.c0,by rw [←ea];exact hx.c1,by rw [←ea];exact hx.c2,by rw [←ea];exact hx.c3,by rw [←ea];exact hx.c4⟩
theorem aY.five_len (q:aY):q.five.length=5:=rfl
theorem sL:∀(D:List aY) (i:Nat) (q:aY) (_:i<D.length),ag (D.set i q)=(ag D).take (i*5)++q.five++(ag D).drop (i*5+5)
 |d::D,0,q,_=>by
  show q.five++ag D=(d.five++ag D).take (0*5)++q.five++(d.five++ag D).drop (0*5+5)
  rw [Nat.zero_mul,List.take_zero,List.nil_append,Nat.zero_add]
  rfl
 |d::D,i+1,q,h=>by
  have ih:=sL D i q (by simpa using h)
  show d.five++ag (D.set i q)=(d.five++ag D).take ((i+1)*5)++q.five++(d.five++ag D).drop ((i+1)*5+5)
  have h1:(d.five++ag D).take ((i+1)*5)=d.five++(ag D).take (i*5):=by
   rw [List.take_append,List.take_of_length_le (by rw [aY.five_len];omega),aY.five_len,show (i+1)*5-5=i*5 by omega]
  have h2:(d.five++ag D).drop ((i+1)*5+5)=(ag D).drop (i*5+5):=by
   rw [List.drop_append,List.drop_eq_nil_of_le (by rw [aY.five_len];omega),aY.five_len,show (i+1)*5+5-5=i*5+5 by omega,List.nil_append]
  rw [ih,h1,h2]
  simp only [List.append_assoc]
theorem zQ (D:List aY) (i:Nat) (h:i≤D.length):(ag D).take (i*5)=ag (D.take i):=by
 have e:ag D=ag (D.take i)++ag (D.drop i):=by rw [iP,List.take_append_drop]
 rw [e,List.take_append_of_le_length (by rw [bR,List.length_take];omega),List.take_of_length_le (by rw [bR,List.length_take];omega)]
theorem LU (D:List aY) (R:List Value) (i:Nat) (q:aY) (h:i<D.length):(ag D++R).take (i*5)++q.five++(ag D++R).drop (i*5+5)=ag (D.set i q)++R:=by
 have hl:=bR D
 rw [sL D i q h,List.take_append_of_le_length (by omega),List.drop_append_of_le_length (by omega)]
 simp only [List.append_assoc]
theorem I7 (D Z:List aY) (R:List Value) (i:Nat) (h:i≤D.length) (hz:Z.length=D.length-i):(ag D++R).take (i*5)++ag Z++(ag D++R).drop (i*5+(ag Z).length)=ag (D.take i++Z)++R:=by
 have hl:=bR D
 have hzl:=bR Z
 rw [List.take_append_of_le_length (by omega),zQ D i h,←iP,hzl,hz,List.drop_append,List.drop_eq_nil_of_le (by omega),hl,show i*5+(D.length-i)*5-D.length*5=0 by omega]
 simp
theorem sM (z:Array Value) (q:aY) (hz:z.toList=q.five):∀n:Nat,(Builtin.zeroCells z n).toList=ag (List.replicate n q)
 |0=>by simp [ag,Builtin.zeroCells]
 |n+1=>by
  have ih:=sM z q hz n
  unfold Builtin.zeroCells at ih⊢
  have hs:z.size=5:=by rw [←Array.length_toList,hz];rfl
  rw [hs] at ih⊢
  rw [show List.replicate (n+1) q=List.replicate n q++[q] from List.replicate_succ',←iP,←ih]
  have hq:∀j (h:j<5),z[j]! =q.five[j]'(by rw [aY.five_len];exact h):=fun j h=>by
   rw [getElem!_pos z j (by omega)]
   simp only [←hz,Array.getElem_toList]
  have hm:∀j,j<5→(n*5+j)%5=j:=fun j h=>by omega
  simp only [Array.toList_map,Array.toList_range]
  rw [show (n+1)*5=n*5+5 by omega,List.range_add]
  simp only [List.map_append,List.map_map]
  congr 1
  simp only [show List.range 5=[0,1,2,3,4] from rfl,List.map_cons,List.map_nil,Function.comp,hm _ (by decide:0<5),hm 1 (by decide),hm 2 (by decide),hm 3 (by decide),hm 4 (by decide),hq 0 (by decide),hq 1 (by decide),hq 2 (by decide),hq 3 (by decide),hq 4 (by decide)]
  simp [ag,aY.five]
theorem oN (w:World) (g:Nat) (cs:Array Value):w.grownBy (w.setRow g cs) (some g):=
 ⟨rfl,rfl,rfl,by simp [World.setRow],fun k _ hk=>setRow_other w g k cs (fun e=>hk (by rw [e]))⟩
theorem zR {w:World} {g cap:Nat} {D:List aY} {R:List Value} (h:iS w g cap D R) (i:Nat) (hi:i<D.length) (q:aY) (hq:xu w g q):∃w',(storeVar 33 ⟨g,i*5,none⟩ (eu q.t q.ad q.len q.cap)).run Tryz.prog w= .ok () w'∧iS w' g cap (D.set i q) R∧w.grownBy w' (some g):=by
 have hl:=bR D
 have hst:=run_storeCells_at (P:=Tryz.prog) g (i*5) 33 q.five 0 _ w h.heap (by rw [List.size_toArray,List.length_append,aY.five_len];omega) (fun u hu=>mr [q] u (by rw [bt];exact hu))
 simp only [Nat.add_zero,aY.five_len] at hst
 rw [LU D R i q hi] at hst
 have hg:=oN w g (ag (D.set i q)++R).toArray
 refine ⟨_,?_,⟨setRow_heap w g _ _ _ _ h.heap,?_,by rw [List.length_set];exact h.fits,h.most,fun u hu=>?_⟩,hg⟩
 ·have hs:=wM
  cases hi':Tryz.prog.info? 33 with
  |none=>simp [hi'] at hs
  |some j=>
   have hj:j.size=5:=by simpa [hi'] using hs
   have hcs:(eu q.t q.ad q.len q.cap).cells=q.five.toArray:=rfl
   simp [storeVar,sizeOf,typeInfo,hi',hj,hcs,aY.five_len,hst]
 ·have:=h.size
  rw [List.length_append,bR] at this⊢
  rw [List.length_set];exact this
 ·rcases List.mem_or_eq_of_mem_set hu with h1|h1
  ·exact (h.atts u h1).kept hg
  ·rw [h1];exact hq.kept hg
def sN:aY:=⟨aJ,none,0,0⟩
theorem LV (w:World) (g:Nat):xu w g sN:=⟨av w,.inl rfl⟩
theorem B0 {w:World} {g cap:Nat} {D:List aY} {R:List Value} (h:iS w g cap D R) (i:Nat) (hi:i≤D.length) (t ty:TypeId) (ht:Tryz.prog.underlying t=some (.slice 33)) (n c:Nat) (hn:n=D.length-i):∃w',(Builtin.clear_ #[t] ty #[.slice (some ⟨g,i*5,none⟩) n c]).run Tryz.prog w= .ok (.tuple #[]) w'∧iS w' g cap (D.take i++List.replicate n sN) R∧w.grownBy w' (some g):=by
 subst hn
 have hl:=bR D
 have hzl:=bR (List.replicate (D.length-i) sN)
 rw [List.length_replicate] at hzl
 have hst:=run_storeCells_at (P:=Tryz.prog) g (i*5) 33 (ag (List.replicate (D.length-i) sN)) 0 _ w h.heap (by rw [List.size_toArray,List.length_append,hzl];omega) (mr _)
 simp only [Nat.add_zero] at hst
 rw [I7 D _ R i hi (by rw [List.length_replicate])] at hst
 have hzc:(Builtin.zeroCells (Value.agg #[.int .i64 0,.string ⟨#[]⟩,.string ⟨#[]⟩,.slice none 0 0,.bool false]).cells (D.length-i)).toList=ag (List.replicate (D.length-i) sN):=sM _ sN rfl _
 by_cases h0:D.length-i=0
 ·rw [h0]
  refine ⟨w,?_,?_,World.grownBy.refl w _⟩
  ·simp [Builtin.clear_,run_underlying ht]
  ·rw [List.replicate_zero,List.append_nil,List.take_of_length_le (by omega)];exact h
 ·have hg:=oN w g (ag (D.take i++List.replicate (D.length-i) sN)++R).toArray
  refine ⟨_,?_,⟨setRow_heap w g _ _ _ _ h.heap,?_,?_,h.most,fun u hu=>?_⟩,hg⟩
  ·obtain ⟨m,hm⟩:∃m,D.length-i=m+1:=⟨D.length-i-1,by omega⟩
   rw [hm] at hzc hst⊢
   simp [Builtin.clear_,run_underlying ht,hzc,hst]
  ·have:=h.size
   rw [List.length_append,bR] at this⊢
   rw [List.length_append,List.length_take,List.length_replicate]
   have hx:min i D.length+(D.length-i)=D.length:=by omega
   rw [hx];exact this
  ·rw [List.length_append,List.length_take,List.length_replicate]
   have:=h.fits
   omega
  ·rcases List.mem_append.1 hu with h1|h1
   ·exact (h.atts u (List.mem_of_mem_take h1)).kept hg
   ·rw [List.eq_of_mem_replicate h1];exact (LV w g).kept hg
theorem nB {ops:Array Oper} {rest:List Oper} {o:Oper} {a:Act} {w:World} {Q:Exit→Act→World→Prop} (hgd:o.guard=none) (x y:Operand) (ho:o.op= .store 33 x y) (g i:Nat) (q:aY) (p:Addr) (hx:a.eval x= .pointer (some p)) (hp:p=⟨g,i*5,none⟩) (hy:a.eval y=eu q.t q.ad q.len q.cap) {cap:Nat} {D:List aY} {R:List Value} (h:iS w g cap D R) (hi:i<D.length) (hq:xu w g q) (hK:∀w',iS w' g cap (D.set i q) R→w.grownBy w' (some g)→wpList Tryz.prog ops Q rest (a.put o.dst undef) w'):wpList Tryz.prog ops Q (o::rest) a w:=by
 refine wpList_plain hgd fun K hK'=>?_
 obtain ⟨w',hr,h1,h2⟩:=zR h i hi q hq
 subst hp
 unfold Oper.wp execOp
 simp only [ho,hx,hy,Instr.storeAt,Instr.sureAddr,Sem.run_bind,Sem.run_pure,Result.andThen_ok,hr]
 exact hK' _ _ (hK w' h1 h2)
end Go.Proofs.YtajpoodpbbbkfaaGreatDoor
namespace Go.Proofs.YtajpoodpbbbkfaaGreatDoor
open Go.RowKit Go.Lib
theorem sO (t:aq) (a:Option Addr) (len cap:Nat) (w:World):Calls Tryz.prog 65 #[eu t a len cap] w fun e w'=>e= .returned (.bool (dM t))∧Below w.heap.size w w':=by
 unfold eu
 by_cases hk:t.kind=0
 ·have bk:(t.kind==0)=true:=by rw [hk];rfl
  by_cases ht:t.text=[]
  ·have hs:dM t=true:=by simp [dM,hk,ht]
   rw [hs,ht]
   clear hs ht hk
   go_enter Tryz.func65,Tryz.ntmps65
   go_wp2
   go_ret
   exact ⟨rfl,(Below.refl _ w).alloc (Nat.le_refl _) _⟩
  ·have hs:dM t=false:=by simp [dM,ht]
   have hem:t.text.isEmpty=false:=by
    cases h:t.text with
    |nil=>exact absurd h ht
    |cons c l=>rfl
   rw [hs]
   clear hs hk
   go_enter Tryz.func65,Tryz.ntmps65
   go_wp2
   go_ret
   exact ⟨rfl,(Below.refl _ w).alloc (Nat.le_refl _) _⟩
 ·have bk:(t.kind==0)=false:=beq_eq_false_iff_ne.2 hk
  have hs:dM t=false:=by simp [dM,hk]
  rw [hs]
  clear hs hk
  go_enter Tryz.func65,Tryz.ntmps65
  go_wp2
  go_ret
  exact ⟨rfl,(Below.refl _ w).alloc (Nat.le_refl _) _⟩
theorem B9 {w:World} {B:Nat} {x:Addr} {len cap:Nat} {L:List aq} (h:cd w B (some x) len cap L):∃Q:List aY,Q.map aY.t=L∧Q.length=len∧(∀j u,(ag Q)[j]? =some u→w.cell? (x.add j)=some u)∧∀q∈Q,cf w q.ad q.len q.cap q.t.attrs∧(q.t.attrs=[]∨∀k,(Value.slice q.ad q.len q.cap).ownBlock=some k→B≤k):=by
 have h0:=h.1
 have h2:∀i,∃q:aY,∀hi:i<L.length,q.t=L[i]∧eC w x i q∧cf w q.ad q.len q.cap q.t.attrs∧(q.t.attrs=[]∨∀k,(Value.slice q.ad q.len q.cap).ownBlock=some k→B≤k):=by
  intro i
  by_cases hi:i<L.length
  ·obtain ⟨y,ad,ln,cp,h1,h2,h3,h4⟩:=h.2.2.2 i hi
   obtain rfl:=Option.some.inj h1
   exact ⟨⟨L[i],ad,ln,cp⟩,fun _=>⟨rfl,h2,h3,h4⟩⟩
  ·exact ⟨⟨aJ,none,0,0⟩,fun h=>absurd h hi⟩
 obtain ⟨f,hf⟩:∃f:Nat→aY,∀i (hi:i<L.length),(f i).t=L[i]∧eC w x i (f i)∧cf w (f i).ad (f i).len (f i).cap (f i).t.attrs∧((f i).t.attrs=[]∨∀k,(Value.slice (f i).ad (f i).len (f i).cap).ownBlock=some k→B≤k):=
  ⟨fun i=>Classical.choose (h2 i),fun i=>Classical.choose_spec (h2 i)⟩
 have hQl:((List.range len).map f).length=len:=by simp
 have hget:∀i (hi:i<((List.range len).map f).length),((List.range len).map f)[i]=f i:=fun i hi=>by
  rw [List.getElem_map,List.getElem_range]
 refine ⟨(List.range len).map f,?_,hQl,?_,?_⟩
 ·refine List.ext_getElem (by simp [h0]) fun i h1 h3=>?_
  rw [List.getElem_map,List.getElem_map,List.getElem_range]
  exact (hf i h3).1
 ·intro j u hj
  have hjl:j<(ag ((List.range len).map f)).length:=(List.getElem?_eq_some_iff.1 hj).1
  rw [bR,hQl] at hjl
  have hi:j/5<((List.range len).map f).length:=by rw [hQl];omega
  obtain ⟨e0,e1,e2,e3,e4⟩:=iz _ (j/5) hi
  rw [hget] at e0 e1 e2 e3 e4
  obtain ⟨-,hc,-⟩:=hf (j/5) (by omega)
  have hm:j=j/5*5∨j=j/5*5+1∨j=j/5*5+2∨j=j/5*5+3∨j=j/5*5+4:=by omega
  rcases hm with hm|hm|hm|hm|hm
  ·rw [hm,e0] at hj;rw [hm,←hj];exact hc.c0
  ·rw [hm,e1] at hj;rw [hm,←hj];exact hc.c1
  ·rw [hm,e2] at hj;rw [hm,←hj];exact hc.c2
  ·rw [hm,e3] at hj;rw [hm,←hj];exact hc.c3
  ·rw [hm,e4] at hj;rw [hm,←hj];exact hc.c4
 ·intro q hq
  obtain ⟨i,hi,rfl⟩:=List.mem_map.1 hq
  have hi':i<L.length:=by rw [h0];exact List.mem_range.1 hi
  obtain ⟨-,-,h3,h4⟩:=hf i hi'
  exact ⟨h3,h4⟩
theorem I8 {w w':World} {g:Nat} {q:aY} (h:cf w q.ad q.len q.cap q.t.attrs) (hg:w.heap.size≤g) (hb:Below w.heap.size w w'):xu w' g q:=by
 refine ⟨h.below hb (Nat.le_refl _),?_⟩
 by_cases he:q.t.attrs=[]
 ·exact .inl he
 ·refine .inr fun k hk e=>?_
  obtain ⟨x,hx,c1,-⟩:=h.2.2.2 0 (List.length_pos_iff.2 he)
  have hlt:=block_lt_of_cell c1
  rw [show (x.add (0*2)).block=x.block by unfold Addr.add;split<;>rfl] at hlt
  rw [hx] at hk
  have h1:x.block=k:=by simpa [Value.ownBlock] using hk
  omega
theorem Ca (w:World) (n c:Nat):Calls Tryz.prog 64 #[.slice none n c] w fun e w'=>e= .returned (.slice none 0 0)∧w'=w:=by
 have q22:∀(w:World) (a:Option Addr) (n c n' c':Nat),(binOp .eql 29 (.slice a n c) (.slice none n' c')).run Tryz.prog w= .ok (.bool a.isNone) w:=fun w a n c n' c'=>Lib.run_eql_slice_nil w _ _ a n c n' c' Tryz.underlying29
 go_enter Tryz.func64,Tryz.ntmps64
 go_wp2
 go_ret
 exact ⟨rfl,rfl⟩
theorem Cb (w:World) (B:Nat) (x:Addr) (n c:Nat) (L:List aq) (hL:cd w B (some x) n c L) (hn:n≤2097152):Calls Tryz.prog 64 #[.slice (some x) n c] w fun e w'=>∃g cap Q R,e= .returned (.slice (some ⟨g,0,none⟩) n cap)∧w.heap.size≤g∧iS w' g cap Q R∧Q.map aY.t=L∧Q.length=n∧(∀q∈Q,q.t.attrs=[]∨∀k,(Value.slice q.ad q.len q.cap).ownBlock=some k→B≤k)∧Below w.heap.size w w':=by
 obtain ⟨i0,hi0,hz0,hz1,hz2⟩:=info_parts gL
 obtain ⟨Q,hQ1,hQ2,hQ3,hQ4⟩:=B9 hL
 have HC:=Lib.hid hQ3
 have HA:=Lib.hid hQ4
 have hql:=bR Q
 rw [hQ2] at hql
 clear hL hQ3 hQ4
 have q22:∀(w:World) (a:Option Addr) (n c n' c':Nat),(binOp .eql 29 (.slice a n c) (.slice none n' c')).run Tryz.prog w= .ok (.bool a.isNone) w:=fun w a n c n' c'=>Lib.run_eql_slice_nil w _ _ a n c n' c' Tryz.underlying29
 go_enter Tryz.func64,Tryz.ntmps64
 go_wp2_with (at_builtin;refine wpList_append_own _ rfl _ _ 29 rfl w.heap.size 33 i0 _ 5 72 Tryz.underlying29 hi0 hz0 hz1 hz2 rfl (by decide) _ _ _ rfl (World.ownsRow_made w #[] 0 (Nat.le_refl _) (Nat.zero_le _) (by simp)) x n c (ag Q) rfl ?qc1 ?qc2 ?qc3 ?qc4 ?qc5 ?qc6 ?_)
 case qc1=>exact hql
 case qc2=>
  intro j u hj
  exact Lib.cell?_alloc_some _ (HC.out j u hj)
 case qc3=>exact mr Q
 case qc4=>rw [Nat.zero_add];unfold maxLen;omega
 case qc5=>rw [Nat.zero_add];omega
 case qc6=>simp
 intro v' w1 hown hgrow hnil
 have hb1:Below w.heap.size w w1:=((Below.refl _ w).alloc (Nat.le_refl _) _).grown hgrow (by simp) (by intro k hk;simp [Value.ownBlock] at hk;omega)
 have KN:∃g cap R,v'= .slice (some ⟨g,0,none⟩) n cap∧w.heap.size≤g∧iS w1 g cap Q R:=by
  rcases hown.2 with ⟨rfl,h0⟩|⟨g,cap,cur,rfl,h1,h2,h3,h4,h5,h6⟩
  ·exact absurd rfl hnil
  ·have hcur:cur=(ag Q++cur.toList.drop (n*5)).toArray:=by
    have:cur.toList=ag Q++cur.toList.drop (n*5):=by
     conv=>lhs;rw [←List.take_append_drop (n*5) cur.toList,h6]
    rw [←this]
   refine ⟨g,cap,cur.toList.drop (n*5),rfl,h1,⟨by rw [h2];exact congrArg (fun c=>some (Obj.cells c _ _)) hcur,?_,by omega,h4,fun q hq=>I8 (HA.out q hq).1 h1 hb1⟩⟩
   rw [List.length_append,hql,List.length_drop,Array.length_toList,h5]
   have:n*5≤cap*5:=by omega
   omega
 obtain ⟨g,cap,R,rfl,hg,hrow⟩:=KN
 have HR:=Lib.hid hrow
 have HB:=Lib.hid hb1
 clear hown hgrow hnil hrow hb1
 go_wp2
 go_ret
 exact ⟨g,cap,Q,R,rfl,hg,HR.out,hQ1,hQ2,fun q hq=>(HA.out q hq).2,HB.out⟩
theorem xw (w:World) (f:Value):Calls Tryz.prog 115 #[.slice none 0 0,f] w fun e w'=>e= .returned (.int .i64 (-1))∧w'=w:=by
 go_enter Tryz.func115,Tryz.ntmps115
 go_wp2
 go_loopw [5,8] (fun _ v wr=>v= .int .i64 0∧w=wr) (fun _ _ _=>0)
 case atStart=>exact ⟨rfl,rfl⟩
 case round=>
  obtain ⟨rfl,rfl⟩:=hrel
  go_wp2
  go_ret
  exact ⟨rfl,rfl⟩
theorem xx (g cap n:Nat) (D:List aY) (R:List Value) (w:World) (h:iS w g cap D R) (hn:D.length=n):Calls Tryz.prog 115 #[.slice (some ⟨g,0,none⟩) n cap,.func (.func 65) #[] #[]] w fun e w'=>(∃r:Int,e= .returned (.int .i64 r)∧((r= -1∧∀j (hj:j<D.length),dM D[j].t=false)∨∃k:Nat,∃hk:k<D.length,r=k∧dM D[k].t=true∧∀j (hj:j<D.length),j<k→dM D[j].t=false))∧Below w.heap.size w w':=by
 have hm:=h.most
 have hf:=h.fits
 unfold maxLen at hm
 have H:=Lib.hid h
 have HN:=Lib.hid hn
 have hnc:n≤cap:=by omega
 clear h hn hf
 go_enter Tryz.func115,Tryz.ntmps115
 go_wp2
 go_loopw [5,8] (fun _ v wr=>∃i:Nat,v= .int .i64 (i:Int)∧i≤n∧Below w.heap.size w wr∧Hid (∀j (hj:j<D.length),j<i→dM D[j].t=false)) (fun _ v _=>n-(ae v).toNat)
 case atStart=>exact ⟨0,rfl,Nat.zero_le _,Below.refl _ _,Lib.hid fun j _ h=>absurd h (by omega)⟩
 case round=>
  obtain ⟨i,rfl,hi,hb,HS⟩:=hrel
  have HB:=Lib.hid hb
  have hbs:=hb.size
  clear hb
  by_cases hlt:i<n
  ·have hiD:i<D.length:=by rw [HN.out];exact hlt
   obtain ⟨x0,x1,x2,x3,x4⟩:=(H.out.below HB.out (Nat.le_refl _)).asked i hiD
   obtain ⟨q,hq⟩:∃q,D[i]'hiD=q:=⟨_,rfl⟩
   rw [hq] at x0 x1 x2 x3 x4
   have HQ:=Lib.hid hq
   have HC:=fun w=>Lib.hid (sO q.t q.ad q.len q.cap w)
   obtain ⟨b,hb⟩:∃b,dM q.t=b:=⟨_,rfl⟩
   rw [hb] at HC
   have HBB:=Lib.hid hb
   clear hq hb
   unfold eu at HC
   cases b
   ·go_wp2_with (fail)
    refine (HC _).out.mono ?_
    rintro e w1 ⟨rfl,b1⟩
    have HB1:=Lib.hid (HB.out.trans (b1.mono HB.out.size))
    have HS1:Hid (∀j (hj:j<D.length),j<i+1→dM D[j].t=false):=Lib.hid fun j hj hji=>by
     rcases Nat.lt_or_eq_of_le (Nat.le_of_lt_succ hji) with h1|rfl
     ·exact HS.out j hj h1
     ·rw [HQ.out];exact HBB.out
    clear b1
    go_wp2
    go_roundw
    case rel=>exact ⟨i+1,by go_num,by omega,HB1.out,HS1⟩
    case measure=>simp [ae];omega
   ·go_wp2_with (fail)
    refine (HC _).out.mono ?_
    rintro e w1 ⟨rfl,b1⟩
    have HB1:=Lib.hid (HB.out.trans (b1.mono HB.out.size))
    clear b1
    go_wp2
    go_ret
    exact ⟨⟨_,rfl,.inr ⟨i,hiD,rfl,by rw [HQ.out];exact HBB.out,HS.out⟩⟩,HB1.out⟩
  ·have hin:i=n:=by omega
   go_wp2
   go_ret
   exact ⟨⟨_,rfl,.inl ⟨rfl,fun j hj=>HS.out j hj (by have:=HN.out;omega)⟩⟩,HB.out⟩
end Go.Proofs.YtajpoodpbbbkfaaGreatDoor
namespace Go.Proofs.YtajpoodpbbbkfaaGreatDoor
open Go.RowKit Go.Lib
theorem uy (w:World) (f:Value):Calls Tryz.prog 63 #[.slice none 0 0,f] w fun e w'=>e= .returned (.slice none 0 0)∧w'=w:=by
 have HI:=fun w=>Lib.hid (xw w f)
 go_enter Tryz.func63,Tryz.ntmps63
 go_wp2_with (fail)
 refine (HI _).out.mono ?_
 rintro e w1 ⟨rfl,rfl⟩
 go_wp2
 go_ret
 exact ⟨rfl,rfl⟩
theorem uz (B g cap n:Nat) (D:List aY) (R:List Value) (w:World) (h:iS w g cap D R) (hn:D.length=n) (hB:B≤g):Calls Tryz.prog 63 #[.slice (some ⟨g,0,none⟩) n cap,.func (.func 65) #[] #[]] w fun e w'=>∃E m,e= .returned (.slice (some ⟨g,0,none⟩) m cap)∧iS w' g cap E R∧m≤n∧E.length=n∧E.take m=(D.filter fun q=> !dM q.t)∧Below B w w':=by
 have hm:=h.most
 have hf:=h.fits
 unfold maxLen at hm
 have H:=Lib.hid h
 have HN:=Lib.hid hn
 have hnc:n≤cap:=by omega
 have hgl:=h.lt
 have HB0:=Lib.hid hB
 have HI:=fun w h=>Lib.hid (xx g cap n D R w h hn)
 clear h hn hf hB
 go_enter Tryz.func63,Tryz.ntmps63
 go_wp2_with (fail)
 refine (HI _ H.out).out.mono ?_
 rintro e w1 ⟨⟨r,rfl,hr⟩,b1⟩
 have H1:=Lib.hid (H.out.below b1 (Nat.le_refl _))
 have B1:=Lib.hid (b1.mono (show B≤w.heap.size by have:=HB0.out;omega))
 clear b1 HI
 rcases hr with ⟨rfl,hall⟩|⟨k,hk,rfl,hs,hall⟩
 ·have HA:=Lib.hid hall
  clear hall
  go_wp2
  go_ret
  refine ⟨D,n,rfl,H1.out,Nat.le_refl _,HN.out,?_,B1.out⟩
  have:=qH (L:=D) (k:=D.length) (fun j hj _=>HA.out j hj) (Nat.le_refl _)
  rw [List.take_length] at this
  rw [this,List.take_of_length_le (by rw [HN.out];exact Nat.le_refl _)]
 ·have HK0:=Lib.hid (oJ.start hall hk hs)
  have hkn:k<n:=by rw [←HN.out];exact hk
  have hne:((k:Int)== -1)=false:=beq_eq_false_iff_ne.2 (by omega)
  clear hall hk hs
  go_wp2
  clear hne
  go_loopw [5,6,7] (fun v5 v6 _ wr=>∃(i j:Nat) (E:List aY),v5= .int .i64 (i:Int)∧v6= .int .i64 (j:Int)∧i<j∧j≤n∧iS wr g cap E R∧Below B w wr∧Hid (oJ D E j i)) (fun _ v _ _=>n-(ae v).toNat)
  case atStart=>exact ⟨k,k+1,D,rfl,by go_num,by omega,by omega,H1.out,B1.out,HK0⟩
  case round=>
   obtain ⟨i,j,E,rfl,rfl,hij,hjn,hrow,hb,HK⟩:=hrel
   have HR:=Lib.hid hrow
   have HB:=Lib.hid hb
   have hgr:=hrow.lt
   have hE:=HK.out.len
   rw [HN.out] at hE
   have hbs:=hb.size
   clear hrow hb H1 B1 HK0
   by_cases hlt:j<n
   ·have hjE:j<E.length:=by omega
    have hjD:j<D.length:=by rw [HN.out];exact hlt
    have hiE:i<E.length:=by omega
    obtain ⟨x0,x1,x2,x3,x4⟩:=HR.out.asked j hjE
    have hget:=HK.out.get hjD
    obtain ⟨q,hq⟩:∃q,E[j]'hjE=q:=⟨_,rfl⟩
    rw [hq] at x0 x1 x2 x3 x4 hget
    have HQ:=Lib.hid (HR.out.atts q (by rw [←hq];exact List.getElem_mem hjE))
    have HC:=fun w=>Lib.hid (sO q.t q.ad q.len q.cap w)
    obtain ⟨b,hb⟩:∃b,dM q.t=b:=⟨_,rfl⟩
    rw [hb] at HC
    have hbD:dM (D[j]'hjD).t=b:=by rw [←hget];exact hb
    have HG:=Lib.hid hget
    have HDB:=Lib.hid hbD
    clear hq hb hget hbD
    unfold eu at HC
    cases b
    ·have HK1:=Lib.hid (HK.out.keep hjD HDB.out)
     rw [←HG.out] at HK1
     go_wp2_with (fail)
     refine (HC _).out.mono ?_
     rintro e w3 ⟨rfl,b3⟩
     have HV:=Lib.hid (((pB wr q.t q.ad q.len q.cap 33)).below b3 (by simp))
     have HR3:=Lib.hid ((HR.out.below ((Below.refl _ wr).alloc (Nat.le_refl _) _) (Nat.le_refl _)).below b3 (Nat.le_refl _))
     have HQ3:=Lib.hid (show xu w3 g q from ⟨(HQ.out.1.below ((Below.refl _ wr).alloc (Nat.le_refl _) _) (Nat.le_refl _)).below b3 (Nat.le_refl _),HQ.out.2⟩)
     have B3:=Lib.hid ((HB.out.alloc (by have:=HB0.out;omega) _).trans (b3.mono (by simp;have:=HB0.out;omega)))
     clear b3
     go_wp2_with (first
      |(refine cC rfl _ rfl wr.heap.size q.t q.ad q.len q.cap rfl HV.out ?_)
      |(refine nB rfl _ _ rfl g i q _ rfl (by simp) rfl HR3.out hiE HQ3.out ?_;intro w4 hr4 hg4))
     have B4:=Lib.hid (B3.out.grown hg4 (by have:=HB0.out;have:=HR3.out.lt;omega) (fun k hk=>by cases hk;exact HB0.out))
     have HR4:=Lib.hid hr4
     clear hr4 hg4
     go_wp2
     go_roundw
     case rel=>exact ⟨i+1,j+1,_,by go_num,by go_num,by omega,by omega,HR4.out,B4.out,HK1⟩
     case measure=>simp [ae];omega
    ·have HK1:=Lib.hid (HK.out.skip hjD HDB.out)
     go_wp2_with (fail)
     refine (HC _).out.mono ?_
     rintro e w3 ⟨rfl,b3⟩
     have HR3:=Lib.hid ((HR.out.below ((Below.refl _ wr).alloc (Nat.le_refl _) _) (Nat.le_refl _)).below b3 (Nat.le_refl _))
     have B3:=Lib.hid ((HB.out.alloc (by have:=HB0.out;omega) _).trans (b3.mono (by simp;have:=HB0.out;omega)))
     clear b3
     go_wp2
     go_roundw
     case rel=>exact ⟨i,j+1,E,rfl,by go_num,by omega,by omega,HR3.out,B3.out,HK1⟩
     case measure=>simp [ae];omega
   ·obtain rfl:j=n:=by omega
    have HD1:Hid (E.take i=D.filter fun q=> !dM q.t):=Lib.hid (by
     have:=HK.out
     have hl:=HN.out
     rw [←hl] at this
     exact this.done)
    have hic:cap≠i:=by omega
    have hin:i≤j:=by omega
    obtain ⟨w4,hcl,hr4,hg4⟩:=B0 HR.out i (by omega) 29 0 Tryz.underlying29 (j-i) (cap-i) (by omega)
    have B4:=Lib.hid (HB.out.grown hg4 (by have:=HB0.out;have:=HR.out.lt;omega) (fun k hk=>by cases hk;exact HB0.out))
    have HR4:=Lib.hid hr4
    clear hr4 hg4
    go_wp2
    go_ret
    refine ⟨_,i,rfl,HR4.out,hin,by simp;omega,?_,B4.out⟩
    rw [List.take_append_of_le_length (by rw [List.length_take];omega),List.take_of_length_le (by rw [List.length_take];omega)]
    exact HD1.out
end Go.Proofs.YtajpoodpbbbkfaaGreatDoor
namespace Go.Proofs.YtajpoodpbbbkfaaGreatDoor
open Go.RowKit Go.Lib
theorem Cc (M:List aq) (n:Nat) (h:M.length≤n):dm (M.drop n)=(0,[]):=by
 rw [List.drop_eq_nil_of_le h];rfl
theorem uA (a:Option Addr) (len cap:Nat) (M:List aq) (w:World) (hL:gr w a len cap M) (hlen:len≤2097152) (htx:∀t∈M,t.text.length≤16777216):Calls Tryz.prog 66 #[.slice a len cap] w fun e w'=>e= .returned (.tuple #[.string ⟨(dm M).2.toArray⟩,.int .i64 ((dm M).1:Int)])∧Below w.heap.size w w':=by
 have hll:=hL.1
 have HL:=Lib.hid hL
 have HT:=Lib.hid htx
 obtain ⟨H,hH⟩:∃H,dm M=H:=⟨_,rfl⟩
 rw [hH]
 have HH:=Lib.hid hH
 clear hL htx hH
 go_enter Tryz.func66,Tryz.ntmps66
 go_wp2
 go_loopw [3] (fun v wr=>∃(n:Nat) (acc:List UInt8),v= .int .i64 (n:Int)∧Lib.IsBuilderF 54 5 w.heap.size w.heap.size (Lib.byteCells acc) wr∧Below w.heap.size w wr∧n≤len∧acc.length≤n*16777216∧Hid (acc++(dm (M.drop n)).2=H.2∧n+(dm (M.drop n)).1=H.1)) (fun v _=>len-(ae v).toNat)
 case atStart=>exact ⟨0,[],rfl,Lib.IsBuilderF.of (Lib.fresh_isBuilder _ _ w),(Below.refl _ w).alloc (Nat.le_refl _) _,Nat.zero_le _,Nat.zero_le _,Lib.hid ⟨by rw [List.drop_zero,HH.out];rfl,by rw [List.drop_zero,HH.out];omega⟩⟩
 case round=>
  obtain ⟨n,acc,rfl,hI,hb,hn,hac,HK⟩:=hrel
  have HI:=Lib.hid hI
  have HB:=Lib.hid hb
  have hsz:=hb.size
  clear hI hb
  by_cases hlt:n<len
  ·have hnM:n<M.length:=by omega
   obtain ⟨x,ad,ln,cp,rfl,xc,-⟩:=HL.out.2.2.2 n hnM
   obtain ⟨x0,-,x2,-,-⟩:=(xc.below HB.out (Nat.le_refl _)).asked
   simp only at x0 x2
   have htl:=HT.out (M[n]'hnM) (List.getElem_mem hnM)
   have hXt:(⟨(M[n]'hnM).text.toArray⟩:ByteArray).data.toList=(M[n]'hnM).text:=List.toList_toArray
   obtain ⟨X,hX⟩:∃X:ByteArray,(⟨(M[n]'hnM).text.toArray⟩:ByteArray)=X:=⟨_,rfl⟩
   rw [hX] at x2 hXt
   have hXs:X.size≤16777216:=by rw [Lib.size_eq,hXt];exact htl
   have HXT:=Lib.hid hXt
   clear xc htl hXt hX
   by_cases hk:(M[n]'hnM).kind=0
   ·rw [hk] at x0
    have hd:=BU M n hnM hk
    have HK2:Hid ((acc++X.data.toList)++(dm (M.drop (n+1))).2=H.2∧(n+1)+(dm (M.drop (n+1))).1=H.1):=Lib.hid (by
     have h1:=HK.out
     rw [hd] at h1
     rw [HXT.out,List.append_assoc]
     exact ⟨h1.1,by have:=h1.2;omega⟩)
    have HXc:=Lib.hid (show Lib.strCells X=Lib.byteCells X.data.toList from rfl)
    have hXl:X.data.toList.length=X.size:=by rw [Lib.size_eq]
    have HXl:=Lib.hid hXl
    clear hk hd HXT hXl
    go_wp2_with (fail)
    refine (et w.heap.size w.heap.size _ X _ HI.out (by rw [Lib.byteCells_length];omega) hsz).mono ?_
    rintro e w2 ⟨rfl,h1,b1,-⟩
    rw [HXc.out,←Lib.byteCells_append] at h1
    have HI2:=Lib.hid h1
    have HB2:=Lib.hid (HB.out.trans b1)
    clear h1 b1
    go_wp2
    go_roundw
    case rel=>exact ⟨n+1,acc++X.data.toList,by go_num,.inr HI2.out,HB2.out,by omega,by rw [List.length_append,HXl.out];omega,HK2⟩
    case measure=>simp [ae];omega
   ·have bk:((M[n]'hnM).kind==0)=false:=beq_eq_false_iff_ne.2 hk
    have hd:=BV M n hnM hk
    have HK2:Hid (acc=H.2∧n=H.1):=Lib.hid (by
     have h1:=HK.out
     rw [hd,List.append_nil] at h1
     exact h1)
    clear hk hd HXT HK
    go_wp2_with (fail)
    refine (Tryz.Builder_String_any_k w.heap.size w.heap.size acc _ HI.out hsz).mono ?_
    rintro e w3 ⟨rfl,_,b2,_⟩
    have HB3:=Lib.hid (HB.out.trans b2)
    clear b2
    go_wp2
    go_ret2
    exact ⟨by rw [←HK2.out.1,←HK2.out.2];rfl,HB3.out⟩
  ·have HK2:Hid (acc=H.2∧n=H.1):=Lib.hid (by
    have h1:=HK.out
    rw [Cc M n (by omega),List.append_nil] at h1
    exact h1)
   clear HK
   go_wp2_with (fail)
   refine (Tryz.Builder_String_any_k w.heap.size w.heap.size acc _ HI.out hsz).mono ?_
   rintro e w3 ⟨rfl,_,b2,_⟩
   have HB3:=Lib.hid (HB.out.trans b2)
   clear b2
   go_wp2
   go_ret2
   exact ⟨by rw [←HK2.out.1,←HK2.out.2];rfl,HB3.out⟩
def jh (B:Nat) (q:aY):Prop:=q.t.attrs=[]∨∀k,(Value.slice q.ad q.len q.cap).ownBlock=some k→B≤k
theorem LW (x:Addr) (n m:Nat):(x.add n).add m=x.add (n+m):=by
 unfold Addr.add
 by_cases h:n=0
 ·subst h;simp
 ·by_cases h2:m=0
  ·subst h2;simp [h]
  ·simp [h,h2];omega
theorem cd.nothing (w:World) (B:Nat) (a:Option Addr) (c:Nat) (h:c≤maxLen):cd w B a 0 c []:=⟨rfl,Nat.zero_le _,h,fun i h=>by cases h⟩
theorem cd.cut {w:World} {B:Nat} {x:Addr} {len cap:Nat} {M:List aq} (h:cd w B (some x) len cap M) (k:Nat) (hk:k≤len):cd w B (some (x.add (k*5))) (len-k) (cap-k) (M.drop k):=by
 obtain ⟨h1,h2,h3,h4⟩:=h
 refine ⟨by rw [List.length_drop];omega,by omega,by omega,fun i hi=>?_⟩
 rw [List.length_drop] at hi
 obtain ⟨y,ad,ln,cp,hy,hc,hr,hn⟩:=h4 (k+i) (by omega)
 obtain rfl:=Option.some.inj hy
 have e:(M.drop k)[i]'(by rw [List.length_drop];exact hi)=M[k+i]'(by omega):=List.getElem_drop
 refine ⟨x.add (k*5),ad,ln,cp,rfl,?_,by rw [e];exact hr,by rw [e];exact hn⟩
 rw [e]
 have ea:∀j,(x.add (k*5)).add (i*5+j)=x.add ((k+i)*5+j):=fun j=>by rw [LW];congr 1;omega
 exact ⟨by rw [←Nat.add_zero (i*5),ea];exact hc.c0,by rw [ea];exact hc.c1,by rw [ea];exact hc.c2,by rw [ea];exact hc.c3,by rw [ea];exact hc.c4⟩
theorem iS.toks {w:World} {B g cap:Nat} {E:List aY} {R:List Value} (h:iS w g cap E R) (m:Nat) (hm:m≤E.length) (hB:∀q∈E.take m,jh B q):cd w B (some ⟨g,0,none⟩) m cap ((E.take m).map aY.t):=by
 refine ⟨by rw [List.length_map,List.length_take];omega,by have:=h.fits;omega,h.most,fun i hi=>?_⟩
 rw [List.length_map,List.length_take] at hi
 have hiE:i<E.length:=by omega
 have e:((E.take m).map aY.t)[i]'(by rw [List.length_map,List.length_take];exact hi)=E[i].t:=by rw [List.getElem_map,List.getElem_take]
 have hmem:E[i]∈E.take m:=by
  rw [←List.getElem_take (h:=by rw [List.length_take];exact hi)]
  exact List.getElem_mem _
 refine ⟨_,E[i].ad,E[i].len,E[i].cap,rfl,by rw [e];exact h.cells i hiE,by rw [e];exact (h.atts _ (List.getElem_mem hiE)).1,by rw [e];exact hB _ hmem⟩
def zS:Value→Nat
 | .slice _ n _=>n
 |_=>0
end Go.Proofs.YtajpoodpbbbkfaaGreatDoor
namespace Go.Proofs.YtajpoodpbbbkfaaGreatDoor
open Go.RowKit Go.Lib
theorem xy (n c:Nat) (w:World):Calls Tryz.prog 29 #[.slice none n c] w fun e w'=>e= .returned (.slice none 0 0)∧w'=w:=by
 have HC:=fun w=>Lib.hid (Ca w n c)
 have HD:=fun w=>Lib.hid (uy w (.func (.func 65) #[] #[]))
 go_enter Tryz.func29,Tryz.ntmps29
 go_wp2_with (fail)
 refine (HC _).out.mono ?_
 rintro e w1 ⟨rfl,rfl⟩
 go_wp2_with (fail)
 refine (HD _).out.mono ?_
 rintro e w1 ⟨rfl,rfl⟩
 go_wp2
 go_loopw [3,4] (fun v3 v4 wr=>v3= .slice none 0 0∧v4= .slice none 0 0∧w1=wr) (fun _ _ _=>0)
 case atStart=>exact ⟨rfl,rfl,rfl⟩
 case round=>
  obtain ⟨rfl,rfl,rfl⟩:=hrel
  go_wp2
  go_ret
  exact ⟨rfl,rfl⟩
theorem Pd : (Tryz.prog.info? 9).map (·.size) = some 1 := by kernel_rfl
theorem I9 {w:World} {g:Nat} {X:ByteArray} {S:ab} {ad:Option Addr} {ln cp:Nat} (h:w.heap[g]? =some (.cells ((#[.int .i64 0,.string ⟨#[]⟩,.string X,.slice ad ln cp,.bool false]:Array Value).setIfInBounds 2 (.string ⟨S.toArray⟩)) 33 (0,0))):fF w g ⟨0,[],S,[],false⟩ ad ln cp:=by
 have e:(#[.int .i64 0,.string ⟨#[]⟩,.string X,.slice ad ln cp,.bool false]:Array Value).setIfInBounds 2 (.string ⟨S.toArray⟩)=#[.int .i64 0,.string ⟨#[]⟩,.string ⟨S.toArray⟩,.slice ad ln cp,.bool false]:=rfl
 rw [e] at h
 exact aN h
theorem ji {ops:Array Oper} {rest:List Oper} {o:Oper} {a:Act} {w:World} {Q:Exit→Act→World→Prop} (hg:o.guard=none) (x y:Operand) (ho:o.op= .store 9 x y) (g:Nat) (X:ByteArray) (S:ab) (ad:Option Addr) (ln cp:Nat) (hx:a.eval x= .pointer (some ⟨g,2,none⟩)) (hy:a.eval y= .string ⟨S.toArray⟩) (hb:w.heap[g]? =some (.cells #[.int .i64 0,.string ⟨#[]⟩,.string X,.slice ad ln cp,.bool false] 33 (0,0))) (hK:∀w',fF w' g ⟨0,[],S,[],false⟩ ad ln cp→w.grownBy w' (some g)→wpList Tryz.prog ops Q rest (a.put o.dst undef) w'):wpList Tryz.prog ops Q (o::rest) a w:=
 jR hg 9 x y ho g 2 (.string ⟨S.toArray⟩) 33 hx hy _ hb (by simp) Pd rfl rfl (fun w' h1 h2=>hK w' (I9 h1) h2)
theorem jT {ops:Array Oper} {rest:List Oper} {o:Oper} {a:Act} {w:World} {Q:Exit→Act→World→Prop} (hg:o.guard=none) (x:Operand) (ho:o.op= .load 33 x) (g:Nat) (S:ab) (ad:Option Addr) (ln cp:Nat) (hx:a.eval x= .pointer (some ⟨g,0,none⟩)) (hT:fF w g ⟨0,[],S,[],false⟩ ad ln cp) (hK:wpList Tryz.prog ops Q rest (a.put o.dst (.agg #[.int .i64 0,.string ⟨#[]⟩,.string ⟨S.toArray⟩,.slice ad ln cp,.bool false])) w):wpList Tryz.prog ops Q (o::rest) a w:=
 cC hg x ho g ⟨0,[],S,[],false⟩ ad ln cp hx hT hK
theorem zT (B:Nat) (x:Addr) (len cap:Nat) (L:List aq) (w:World) (hL:cd w B (some x) len cap L) (hlen:len≤2097152) (htx:∀t∈L,t.text.length≤16777216) (hj:∀t∈L,jO t):Calls Tryz.prog 29 #[.slice (some x) len cap] w fun e w'=>∃v Q,e= .returned v∧aH w' w.heap.size v Q∧Q.map aY.t=bX L∧(∀q∈Q,jh B q)∧Below w.heap.size w w':=by
 obtain ⟨i0,hi0,hz0,hz1,hz2⟩:=info_parts gL
 obtain ⟨T,hT⟩:∃T,bX L=T:=⟨_,rfl⟩
 rw [hT]
 have HTT:=Lib.hid hT
 clear hT
 have HC:=fun w h=>Lib.hid (Cb w B x len cap L h hlen)
 have HT:=Lib.hid htx
 have HJ:=Lib.hid hj
 have HL:=Lib.hid hL
 clear hL htx hj
 go_enter Tryz.func29,Tryz.ntmps29
 go_wp2_with (fail)
 refine (HC _ HL.out).out.mono ?_
 rintro e w1 ⟨g,c1,Q,R,rfl,hg,hrow,hQ1,hQ2,hQ3,b1⟩
 have HROW:=Lib.hid hrow
 have HG:=Lib.hid hg
 have HQ1:=Lib.hid hQ1
 have HQ3:=Lib.hid hQ3
 have HB1:=Lib.hid b1
 have HQ2:=Lib.hid hQ2
 clear hrow hg hQ1 hQ2 hQ3 b1 HC HL
 have HD:=fun w1 h=>Lib.hid (uz w.heap.size g c1 len Q R w1 h HQ2.out HG.out)
 go_wp2_with (fail)
 refine (HD _ HROW.out).out.mono ?_
 rintro e w2 ⟨E,m,rfl,hrow,hm,hE,htk,b2⟩
 have HB2:=Lib.hid (HB1.out.trans b2)
 have hs2:=HB2.out.size
 have HK1:Hid ((E.take m).map aY.t=L.filter fun t=> !dM t):=Lib.hid (by rw [htk,IR,HQ1.out])
 have HT0:=Lib.hid (hrow.toks (B:=B) m (by omega) (fun q hq=>HQ3.out q (by
  rw [htk] at hq
  exact (List.mem_filter.1 hq).1)))
 rw [HK1.out] at HT0
 have HS0:Hid (bX (L.filter fun t=> !dM t)=T):=Lib.hid (by rw [←HTT.out];exact oI L [])
 have HP0:Hid (∀t∈L.filter (fun t=> !dM t),dM t=false∧jO t∧t.text.length≤16777216):=Lib.hid (fun t ht=>by
  obtain ⟨h1,h2⟩:=List.mem_filter.1 ht
  exact ⟨by simpa using h2,HJ.out t h1,HT.out t h1⟩)
 have hm2:m≤2097152:=by omega
 clear hrow hm hE htk b2 HK1 HTT HROW HQ1 HQ2 HQ3 HB1 HD HT HJ
 go_wp2
 go_loopw [3,4] (fun v3 v4 wr=>∃(K:List aq) (a':Option Addr) (m' c':Nat) (O:List aY),v3= .slice a' m' c'∧Hid (cd w2 B a' m' c' K)∧aH wr w2.heap.size v4 O∧Below w2.heap.size w2 wr∧O.length+m'≤2097152∧Hid (O.map aY.t++bX K=T)∧Hid (∀q∈O,jh B q)∧Hid (∀t∈K,dM t=false∧jO t∧t.text.length≤16777216)) (fun v _ _=>zS v)
 case atStart=>exact ⟨_,_,m,c1,[],rfl,HT0,bK _ _,Below.refl _ _,by simp;omega,HS0,Lib.hid (fun q h=>by cases h),HP0⟩
 case round=>
  obtain ⟨K,a',m',c',O,rfl,HTK,ho,hb,hom,HS,HN,HP⟩:=hrel
  have HO:=Lib.hid ho
  have HB:=Lib.hid hb
  have hbs:=hb.size
  clear ho hb HT0 HS0 HP0
  cases K with
  |nil=>
   obtain rfl:m'=0:=HTK.out.1.symm
   have HS1:Hid (O.map aY.t=T):=Lib.hid (by
    have h:=HS.out
    rw [show bX []=[] from rfl,List.append_nil] at h
    exact h)
   have HB9:=Lib.hid (HB2.out.trans (HB.out.mono hs2))
   have HO9:=Lib.hid (HO.out.base hs2)
   clear HS
   go_wp2
   go_ret
   exact ⟨_,O,rfl,HO9.out,HS1.out,HN.out,HB9.out⟩
  |cons t K=>
   have hml:K.length+1=m':=HTK.out.1
   have hmc:=HTK.out.2.1
   have hcm:=HTK.out.2.2.1
   unfold maxLen at hcm
   obtain ⟨y,ad,ln,cp,rfl,xc,xr,xn⟩:=HTK.out.2.2.2 0 (Nat.succ_pos _)
   simp only [List.getElem_cons_zero] at xc xr xn
   obtain ⟨x0,x1,x2,x3,x4⟩:=(xc.below HB.out (Nat.le_refl _)).asked
   have e0:y.add (0*5)=y:=rfl
   rw [e0] at x0 x1 x2 x3 x4
   obtain ⟨p1,p2,p3⟩:=HP.out t (.head _)
   have HPK:∀k,Hid (∀u∈(t::K).drop k,dM u=false∧jO u∧u.text.length≤16777216):=fun k=>Lib.hid (fun u hu=>HP.out u (List.mem_of_mem_drop hu))
   have hp1:1≤m':=by omega
   clear xc e0
   by_cases hk:t.kind=0
   ·obtain ⟨q1,q2,q3⟩:=p2 hk
    have HA:=fun w h=>Lib.hid (uA (some y) m' c' (t::K) w h (by omega) (fun u hu=>(HP.out u hu).2.2))
    have hjt:=BT t K hk p1
    have hpos:=Fr t K hk
    have hle:=zJ (t::K)
    rw [List.length_cons] at hle
    obtain ⟨N,hN⟩:∃N,(dm (t::K)).1=N:=⟨_,rfl⟩
    obtain ⟨S,hS⟩:∃N,(dm (t::K)).2=N:=⟨_,rfl⟩
    rw [hN] at hpos hle hjt HA
    rw [hS] at hjt HA
    rw [hk] at x0
    rw [q1] at x1
    rw [q3] at x4
    rw [q2] at xr
    have HXR:=Lib.hid xr
    have HS1:Hid ((O++[(⟨⟨0,[],S,[],false⟩,ad,ln,cp⟩:aY)]).map aY.t++bX ((t::K).drop N)=T):=Lib.hid (by
     have h:=HS.out
     rw [hjt] at h
     rw [List.map_append,List.append_assoc];exact h)
    have HN1:Hid (∀q∈O++[(⟨⟨0,[],S,[],false⟩,ad,ln,cp⟩:aY)],jh B q):=Lib.hid (fun q hq=>by
     rcases List.mem_append.1 hq with h|h
     ·exact HN.out q h
     ·rw [List.mem_singleton.1 h];exact .inl rfl)
    have hNm:N≤m':=by omega
    have hol:O.length+1+(m'-N)≤2097152:=by omega
    have HCUT:=Lib.hid (HTK.out.cut N hNm)
    have HD:=Lib.hid (show c'=N→(t::K).drop N=[] from fun e=>List.drop_eq_nil_of_le (by rw [List.length_cons];omega))
    have HPN:=HPK N
    have HI1:=Lib.hid (HTK.out.toks.below HB.out (Nat.le_refl _))
    clear hk q1 q2 q3 p1 p2 p3 hjt hle hN hS xr xn hml HPK HS HN
    obtain ⟨X,hX⟩:∃X:ByteArray,(⟨t.text.toArray⟩:ByteArray)=X:=⟨_,rfl⟩
    rw [hX] at x2
    clear hX
    go_wp2_with (fail)
    refine (HA _ (HI1.out.below ((Below.refl _ wr).alloc (Nat.le_refl _) _) (Nat.le_refl _))).out.mono ?_
    rintro e w5 ⟨rfl,b5⟩
    have HBX:=Lib.hid ((b5.block wr.heap.size (by simp)).trans (heap_alloc_new wr _))
    have B5:=Lib.hid (((Below.refl _ wr).alloc (Nat.le_refl _) _).trans (b5.mono (by simp)))
    clear b5 HA HI1
    by_cases hcn:c'=N
    ·have hnil:=HD.out hcn
     have hmN:m'=N:=by omega
     have HTKN:=Lib.hid (cd.nothing w2 B (some y) 0 (Nat.zero_le _))
     rw [←hnil] at HTKN
     subst hcn
     subst hmN
     clear HCUT hnil
     go_wp2_with (first
      |(refine ji rfl _ _ rfl wr.heap.size X S ad ln cp rfl rfl HBX.out ?_;intro w6 ht6 hg6;have HT6:=Lib.hid ht6;have B6:=Lib.hid (B5.out.grown hg6 B5.out.size (fun k hk=>by cases hk;exact Nat.le_refl _));have HO6:=Lib.hid (HO.out.below B6.out);have hs6:=B6.out.size;clear ht6 hg6)
      |(refine jT rfl _ rfl wr.heap.size S ad ln cp rfl HT6.out ?_)
      |(at_builtin;refine wpList_append_own_at _ rfl _ _ 29 rfl w2.heap.size 33 i0 _ 5 72 Tryz.underlying29 hi0 hz0 hz1 hz2 rfl (by decide) _ O.length (ag O) rfl (HO6.out.alloc _).1 ⟨w6.heap.size,0,none⟩ 1 1 (ag [⟨⟨0,[],S,[],false⟩,ad,ln,cp⟩]) rfl rfl ?c1 ?c2 ?c3 ?c4 ?c5 ?_))
     case c1=>first|exact bW _ ⟨⟨0,[],S,[],false⟩,ad,ln,cp⟩ _ _ rfl|(intro j u hj;rw [bt] at hj;exact hj)
     case c2=>exact dl _
     case c3=>first|(simp [maxLen];done)|(simp [maxLen];omega)|omega
     case c4=>first|decide|omega
     case c5=>first|omega|(simp;omega)
     intro v7 w7 hown1 hgr1 _ hat1
     have HB6:=Lib.hid (HB.out.trans (B6.out.mono hbs))
     have HP7:=Lib.hid (dc (w:=w2) (q:=⟨⟨0,[],S,[],false⟩,ad,ln,cp⟩) (HO6.out.alloc _) ⟨(HXR.out.below HB6.out (Nat.le_refl _)).below ((Below.refl _ w6).alloc (Nat.le_refl _) _) (Nat.le_refl _),.inl rfl⟩ (HB6.out.alloc HB6.out.size _) (Nat.le_refl _) hown1 hgr1 (by simpa using hat1))
     clear hown1 hgr1 hat1
     go_wp2
     go_roundw
     case rel=>exact ⟨_,_,_,_,_,rfl,HTKN,HP7.out.1,HP7.out.2,by simp;omega,HS1,HN1,HPN⟩
     case measure=>simp [zS];omega
    ·have HTKN:=HCUT
     clear HCUT
     go_wp2_with (first
      |(refine ji rfl _ _ rfl wr.heap.size X S ad ln cp rfl rfl HBX.out ?_;intro w6 ht6 hg6;have HT6:=Lib.hid ht6;have B6:=Lib.hid (B5.out.grown hg6 B5.out.size (fun k hk=>by cases hk;exact Nat.le_refl _));have HO6:=Lib.hid (HO.out.below B6.out);have hs6:=B6.out.size;clear ht6 hg6)
      |(refine jT rfl _ rfl wr.heap.size S ad ln cp rfl HT6.out ?_)
      |(at_builtin;refine wpList_append_own_at _ rfl _ _ 29 rfl w2.heap.size 33 i0 _ 5 72 Tryz.underlying29 hi0 hz0 hz1 hz2 rfl (by decide) _ O.length (ag O) rfl (HO6.out.alloc _).1 ⟨w6.heap.size,0,none⟩ 1 1 (ag [⟨⟨0,[],S,[],false⟩,ad,ln,cp⟩]) rfl rfl ?c1 ?c2 ?c3 ?c4 ?c5 ?_))
     case c1=>first|exact bW _ ⟨⟨0,[],S,[],false⟩,ad,ln,cp⟩ _ _ rfl|(intro j u hj;rw [bt] at hj;exact hj)
     case c2=>exact dl _
     case c3=>first|(simp [maxLen];done)|(simp [maxLen];omega)|omega
     case c4=>first|decide|omega
     case c5=>first|omega|(simp;omega)
     intro v7 w7 hown1 hgr1 _ hat1
     have HB6:=Lib.hid (HB.out.trans (B6.out.mono hbs))
     have HP7:=Lib.hid (dc (w:=w2) (q:=⟨⟨0,[],S,[],false⟩,ad,ln,cp⟩) (HO6.out.alloc _) ⟨(HXR.out.below HB6.out (Nat.le_refl _)).below ((Below.refl _ w6).alloc (Nat.le_refl _) _) (Nat.le_refl _),.inl rfl⟩ (HB6.out.alloc HB6.out.size _) (Nat.le_refl _) hown1 hgr1 (by simpa using hat1))
     clear hown1 hgr1 hat1
     go_wp2
     go_roundw
     case rel=>exact ⟨_,_,_,_,_,rfl,HTKN,HP7.out.1,HP7.out.2,by simp;omega,HS1,HN1,HPN⟩
     case measure=>simp [zS];omega
   ·have bk:(t.kind==0)=false:=beq_eq_false_iff_ne.2 hk
    have HS1:Hid ((O++[(⟨t,ad,ln,cp⟩:aY)]).map aY.t++bX K=T):=Lib.hid (by
     have h:=HS.out
     rw [vE t K hk] at h
     rw [List.map_append,List.append_assoc];exact h)
    have HN1:Hid (∀q∈O++[(⟨t,ad,ln,cp⟩:aY)],jh B q):=Lib.hid (fun q hq=>by
     rcases List.mem_append.1 hq with h|h
     ·exact HN.out q h
     ·rw [List.mem_singleton.1 h];exact xn)
    have hol:O.length+1+(m'-1)≤2097152:=by omega
    have HCUT:=Lib.hid (HTK.out.cut 1 hp1)
    have HD:=Lib.hid (show c'=1→K=[] from fun e=>List.eq_nil_of_length_eq_zero (by omega))
    have HPN:=HPK 1
    have HAT:=Lib.hid (vL (q:=⟨t,ad,ln,cp⟩) xr HB.out HO.out)
    have HO6:=Lib.hid ((HO.out.alloc (.cells #[.int .i64 t.kind,.string ⟨t.name.toArray⟩,.string ⟨t.text.toArray⟩,.slice ad ln cp,.bool t.self] 33)).alloc (.cells #[.int .i64 t.kind,.string ⟨t.name.toArray⟩,.string ⟨t.text.toArray⟩,.slice ad ln cp,.bool t.self] 33))
    rw [List.drop_succ_cons,List.drop_zero] at HCUT HPN
    clear hk p1 p2 p3 xr xn hml HPK HS HN
    go_wp2_with (at_builtin;refine wpList_append_own_at _ rfl _ _ 29 rfl w2.heap.size 33 i0 _ 5 72 Tryz.underlying29 hi0 hz0 hz1 hz2 rfl (by decide) _ O.length (ag O) rfl (HO6.out).1 ⟨wr.heap.size+1,0,none⟩ 1 1 (ag [⟨t,ad,ln,cp⟩]) rfl rfl ?c1 ?c2 ?c3 ?c4 ?c5 ?_)
    case c1=>first|exact bW _ ⟨t,ad,ln,cp⟩ _ _ (by simp)|(intro j u hj;rw [bt] at hj;exact hj)
    case c2=>exact dl _
    case c3=>first|(simp [maxLen];done)|(simp [maxLen];omega)|omega
    case c4=>first|decide|omega
    case c5=>first|omega|(simp;omega)
    intro v7 w7 hown1 hgr1 _ hat1
    have HP7:=Lib.hid (dc (w:=w2) (q:=⟨t,ad,ln,cp⟩) HO6.out (HAT.out.below (((Below.refl _ wr).alloc (Nat.le_refl _) _).alloc (by simp) _)) ((HB.out.alloc hbs _).alloc (by simp;omega) _) (Nat.le_refl _) hown1 hgr1 (by simpa using hat1))
    clear hown1 hgr1 hat1 bk
    by_cases hcn:c'=1
    ·have hnil:=HD.out hcn
     have hmN:m'=1:=by omega
     have HTKN:=Lib.hid (cd.nothing w2 B (some y) 0 (Nat.zero_le _))
     rw [←hnil] at HTKN
     subst hcn
     subst hmN
     clear HCUT hnil
     go_wp2
     go_roundw
     case rel=>exact ⟨K,_,_,_,_,rfl,HTKN,HP7.out.1,HP7.out.2,by simp;omega,HS1,HN1,HPN⟩
     case measure=>simp [zS]
    ·have HTKN:=HCUT
     clear HCUT
     go_wp2
     go_roundw
     case rel=>exact ⟨K,_,_,_,_,rfl,HTKN,HP7.out.1,HP7.out.2,by simp;omega,HS1,HN1,HPN⟩
     case measure=>simp [zS];omega
end Go.Proofs.YtajpoodpbbbkfaaGreatDoor
