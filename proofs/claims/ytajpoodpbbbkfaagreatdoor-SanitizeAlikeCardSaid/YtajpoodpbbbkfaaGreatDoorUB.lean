/-
  Texts laid together: UtfLaws, UtfRow, UtfJoin, UtfRefLeast.
-/
import Derived.Test.YtajpoodpbbbkfaaGreatDoorUA
import Derived.Lib.Bytes
import Derived.Test.YtajpoodpbbbkfaaGreatDoorQI
import Derived.Deep.RegionHeld3
import Derived.LoopN
set_option maxHeartbeats 1000000
set_option maxRecDepth 100000
namespace Go.Proofs.YtajpoodpbbbkfaaGreatDoor
open Go.RowKit Go.Lib
theorem fU (w:World) (s:ByteArray) (n:Nat) (fr:Nat × Nat) (hn:s.size=n) (hm:n≤maxLen):ar (w.alloc (.cells (bytesRow s (grownCap w n 0 5)) 5 fr)).drew (.slice (some ⟨w.heap.size,0,none⟩) n (grownCap w n 0 5)) s.data.toList:=by
 subst hn
 refine .inr ⟨_,_,by rw [←size_eq],by rw [←size_eq];exact grownCap_ge w s.size 0 _,grownCap_le_maxLen w s.size 0 _ hm,fun i hi=>?_⟩
 have e:(⟨w.heap.size,0,none⟩:Addr).add i=⟨w.heap.size,i,none⟩:=by simp [Addr.add];omega
 have hj:i<s.data.size:=by simpa using hi
 rw [e]
 show (w.alloc _).cell? _=_
 rw [World.cell?_alloc_mark,bytesRow_at s _ i hj]
 simp
theorem dO {B:Nat} {a w:World} (h:Below B a w) (hB:B≤w.heap.size) (o:Obj):Below B a (w.alloc o).drew:=(h.alloc hB o).drew
theorem wc (A B:ByteArray):(A++B).data.toList=A.data.toList++B.data.toList:=by simp
theorem Pp (l:List UInt8):∃A:ByteArray,(⟨l.toArray⟩:ByteArray)=A∧A.data.toList=l∧A.size=l.length:=⟨_,rfl,ML l,xW l⟩
theorem J1 {A:ByteArray} {l:List UInt8} (h:l=A.data.toList):(⟨l.toArray⟩:ByteArray)=A:=by rw [h]
end Go.Proofs.YtajpoodpbbbkfaaGreatDoor
namespace Go.Proofs.YtajpoodpbbbkfaaGreatDoor
open Go.RowKit Go.Lib
theorem fw {w:World} {a:Option Addr} {len cap:Nat} {zs:List Int} (h:(a=none∧len=0∧cap=0∧zs=[])∨∃x,a=some x∧len≤cap∧cap≤maxLen∧zs.length=cap∧(∀i,i<zs.length→w.cell? (x.add i)=some (.int .u8 (zs.getD i 0)))∧∀n∈zs,(Lit.int .u8 n).wf=true):∃l:List UInt8,l.length=len∧ar w (.slice a len cap) l:=by
 rcases h with ⟨rfl,rfl,rfl,rfl⟩|⟨x,rfl,hl,hm,hz,hcell,hwf⟩
 ·exact ⟨[],rfl,.inl ⟨rfl,rfl⟩⟩
 ·have hlen:(bytesOf (zs.take len)).length=len:=by rw [bytesOf_length,List.length_take];omega
  refine ⟨bytesOf (zs.take len),hlen,.inr ⟨x,cap,by rw [hlen],by rw [hlen];exact hl,hm,fun i hi=>?_⟩⟩
  rw [hlen] at hi
  have hi':i<zs.length:=by omega
  have hw:=hwf zs[i] (List.getElem_mem hi')
  have hb:0≤zs[i]∧zs[i]≤255:=by simpa [Lit.wf,IntKind.min,IntKind.max,IntKind.signed,IntKind.bits] using hw
  have e:zs.getD i 0=zs[i]:=by rw [List.getD_eq_getElem?_getD,List.getElem?_eq_getElem hi'];rfl
  rw [hcell i hi',e]
  have g:((bytesOf (zs.take len))[i]'(by rw [hlen];exact hi))=UInt8.ofNat zs[i].toNat:=by simp [bytesOf]
  rw [g]
  have:(UInt8.ofNat zs[i].toNat).toNat=zs[i].toNat:=by
   have:=eU zs[i] hb.1 (by omega)
   simpa [Nat.toUInt8] using this
  rw [this]
  congr 2
  omega
theorem ar.below {w w':World} {v:Value} {l:List UInt8} (h:ar w v l) (hlt:∀x,v.ownBlock=some x→x<w.heap.size) (hb:Below w.heap.size w w'):ar w' v l:=by
 rcases h with h|⟨x,cap,rfl,hl,hc,hcell⟩
 ·exact .inl h
 ·refine .inr ⟨x,cap,rfl,hl,hc,fun i hi=>?_⟩
  rw [hb.cell (p:=x.add i) (by have:=hlt x.block rfl;unfold Addr.add;split<;>exact this)]
  exact hcell i hi
theorem MM {w:World} {a:Option Addr} {len cap:Nat} {l:List UInt8} (h:ar w (.slice a len cap) l):∀x,(Value.slice a len cap).ownBlock=some x→x<w.heap.size∨l=[]:=by
 intro x hx
 rcases h with ⟨_,h⟩|⟨y,cap,hv,hl,hc,hcell⟩
 ·exact .inr h
 ·cases l with
  |nil=>exact .inr rfl
  |cons b t=>
   left
   injection hv with h1 h2 h3
   subst h1
   have:=hcell 0 (by simp)
   have hx':y.block=x:=by simpa [Value.ownBlock] using hx
   subst hx'
   rw [show y.add 0=y by simp [Addr.add]] at this
   rcases Nat.lt_or_ge y.block w.heap.size with h'|h'
   ·exact h'
   ·simp [World.cell?,Array.getElem?_eq_none h'] at this
theorem ar.kept {w w':World} {a:Option Addr} {len cap:Nat} {l:List UInt8} (h:ar w (.slice a len cap) l) (hb:Below w.heap.size w w'):ar w' (.slice a len cap) l:=by
 by_cases hl:l=[]
 ·subst hl
  rcases h with h|⟨x,c,hv,h1,h2,_⟩
  ·exact .inl h
  ·exact .inr ⟨x,c,hv,h1,h2,fun i hi=>absurd hi (by simp)⟩
 ·exact h.below (fun x hx=>(MM h x hx).resolve_right hl) hb
theorem ar.conv_kept {w w':World} {a:Option Addr} {len cap:Nat} {l:List UInt8} (h:ar w (.slice a len cap) l) (hb:Below w.heap.size w w'):(convert 22 9 (.slice a len cap)).run Tryz.prog w'= .ok (.string ⟨l.toArray⟩) w':=(h.kept hb).conv
theorem CO (s t:ByteArray) (w:World):Calls Tryz.prog 36 #[.string s,.string t] w fun e w'=>e= .returned (.bool (hasPrefix s.data.toList t.data.toList))∧w=w':=by
 by_cases h:s.size<t.size
 ·have E:Hid (hasPrefix s.data.toList t.data.toList=false):=Lib.hid (by
   rw [Bool.eq_false_iff]
   intro hp
   unfold hasPrefix at hp
   rw [List.isPrefixOf_iff_prefix] at hp
   have:=hp.length_le
   rw [←size_eq,←size_eq] at this
   omega)
  go_enter Tryz.func36,Tryz.ntmps36
  go_wp2
  go_ret
  exact ⟨au (by rw [E.out]),rfl⟩
 ·have h':t.size≤s.size:=by omega
  go_enter Tryz.func36,Tryz.ntmps36
  go_wp2
  go_ret
  exact ⟨au (by
   rw [ByteArray.toList_eq,ByteArray.toList_eq,extract_data,Bool.eq_iff_iff,beq_iff_eq]
   unfold hasPrefix
   rw [List.isPrefixOf_iff_prefix,List.prefix_iff_eq_take,←size_eq,List.drop_zero,Nat.sub_zero]
   exact ⟨fun h=>h.symm,fun h=>h.symm⟩),rfl⟩
theorem ar.cap {w:World} {a:Option Addr} {len cap:Nat} {l:List UInt8} (h:ar w (.slice a len cap) l):l.length=len∧len≤cap:=by
 rcases h with ⟨hv,rfl⟩|⟨x,c,hv,h1,h2,_⟩
 ·injection hv with h1 h2 h3;subst h2;exact ⟨rfl,Nat.zero_le _⟩
 ·injection hv with h3 h4 h5;subst h4;subst h5;exact ⟨rfl,h1⟩
theorem ar.cut {w:World} {a:Option Addr} {len cap:Nat} {l:List UInt8} (h:ar w (.slice a len cap) l) (k:Nat) (hk0:0<k) (hk:k≤len) (_hc:cap≠k):ar w (.slice (Option.map (fun x=>{block:=x.block,off:=x.off+k}) a) (len-k) (cap-k)) (l.drop k):=by
 rcases h with ⟨hv,rfl⟩|⟨x,c,hv,h1,h2,h3⟩
 ·injection hv with h4 h5 h6;subst h5;omega
 ·injection hv with h4 h5 h6
  subst h4;subst h5;subst h6
  refine .inr ⟨⟨x.block,x.off+k,none⟩,cap-k,?_,?_,by omega,fun i hi=>?_⟩
  ·rw [List.length_drop];rfl
  ·rw [List.length_drop];omega
  ·rw [List.length_drop] at hi
   have:=h3 (k+i) (by omega)
   rw [List.getElem_drop,←this]
   congr 1
   unfold Addr.add
   by_cases h0:i=0
   ·subst h0;simp;intro h;omega
   ·simp [h0];omega
theorem ar.none_left {w:World} {a:Option Addr} {len cap:Nat} {l:List UInt8} (h:ar w (.slice a len cap) l):ar w (.slice a 0 0) []:=by
 rcases h with ⟨hv,rfl⟩|⟨x,c,hv,h1,h2,h3⟩
 ·injection hv with h4 h5 h6;subst h4;exact .inl ⟨rfl,rfl⟩
 ·injection hv with h4 h5 h6;subst h4;exact .inr ⟨x,0,rfl,Nat.le_refl _,Nat.zero_le _,fun i hi=>absurd hi (by simp)⟩
end Go.Proofs.YtajpoodpbbbkfaaGreatDoor
namespace Go.Proofs.YtajpoodpbbbkfaaGreatDoor
open Go.RowKit Go.Lib
theorem da.conv (w:World) (s:ByteArray) (n base:Nat) (hn:s.size=n) (hm:n≤maxLen) (hb:base≤w.heap.size) (fz:Nat × Nat) (hf:fz.1=(bytesRow s (grownCap w n 0 5)).size):da (w.alloc (.cells (bytesRow s (grownCap w n 0 5)) 5 fz)).drew base 5 1 (.slice (some ⟨w.heap.size,0,none⟩) n (grownCap w n 0 5)) n (Lib.byteCells s.data.toList):=by
 have hge:=grownCap_ge w n 0 5
 have hsz:(bytesRow s (grownCap w n 0 5)).size=grownCap w n 0 5*1:=by
  have:s.data.size=n:=hn
  simp [bytesRow,this,hn];omega
 have:=da.new w (bytesRow s (grownCap w n 0 5)) fz base 5 1 n (grownCap w n 0 5) hb (.inr (by rw [hf,hsz];exact Nat.le_refl _)) hge (grownCap_le_maxLen w n 0 _ hm) hsz
 have e:(bytesRow s (grownCap w n 0 5)).toList.take (n*1)=Lib.byteCells s.data.toList:=by
  have h1:s.data.toList.length=n:=by rw [←size_eq];exact hn
  unfold bytesRow
  rw [Array.toList_append,Array.toList_map,Nat.mul_one,List.take_append_of_le_length (by simp [h1]),List.take_of_length_le (by simp [h1])]
  rfl
 rw [e] at this
 exact this.drew
theorem ar.cell {w:World} {a:Option Addr} {len cap:Nat} {l:List UInt8} (h:ar w (.slice a len cap) l) (hl:0<len):∃x:Addr,a=some x∧∀i (hi:i<l.length),w.cell? (x.add i)=some (.int .u8 ((l[i]'hi).toNat:Int)):=by
 rcases h with ⟨hv,rfl⟩|⟨x,c,hv,h1,h2,h3⟩
 ·injection hv with h4 h5 h6;omega
 ·injection hv with h4 h5 h6
  exact ⟨x,h4,h3⟩
theorem ar.cellAt {w:World} {x:Addr} {len cap:Nat} {l:List UInt8} (h:ar w (.slice (some x) len cap) l) (k:Nat) (hk:k<len):w.cell? (x.add k)=some (.int .u8 ((l.getD k 0).toNat:Int)):=by
 have hl:=h.cap.1
 obtain ⟨y,hy,hc⟩:=h.cell (by omega)
 injection hy with hy
 subst hy
 rw [hc k (by omega),List.getD_eq_getElem?_getD,List.getElem?_eq_getElem (by omega)]
 rfl
theorem fg (x:Addr) (k:Nat) (hk:0<k):x.add k=⟨x.block,x.off+k,none⟩:=by unfold Addr.add;rw [if_neg (by omega)]
end Go.Proofs.YtajpoodpbbbkfaaGreatDoor
namespace Go.Proofs.YtajpoodpbbbkfaaGreatDoor
open Go.RowKit Go.Lib
def iu (f t:Int):Int × Int:=if (55296≤f∧t≤57343)∨t<f then (-1,-1) else (f,t)
def cj (p:Int × Int) (w:World) (e:Ending) (w':World):Prop:=∃f t,e= .returned (.tuple #[.int .i64 f,.int .i64 t])∧(f,t)=p∧w=w'
theorem AE (b0:Int) (h0:192≤b0) (h0':b0<224) (x:Addr) (w:World) (cap:Nat) (c0:w.cell? x=some (.int .u8 b0)):Calls Tryz.prog 133 #[.slice (some x) 1 cap] w (cj (iu (max (64*(b0-192)) 128) (min (64*(b0-192)+63) 2047)) w):=by
 go_enter Tryz.func133,Tryz.ntmps133
 go_wp2
 refine wp_loop_rounds 1 ?_
 rw [rounds_succ]
 go_wp2
 refine wp_loop_rounds 2 ?_
 rw [rounds_succ]
 go_wp2
 rw [rounds_succ]
 go_wp2
 all_goals
  go_ret2
  refine ⟨_,_,rfl,?_,rfl⟩
  unfold iu
  split<;>first|rfl|(exfalso;omega)
theorem J3 (b0 b1:Int) (h0:192≤b0) (h0':b0<224) (h1:128≤b1) (h1':b1<192) (x:Addr) (w:World) (cap:Nat) (c0:w.cell? x=some (.int .u8 b0)) (c1:w.cell? ⟨x.block,x.off+1,none⟩=some (.int .u8 b1)):Calls Tryz.prog 133 #[.slice (some x) 2 cap] w (cj (iu (max (64*(b0-192)+b1-128) 128) (min (64*(b0-192)+b1-128) 2047)) w):=by
 go_enter Tryz.func133,Tryz.ntmps133
 go_wp2
 refine wp_loop_rounds 2 ?_
 rw [rounds_succ]
 go_wp2
 rw [rounds_succ]
 go_wp2
 refine wp_loop_rounds 1 ?_
 rw [rounds_succ]
 go_wp2
 all_goals
  go_ret2
  refine ⟨_,_,rfl,?_,rfl⟩
  unfold iu
  split<;>first|rfl|(exfalso;omega)
theorem AF (b0 b1:Int) (h0:192≤b0) (h0':b0<224) (_h1:0≤b1) (h1':b1<128) (x:Addr) (w:World) (cap:Nat) (c0:w.cell? x=some (.int .u8 b0)) (c1:w.cell? ⟨x.block,x.off+1,none⟩=some (.int .u8 b1)):Calls Tryz.prog 133 #[.slice (some x) 2 cap] w (cj (-1,-1) w):=by
 go_enter Tryz.func133,Tryz.ntmps133
 go_wp2
 refine wp_loop_rounds 2 ?_
 rw [rounds_succ]
 go_wp2
 all_goals
  go_ret2
  exact ⟨_,_,rfl,rfl,rfl⟩
theorem AG (b0 b1:Int) (h0:192≤b0) (h0':b0<224) (h1:192≤b1) (h1':b1<256) (x:Addr) (w:World) (cap:Nat) (c0:w.cell? x=some (.int .u8 b0)) (c1:w.cell? ⟨x.block,x.off+1,none⟩=some (.int .u8 b1)):Calls Tryz.prog 133 #[.slice (some x) 2 cap] w (cj (-1,-1) w):=by
 go_enter Tryz.func133,Tryz.ntmps133
 go_wp2
 refine wp_loop_rounds 2 ?_
 rw [rounds_succ]
 go_wp2
 all_goals
  go_ret2
  exact ⟨_,_,rfl,rfl,rfl⟩
theorem J4 (b0:Int) (h0:224≤b0) (h0':b0<240) (x:Addr) (w:World) (cap:Nat) (c0:w.cell? x=some (.int .u8 b0)):Calls Tryz.prog 133 #[.slice (some x) 1 cap] w (cj (iu (max (64*(64*(b0-224))) 2048) (min (64*(64*(b0-224)+63)+63) 65535)) w):=by
 go_enter Tryz.func133,Tryz.ntmps133
 go_wp2
 refine wp_loop_rounds 1 ?_
 rw [rounds_succ]
 go_wp2
 refine wp_loop_rounds 3 ?_
 rw [rounds_succ]
 go_wp2
 rw [rounds_succ]
 go_wp2
 rw [rounds_succ]
 go_wp2
 all_goals
  go_ret2
  refine ⟨_,_,rfl,?_,rfl⟩
  unfold iu
  split<;>first|rfl|(exfalso;omega)
theorem AH (b0 b1:Int) (h0:224≤b0) (h0':b0<240) (h1:128≤b1) (h1':b1<192) (x:Addr) (w:World) (cap:Nat) (c0:w.cell? x=some (.int .u8 b0)) (c1:w.cell? ⟨x.block,x.off+1,none⟩=some (.int .u8 b1)):Calls Tryz.prog 133 #[.slice (some x) 2 cap] w (cj (iu (max (64*(64*(b0-224)+b1-128)) 2048) (min (64*(64*(b0-224)+b1-128)+63) 65535)) w):=by
 go_enter Tryz.func133,Tryz.ntmps133
 go_wp2
 refine wp_loop_rounds 2 ?_
 rw [rounds_succ]
 go_wp2
 rw [rounds_succ]
 go_wp2
 refine wp_loop_rounds 2 ?_
 rw [rounds_succ]
 go_wp2
 rw [rounds_succ]
 go_wp2
 all_goals
  go_ret2
  refine ⟨_,_,rfl,?_,rfl⟩
  unfold iu
  split<;>first|rfl|(exfalso;omega)
theorem AI (b0 b1:Int) (h0:224≤b0) (h0':b0<240) (_h1:0≤b1) (h1':b1<128) (x:Addr) (w:World) (cap:Nat) (c0:w.cell? x=some (.int .u8 b0)) (c1:w.cell? ⟨x.block,x.off+1,none⟩=some (.int .u8 b1)):Calls Tryz.prog 133 #[.slice (some x) 2 cap] w (cj (-1,-1) w):=by
 go_enter Tryz.func133,Tryz.ntmps133
 go_wp2
 refine wp_loop_rounds 2 ?_
 rw [rounds_succ]
 go_wp2
 all_goals
  go_ret2
  exact ⟨_,_,rfl,rfl,rfl⟩
theorem AK (b0 b1:Int) (h0:224≤b0) (h0':b0<240) (h1:192≤b1) (h1':b1<256) (x:Addr) (w:World) (cap:Nat) (c0:w.cell? x=some (.int .u8 b0)) (c1:w.cell? ⟨x.block,x.off+1,none⟩=some (.int .u8 b1)):Calls Tryz.prog 133 #[.slice (some x) 2 cap] w (cj (-1,-1) w):=by
 go_enter Tryz.func133,Tryz.ntmps133
 go_wp2
 refine wp_loop_rounds 2 ?_
 rw [rounds_succ]
 go_wp2
 all_goals
  go_ret2
  exact ⟨_,_,rfl,rfl,rfl⟩
theorem J5 (b0 b1 b2:Int) (h0:224≤b0) (h0':b0<240) (h1:128≤b1) (h1':b1<192) (h2:128≤b2) (h2':b2<192) (x:Addr) (w:World) (cap:Nat) (c0:w.cell? x=some (.int .u8 b0)) (c1:w.cell? ⟨x.block,x.off+1,none⟩=some (.int .u8 b1)) (c2:w.cell? ⟨x.block,x.off+2,none⟩=some (.int .u8 b2)):Calls Tryz.prog 133 #[.slice (some x) 3 cap] w (cj (iu (max (64*(64*(b0-224)+b1-128)+b2-128) 2048) (min (64*(64*(b0-224)+b1-128)+b2-128) 65535)) w):=by
 go_enter Tryz.func133,Tryz.ntmps133
 go_wp2
 refine wp_loop_rounds 3 ?_
 rw [rounds_succ]
 go_wp2
 rw [rounds_succ]
 go_wp2
 rw [rounds_succ]
 go_wp2
 refine wp_loop_rounds 1 ?_
 rw [rounds_succ]
 go_wp2
 all_goals
  go_ret2
  refine ⟨_,_,rfl,?_,rfl⟩
  unfold iu
  split<;>first|rfl|(exfalso;omega)
theorem AL (b0 b1 b2:Int) (h0:224≤b0) (h0':b0<240) (h1:128≤b1) (h1':b1<192) (_h2:0≤b2) (h2':b2<128) (x:Addr) (w:World) (cap:Nat) (c0:w.cell? x=some (.int .u8 b0)) (c1:w.cell? ⟨x.block,x.off+1,none⟩=some (.int .u8 b1)) (c2:w.cell? ⟨x.block,x.off+2,none⟩=some (.int .u8 b2)):Calls Tryz.prog 133 #[.slice (some x) 3 cap] w (cj (-1,-1) w):=by
 go_enter Tryz.func133,Tryz.ntmps133
 go_wp2
 refine wp_loop_rounds 3 ?_
 rw [rounds_succ]
 go_wp2
 rw [rounds_succ]
 go_wp2
 all_goals
  go_ret2
  exact ⟨_,_,rfl,rfl,rfl⟩
theorem AM (b0 b1 b2:Int) (h0:224≤b0) (h0':b0<240) (h1:128≤b1) (h1':b1<192) (h2:192≤b2) (h2':b2<256) (x:Addr) (w:World) (cap:Nat) (c0:w.cell? x=some (.int .u8 b0)) (c1:w.cell? ⟨x.block,x.off+1,none⟩=some (.int .u8 b1)) (c2:w.cell? ⟨x.block,x.off+2,none⟩=some (.int .u8 b2)):Calls Tryz.prog 133 #[.slice (some x) 3 cap] w (cj (-1,-1) w):=by
 go_enter Tryz.func133,Tryz.ntmps133
 go_wp2
 refine wp_loop_rounds 3 ?_
 rw [rounds_succ]
 go_wp2
 rw [rounds_succ]
 go_wp2
 all_goals
  go_ret2
  exact ⟨_,_,rfl,rfl,rfl⟩
theorem AN (b0:Int) (h0:240≤b0) (h0':b0<248) (x:Addr) (w:World) (cap:Nat) (c0:w.cell? x=some (.int .u8 b0)):Calls Tryz.prog 133 #[.slice (some x) 1 cap] w (cj (iu (max (64*(64*(64*(b0-240)))) 65536) (min (64*(64*(64*(b0-240)+63)+63)+63) 1114111)) w):=by
 go_enter Tryz.func133,Tryz.ntmps133
 go_wp2
 refine wp_loop_rounds 1 ?_
 rw [rounds_succ]
 go_wp2
 refine wp_loop_rounds 4 ?_
 rw [rounds_succ]
 go_wp2
 rw [rounds_succ]
 go_wp2
 rw [rounds_succ]
 go_wp2
 rw [rounds_succ]
 go_wp2
 all_goals
  go_ret2
  refine ⟨_,_,rfl,?_,rfl⟩
  unfold iu
  split<;>first|rfl|(exfalso;omega)
theorem AO (b0 b1:Int) (h0:240≤b0) (h0':b0<248) (h1:128≤b1) (h1':b1<192) (x:Addr) (w:World) (cap:Nat) (c0:w.cell? x=some (.int .u8 b0)) (c1:w.cell? ⟨x.block,x.off+1,none⟩=some (.int .u8 b1)):Calls Tryz.prog 133 #[.slice (some x) 2 cap] w (cj (iu (max (64*(64*(64*(b0-240)+b1-128))) 65536) (min (64*(64*(64*(b0-240)+b1-128)+63)+63) 1114111)) w):=by
 go_enter Tryz.func133,Tryz.ntmps133
 go_wp2
 refine wp_loop_rounds 2 ?_
 rw [rounds_succ]
 go_wp2
 rw [rounds_succ]
 go_wp2
 refine wp_loop_rounds 3 ?_
 rw [rounds_succ]
 go_wp2
 rw [rounds_succ]
 go_wp2
 rw [rounds_succ]
 go_wp2
 all_goals
  go_ret2
  refine ⟨_,_,rfl,?_,rfl⟩
  unfold iu
  split<;>first|rfl|(exfalso;omega)
theorem AP (b0 b1:Int) (h0:240≤b0) (h0':b0<248) (_h1:0≤b1) (h1':b1<128) (x:Addr) (w:World) (cap:Nat) (c0:w.cell? x=some (.int .u8 b0)) (c1:w.cell? ⟨x.block,x.off+1,none⟩=some (.int .u8 b1)):Calls Tryz.prog 133 #[.slice (some x) 2 cap] w (cj (-1,-1) w):=by
 go_enter Tryz.func133,Tryz.ntmps133
 go_wp2
 refine wp_loop_rounds 2 ?_
 rw [rounds_succ]
 go_wp2
 all_goals
  go_ret2
  exact ⟨_,_,rfl,rfl,rfl⟩
theorem AQ (b0 b1:Int) (h0:240≤b0) (h0':b0<248) (h1:192≤b1) (h1':b1<256) (x:Addr) (w:World) (cap:Nat) (c0:w.cell? x=some (.int .u8 b0)) (c1:w.cell? ⟨x.block,x.off+1,none⟩=some (.int .u8 b1)):Calls Tryz.prog 133 #[.slice (some x) 2 cap] w (cj (-1,-1) w):=by
 go_enter Tryz.func133,Tryz.ntmps133
 go_wp2
 refine wp_loop_rounds 2 ?_
 rw [rounds_succ]
 go_wp2
 all_goals
  go_ret2
  exact ⟨_,_,rfl,rfl,rfl⟩
theorem J6 (b0 b1 b2:Int) (h0:240≤b0) (h0':b0<248) (h1:128≤b1) (h1':b1<192) (h2:128≤b2) (h2':b2<192) (x:Addr) (w:World) (cap:Nat) (c0:w.cell? x=some (.int .u8 b0)) (c1:w.cell? ⟨x.block,x.off+1,none⟩=some (.int .u8 b1)) (c2:w.cell? ⟨x.block,x.off+2,none⟩=some (.int .u8 b2)):Calls Tryz.prog 133 #[.slice (some x) 3 cap] w (cj (iu (max (64*(64*(64*(b0-240)+b1-128)+b2-128)) 65536) (min (64*(64*(64*(b0-240)+b1-128)+b2-128)+63) 1114111)) w):=by
 go_enter Tryz.func133,Tryz.ntmps133
 go_wp2
 refine wp_loop_rounds 3 ?_
 rw [rounds_succ]
 go_wp2
 rw [rounds_succ]
 go_wp2
 rw [rounds_succ]
 go_wp2
 refine wp_loop_rounds 2 ?_
 rw [rounds_succ]
 go_wp2
 rw [rounds_succ]
 go_wp2
 all_goals
  go_ret2
  refine ⟨_,_,rfl,?_,rfl⟩
  unfold iu
  split<;>first|rfl|(exfalso;omega)
theorem AR (b0 b1 b2:Int) (h0:240≤b0) (h0':b0<248) (h1:128≤b1) (h1':b1<192) (_h2:0≤b2) (h2':b2<128) (x:Addr) (w:World) (cap:Nat) (c0:w.cell? x=some (.int .u8 b0)) (c1:w.cell? ⟨x.block,x.off+1,none⟩=some (.int .u8 b1)) (c2:w.cell? ⟨x.block,x.off+2,none⟩=some (.int .u8 b2)):Calls Tryz.prog 133 #[.slice (some x) 3 cap] w (cj (-1,-1) w):=by
 go_enter Tryz.func133,Tryz.ntmps133
 go_wp2
 refine wp_loop_rounds 3 ?_
 rw [rounds_succ]
 go_wp2
 rw [rounds_succ]
 go_wp2
 all_goals
  go_ret2
  exact ⟨_,_,rfl,rfl,rfl⟩
theorem AS (b0 b1 b2:Int) (h0:240≤b0) (h0':b0<248) (h1:128≤b1) (h1':b1<192) (h2:192≤b2) (h2':b2<256) (x:Addr) (w:World) (cap:Nat) (c0:w.cell? x=some (.int .u8 b0)) (c1:w.cell? ⟨x.block,x.off+1,none⟩=some (.int .u8 b1)) (c2:w.cell? ⟨x.block,x.off+2,none⟩=some (.int .u8 b2)):Calls Tryz.prog 133 #[.slice (some x) 3 cap] w (cj (-1,-1) w):=by
 go_enter Tryz.func133,Tryz.ntmps133
 go_wp2
 refine wp_loop_rounds 3 ?_
 rw [rounds_succ]
 go_wp2
 rw [rounds_succ]
 go_wp2
 all_goals
  go_ret2
  exact ⟨_,_,rfl,rfl,rfl⟩
theorem J7 (b0 b1 b2 b3:Int) (h0:240≤b0) (h0':b0<248) (h1:128≤b1) (h1':b1<192) (h2:128≤b2) (h2':b2<192) (h3:128≤b3) (h3':b3<192) (x:Addr) (w:World) (cap:Nat) (c0:w.cell? x=some (.int .u8 b0)) (c1:w.cell? ⟨x.block,x.off+1,none⟩=some (.int .u8 b1)) (c2:w.cell? ⟨x.block,x.off+2,none⟩=some (.int .u8 b2)) (c3:w.cell? ⟨x.block,x.off+3,none⟩=some (.int .u8 b3)):Calls Tryz.prog 133 #[.slice (some x) 4 cap] w (cj (iu (max (64*(64*(64*(b0-240)+b1-128)+b2-128)+b3-128) 65536) (min (64*(64*(64*(b0-240)+b1-128)+b2-128)+b3-128) 1114111)) w):=by
 go_enter Tryz.func133,Tryz.ntmps133
 go_wp2
 refine wp_loop_rounds 4 ?_
 rw [rounds_succ]
 go_wp2
 rw [rounds_succ]
 go_wp2
 rw [rounds_succ]
 go_wp2
 rw [rounds_succ]
 go_wp2
 refine wp_loop_rounds 1 ?_
 rw [rounds_succ]
 go_wp2
 all_goals
  go_ret2
  refine ⟨_,_,rfl,?_,rfl⟩
  unfold iu
  split<;>first|rfl|(exfalso;omega)
theorem AU (b0 b1 b2 b3:Int) (h0:240≤b0) (h0':b0<248) (h1:128≤b1) (h1':b1<192) (h2:128≤b2) (h2':b2<192) (_h3:0≤b3) (h3':b3<128) (x:Addr) (w:World) (cap:Nat) (c0:w.cell? x=some (.int .u8 b0)) (c1:w.cell? ⟨x.block,x.off+1,none⟩=some (.int .u8 b1)) (c2:w.cell? ⟨x.block,x.off+2,none⟩=some (.int .u8 b2)) (c3:w.cell? ⟨x.block,x.off+3,none⟩=some (.int .u8 b3)):Calls Tryz.prog 133 #[.slice (some x) 4 cap] w (cj (-1,-1) w):=by
 go_enter Tryz.func133,Tryz.ntmps133
 go_wp2
 refine wp_loop_rounds 4 ?_
 rw [rounds_succ]
 go_wp2
 rw [rounds_succ]
 go_wp2
 rw [rounds_succ]
 go_wp2
 all_goals
  go_ret2
  exact ⟨_,_,rfl,rfl,rfl⟩
theorem AV (b0 b1 b2 b3:Int) (h0:240≤b0) (h0':b0<248) (h1:128≤b1) (h1':b1<192) (h2:128≤b2) (h2':b2<192) (h3:192≤b3) (h3':b3<256) (x:Addr) (w:World) (cap:Nat) (c0:w.cell? x=some (.int .u8 b0)) (c1:w.cell? ⟨x.block,x.off+1,none⟩=some (.int .u8 b1)) (c2:w.cell? ⟨x.block,x.off+2,none⟩=some (.int .u8 b2)) (c3:w.cell? ⟨x.block,x.off+3,none⟩=some (.int .u8 b3)):Calls Tryz.prog 133 #[.slice (some x) 4 cap] w (cj (-1,-1) w):=by
 go_enter Tryz.func133,Tryz.ntmps133
 go_wp2
 refine wp_loop_rounds 4 ?_
 rw [rounds_succ]
 go_wp2
 rw [rounds_succ]
 go_wp2
 rw [rounds_succ]
 go_wp2
 all_goals
  go_ret2
  exact ⟨_,_,rfl,rfl,rfl⟩
theorem uI (b0:Int) (h0:0≤b0) (h0':b0<192) (x:Addr) (w:World) (cap:Nat) (c0:w.cell? x=some (.int .u8 b0)):Calls Tryz.prog 133 #[.slice (some x) 1 cap] w (cj (-1,-1) w):=by
 go_enter Tryz.func133,Tryz.ntmps133
 go_wp2
 all_goals
  go_ret2
  exact ⟨_,_,rfl,rfl,rfl⟩
theorem uJ (b0:Int) (h0:248≤b0) (h0':b0<256) (x:Addr) (w:World) (cap:Nat) (c0:w.cell? x=some (.int .u8 b0)):Calls Tryz.prog 133 #[.slice (some x) 1 cap] w (cj (-1,-1) w):=by
 go_enter Tryz.func133,Tryz.ntmps133
 go_wp2
 all_goals
  go_ret2
  exact ⟨_,_,rfl,rfl,rfl⟩
end Go.Proofs.YtajpoodpbbbkfaaGreatDoor
