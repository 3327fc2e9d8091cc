/-
  Texts laid together: ExtCode, ExtAwake.
-/
import Derived.Test.YtajpoodpbbbkfaaGreatDoorExtClo
import Derived.Test.YtajpoodpbbbkfaaGreatDoorSG
import Derived.Test.YtajpoodpbbbkfaaGreatDoorUA
import Derived.Test.YtajpoodpbbbkfaaGreatDoorUB
import Derived.Test.YtajpoodpbbbkfaaGreatDoorP4
import Derived.Test.YtajpoodpbbbkfaaGreatDoorDB
import Derived.Test.YtajpoodpbbbkfaaGreatDoorRenCode
import Derived.Test.YtajpoodpbbbkfaaGreatDoorP6
import Derived.KernelRfl
import Derived.Lib.SlBytesConst
set_option maxHeartbeats 8000000
set_option maxRecDepth 100000
namespace Go.Proofs.YtajpoodpbbbkfaaGreatDoor
open Go.RowKit Go.Lib
theorem wz (x:Addr) (n:Nat):(x.add n).block=x.block:=by unfold Addr.add;split<;>rfl
theorem fS.set {w w':World} {a a0 a1:Option Addr} {len cap l0 k0 l1 k1 pg:Nat} {L:List aq} {D E:ByteArray} (h:fS w a len cap L) (hW:cJ w pg (.slice a0 l0 k0) (.string D) (.slice a1 l1 k1) (.string E)) (hg:w.grownBy w' (some pg)):fS w' a len cap L:=
 ⟨h.1,h.2.1,h.2.2.1,fun i hi=>by
  obtain ⟨x,ad,ln,cp,h1,h2⟩:=h.2.2.2 i hi
  have hne:x.block≠pg:=fun e=>by
   have h0:=h2.c0
   unfold World.cell? at h0
   rw [wz,e,hW] at h0
   simp only at h0
   split at h0
   ·cases h0
   ·obtain ⟨k,hk⟩:∃k,(x.add (i*5)).off=k:=⟨_,rfl⟩
    rw [hk] at h0
    match k,h0 with
    |0,h0=>cases h0
    |1,h0=>cases h0
    |2,h0=>cases h0
    |3,h0=>cases h0
    |k+4,h0=>simp at h0
  have hb:∀n,some (x.add n).block≠some pg:=fun n e=>by rw [wz] at e;exact hne (by injection e)
  exact ⟨x,ad,ln,cp,h1,hg.cell h2.c0 (hb _),hg.cell h2.c1 (hb _),hg.cell h2.c2 (hb _),hg.cell h2.c3 (hb _),hg.cell h2.c4 (hb _)⟩⟩
def wB (u:World) (pg:Nat) (v:Value) (D S Z:ByteArray) (L:List aq) (i:Nat):Prop:=
 (i=0∧cJ u pg v (.string ⟨#[]⟩) (.slice none 0 0) (.string ⟨#[]⟩))∨(i=1∧cJ u pg v (.string D) (.slice none 0 0) (.string ⟨#[]⟩))∨(i=2∧cJ u pg v (.string S) (.slice none 0 0) (.string ⟨#[]⟩))∨(i=3∧∃a n c,fS u a n c L∧cJ u pg v (.string S) (.slice a n c) (.string ⟨#[]⟩))∨(i=4∧∃c2,cJ u pg v (.string S) c2 (.string Z))
theorem rI (v:Value) (l:ab) (w:World) (h:ar w v l) (hx:nc l) (hT:bn w):Calls Tryz.prog 13 #[v] w fun e w'=>e= .returned (.string ⟨(cT l).toArray⟩)∧Below w.heap.size w w':=by
 obtain ⟨z1,z2⟩:=Aq l
 have z3:=hx.few
 have z4:=hx.text
 have hl:=hx.size
 obtain ⟨a0,len0,cap0,rfl⟩:∃a n c,v= .slice a n c:=by
  rcases h with ⟨rfl,-⟩|⟨g,c,rfl,-⟩
  ·exact ⟨_,_,_,rfl⟩
  ·exact ⟨_,_,_,rfl⟩
 have H1:=Lib.hid (fun u (b:Below w.heap.size w u)=>nf (.slice a0 len0 cap0) l u (h.kept b) (by omega))
 obtain ⟨D,hD⟩:∃D:ByteArray,(⟨(gi l).toArray⟩:ByteArray)=D:=⟨_,rfl⟩
 have dD:D.data.toList=gi l:=by rw [←hD,List.toList_toArray]
 have sD:D.size≤300000:=by rw [Lib.size_eq,dD];omega
 have H2:=Lib.hid (fun u=>Hh D u (by omega))
 rw [dD] at H2
 rw [hD] at H1
 obtain ⟨S,hS⟩:∃S:ByteArray,(⟨(ay (gi l)).toArray⟩:ByteArray)=S:=⟨_,rfl⟩
 have dS:S.data.toList=ay (gi l):=by rw [←hS,List.toList_toArray]
 have sS:S.size≤300000:=by rw [Lib.size_eq,dS];omega
 rw [hS] at H2
 have H3:=Lib.hid (fun u (b:Below w.heap.size w u)=>pj S u (by omega) (hT.below b))
 rw [dS] at H3
 obtain ⟨L,hL⟩:∃L,kZ (ay (gi l))=L:=⟨_,rfl⟩
 rw [hL] at H3 z3 z4
 obtain ⟨T,hT2⟩:∃T,cT l=T:=⟨_,rfl⟩
 have hT3:p7 L=T:=by rw [←hL,←hT2];rfl
 rw [hT2]
 obtain ⟨Z,hZ⟩:∃Z,(⟨T.toArray⟩:ByteArray)=Z:=⟨_,rfl⟩
 rw [hZ]
 have H4:=Lib.hid (fun u a n c (h:fS u a n c L)=>Nc a n c L u h (by have:=h.1;omega) (fun t ht=>by have:=z4 t ht;omega) (KE u))
 rw [hT3,hZ] at H4
 obtain ⟨pg,hpg⟩:∃pg,w.heap.size=pg:=⟨_,rfl⟩
 have HPG:=Lib.hid hpg
 obtain ⟨w1,hw1⟩:∃w1,w.alloc (.cells #[.slice a0 len0 cap0,.string ⟨#[]⟩,.slice none 0 0,.string ⟨#[]⟩] 42)=w1:=⟨_,rfl⟩
 have W1:=Lib.hid (show cJ w1 pg (.slice a0 len0 cap0) (.string ⟨#[]⟩) (.slice none 0 0) (.string ⟨#[]⟩) by rw [←hw1,←hpg];exact heap_alloc_new w _)
 have B1:=Lib.hid (show Below w.heap.size w w1 by rw [←hw1];exact (Below.refl _ w).alloc (Nat.le_refl _) _)
 have HW1:=Lib.hid hw1
 have ST:=Lib.hid (F9 w1 pg W1.out.lt)
 unfold ptr at ST
 clear hD dD sD hS dS sS hL hT hT2 hT3 hZ z1 z2 z3 z4 h hl hx hw1 hpg
 go_enter Tryz.func13,Tryz.ntmps13
 go_wp2_with (fail)
 try rw [HW1.out]
 try rw [HPG.out]
 refine ST.out.mono ?_
 rintro e w2 ⟨lb,f0,f1,f2,f3,rfl,hs,b2⟩
 have S2:=Lib.hid hs
 have B2:=Lib.hid (B1.out.trans (b2.mono B1.out.size))
 have E2:=Lib.hid (show wB w2 pg (.slice a0 len0 cap0) D S Z L 0 from .inl ⟨rfl,W1.out.below b2⟩)
 clear hs b2 ST
 go_wp2
 go_loopw [12] (fun v12 wr=>∃i:Nat,v12= .int .i64 (i:Int)∧i≤4∧Hid (Below w.heap.size w wr)∧Hid (ir wr pg lb f0 f1 f2 f3)∧Hid (wB wr pg (.slice a0 len0 cap0) D S Z L i)) (fun v _=>4-(ae v).toNat)
 case atStart=>exact ⟨0,rfl,by omega,B2,S2,E2⟩
 case round=>
  obtain ⟨i,rfl,hi,HB,HS,HE⟩:=hrel
  clear B2 S2 E2 B1 W1
  obtain ⟨-,⟨T0,hl⟩,k0,k1,k2,k3⟩:=HS.out
  have HX:=Lib.hid (fun u' (g:wr.grownBy u' (some pg))=>show Below w.heap.size w u' from HB.out.grown g HB.out.size (fun k e=>by injection e with e;rw [HPG.out];omega))
  have HG:=Lib.hid (fun u' (g:wr.grownBy u' (some pg))=>HS.out.grown g)
  rcases HE.out with ⟨rfl,hW⟩|⟨rfl,hW⟩|⟨rfl,hW⟩|⟨rfl,a,n,c,hR,hW⟩|⟨rfl,c2,hW⟩
  ·obtain ⟨x,y,z,rfl,hx,hy,hz⟩:=k0
   have y0:wr.cell? ⟨lb,0,none⟩=some (.func (.func 87) #[] #[.pointer (some ⟨x,0,none⟩),.pointer (some ⟨y,0,none⟩),.pointer (some ⟨z,0,none⟩)]):=by rw [Lib.cell_of_heap hl];rfl
   have HC:=Lib.hid ((JT D hW hx hy hz ((H1.out _ HB.out.drew).mono fun e u h=>⟨h.1,(Below.refl _ wr).drew.trans h.2⟩)).mono fun e u' h=>show e= .returned (.tuple #[])∧Below w.heap.size w u'∧ir u' pg lb _ _ _ _∧wB u' pg (.slice a0 len0 cap0) D S Z L 1 by
    obtain ⟨rfl,u1,d1,g1,hN⟩:=h
    have g:=(fu d1 (some pg)).trans g1
    exact ⟨rfl,HX.out _ g,HG.out _ g,.inr (.inl ⟨rfl,hN⟩)⟩)
   unfold ptr at HC
   clear hx hy hz hW hl k1 k2 k3 HX HG HE HS
   go_wp2_with (go_at_call 87;refine HC.out.mono ?_;rintro e u' ⟨rfl,b',s',e'⟩;have NB:=Lib.hid b';have NS:=Lib.hid s';have NE:=Lib.hid e';clear b' s' e')
   go_roundw
   case rel=>exact ⟨1,by first|rfl|go_num,by omega,NB,NS,NE⟩
   case measure=>simp [ae]
  ·obtain ⟨x,y,z,rfl,hx,hy,hz⟩:=k1
   have y0:wr.cell? ⟨lb,1,none⟩=some (.func (.func 88) #[] #[.pointer (some ⟨x,0,none⟩),.pointer (some ⟨y,0,none⟩),.pointer (some ⟨z,0,none⟩)]):=by rw [Lib.cell_of_heap hl];rfl
   have HC:=Lib.hid ((JU S hW hx hy hz ((H2.out wr.drew).mono fun e u h=>⟨h.1,(Below.refl _ wr).drew.trans h.2⟩)).mono fun e u' h=>show e= .returned (.tuple #[])∧Below w.heap.size w u'∧ir u' pg lb _ _ _ _∧wB u' pg (.slice a0 len0 cap0) D S Z L 2 by
    obtain ⟨rfl,u1,d1,g1,hN⟩:=h
    have g:=(fu d1 (some pg)).trans g1
    exact ⟨rfl,HX.out _ g,HG.out _ g,.inr (.inr (.inl ⟨rfl,hN⟩))⟩)
   unfold ptr at HC
   clear hx hy hz hW hl k0 k2 k3 HX HG HE HS
   go_wp2_with (go_at_call 88;refine HC.out.mono ?_;rintro e u' ⟨rfl,b',s',e'⟩;have NB:=Lib.hid b';have NS:=Lib.hid s';have NE:=Lib.hid e';clear b' s' e')
   go_roundw
   case rel=>exact ⟨2,by first|rfl|go_num,by omega,NB,NS,NE⟩
   case measure=>simp [ae]
  ·obtain ⟨x,y,z,rfl,hx,hy,hz⟩:=k2
   have y0:wr.cell? ⟨lb,2,none⟩=some (.func (.func 90) #[] #[.pointer (some ⟨x,0,none⟩),.pointer (some ⟨y,0,none⟩),.pointer (some ⟨z,0,none⟩)]):=by rw [Lib.cell_of_heap hl];rfl
   have HC:=Lib.hid ((JV L hW hx hy hz ((H3.out _ HB.out.drew).mono fun e u h=>by obtain ⟨a,n,c,h1,h2,h3⟩:=h;exact ⟨a,n,c,h1,h2.toks.bare,(Below.refl _ wr).drew.trans h3⟩)).mono fun e u' h=>show e= .returned (.tuple #[])∧Below w.heap.size w u'∧ir u' pg lb _ _ _ _∧wB u' pg (.slice a0 len0 cap0) D S Z L 3 by
    obtain ⟨rfl,u1,a,n,c,hr,d1,g1,hN⟩:=h
    have g:=(fu d1 (some pg)).trans g1
    exact ⟨rfl,HX.out _ g,HG.out _ g,.inr (.inr (.inr (.inl ⟨rfl,a,n,c,hr.set (hW.below d1) g1,hN⟩)))⟩)
   unfold ptr at HC
   clear hx hy hz hW hl k0 k1 k3 HX HG HE HS
   go_wp2_with (go_at_call 90;refine HC.out.mono ?_;rintro e u' ⟨rfl,b',s',e'⟩;have NB:=Lib.hid b';have NS:=Lib.hid s';have NE:=Lib.hid e';clear b' s' e')
   go_roundw
   case rel=>exact ⟨3,by first|rfl|go_num,by omega,NB,NS,NE⟩
   case measure=>simp [ae]
  ·obtain ⟨x,y,z,rfl,hx,hy,hz⟩:=k3
   have y0:wr.cell? ⟨lb,3,none⟩=some (.func (.func 91) #[] #[.pointer (some ⟨x,0,none⟩),.pointer (some ⟨y,0,none⟩),.pointer (some ⟨z,0,none⟩)]):=by rw [Lib.cell_of_heap hl];rfl
   have HC:=Lib.hid ((JW Z hW hx hy hz ((H4.out wr.drew a n c (hR.below (Below.refl wr.heap.size wr).drew (Nat.le_refl _))).mono fun e u h=>⟨h.1,(Below.refl _ wr).drew.trans h.2⟩)).mono fun e u' h=>show e= .returned (.tuple #[])∧Below w.heap.size w u'∧ir u' pg lb _ _ _ _∧wB u' pg (.slice a0 len0 cap0) D S Z L 4 by
    obtain ⟨rfl,u1,d1,g1,hN⟩:=h
    have g:=(fu d1 (some pg)).trans g1
    exact ⟨rfl,HX.out _ g,HG.out _ g,.inr (.inr (.inr (.inr ⟨rfl,_,hN⟩)))⟩)
   unfold ptr at HC
   clear hx hy hz hW hl k0 k1 k2 HX HG HE HS hR
   go_wp2_with (go_at_call 91;refine HC.out.mono ?_;rintro e u' ⟨rfl,b',s',e'⟩;have NB:=Lib.hid b';have NS:=Lib.hid s';have NE:=Lib.hid e';clear b' s' e')
   go_roundw
   case rel=>exact ⟨4,by first|rfl|go_num,by omega,NB,NS,NE⟩
   case measure=>simp [ae]
  ·have y0:=hW.cell.2.2.2
   clear hW hl k0 k1 k2 k3 HX HG HE HS
   go_wp2
   go_ret
   exact ⟨rfl,HB.out⟩
end Go.Proofs.YtajpoodpbbbkfaaGreatDoor
namespace Go.Proofs.YtajpoodpbbbkfaaGreatDoor
open Go.RowKit Go.Lib
theorem yh (w:World) (C:Array Value) (t:TypeId) (l:List UInt8) (fr:Nat × Nat) (h:C.toList=Lib.byteCells l) (hm:l.length≤maxLen):ar (w.alloc (.cells C t fr)) (.slice (some ⟨w.heap.size,0,none⟩) l.length l.length) l:=by
 refine .inr ⟨_,_,rfl,Nat.le_refl _,hm,fun i hi=>?_⟩
 have e:(⟨w.heap.size,0,none⟩:Addr).add i=⟨w.heap.size,i,none⟩:=by simp [Addr.add];omega
 rw [e,World.cell?_alloc_mark,←Array.getElem?_toList,h,Lib.byteCells,List.getElem?_map,List.getElem?_eq_getElem hi]
 rfl
end Go.Proofs.YtajpoodpbbbkfaaGreatDoor
