/-
  The steps of package extract: what each of the list's closures does, and how the list is made. (Written by wip/tools/gen_extcode.py.)
-/
import Derived.Test.YtajpoodpbbbkfaaGreatDoorRA
import Derived.Below
import Derived.Deep.RegionWith
import Derived.Lib.Builder
import Derived.Laws.IdiomRangeMap
import Derived.KernelRfl
set_option maxHeartbeats 8000000
set_option maxRecDepth 100000
namespace Go.Proofs.YtajpoodpbbbkfaaGreatDoor
open Go.RowKit Go.Lib
def t6 (w:World) (pg x:Nat) (v:Value):Prop:=pg<x∧∃T,w.heap[x]? =some (.cells #[v] T (0,0))
theorem t6.cell {w:World} {pg x:Nat} {v:Value} (h:t6 w pg x v):w.cell? ⟨x,0,none⟩=some v:=by
 obtain ⟨-,T,h⟩:=h
 rw [Lib.cell_of_heap h];rfl
theorem t6.lt {w:World} {pg x:Nat} {v:Value} (h:t6 w pg x v):x<w.heap.size:=by
 obtain ⟨-,T,h⟩:=h
 exact (Array.getElem?_eq_some_iff.1 h).1
theorem t6.grown {w w':World} {pg x:Nat} {v:Value} (h:t6 w pg x v) (hg:w.grownBy w' (some pg)):t6 w' pg x v:=by
 have hl:=h.lt
 obtain ⟨h1,T,h⟩:=h
 exact ⟨h1,T,(hg.block x hl (fun e=>by injection e with e;omega)).trans h⟩
abbrev ptr (x i:Nat):Value:= .pointer (some ⟨x,i,none⟩)
def GO (w:World) (pg:Nat) (F k fr tt:Nat) (v:Value):Prop:=
 ∃x y z,v= .func (.func F) #[] #[ptr x 0,ptr y 0,ptr z 0]∧t6 w pg x (.func (.func k) #[] #[])∧t6 w pg y (ptr pg fr)∧t6 w pg z (ptr pg tt)
theorem GO.grown {w w':World} {pg F k fr tt:Nat} {v:Value} (h:GO w pg F k fr tt v) (hg:w.grownBy w' (some pg)):GO w' pg F k fr tt v:=by
 obtain ⟨x,y,z,h0,h1,h2,h3⟩:=h
 exact ⟨x,y,z,h0,h1.grown hg,h2.grown hg,h3.grown hg⟩
def cJ (w:World) (pg:Nat) (c0 c1 c2 c3:Value):Prop:=w.heap[pg]? =some (.cells #[c0,c1,c2,c3] 42 (0,0))
theorem cJ.cell {w:World} {pg:Nat} {c0 c1 c2 c3:Value} (h:cJ w pg c0 c1 c2 c3):w.cell? ⟨pg,0,none⟩=some c0∧w.cell? ⟨pg,1,none⟩=some c1∧w.cell? ⟨pg,2,none⟩=some c2∧w.cell? ⟨pg,3,none⟩=some c3:=by
 refine ⟨?_,?_,?_,?_⟩<;>(rw [Lib.cell_of_heap h];rfl)
theorem cJ.lt {w:World} {pg:Nat} {c0 c1 c2 c3:Value} (h:cJ w pg c0 c1 c2 c3):pg<w.heap.size:=(Array.getElem?_eq_some_iff.1 h).1
theorem cJ.below {w w':World} {pg:Nat} {c0 c1 c2 c3:Value} (h:cJ w pg c0 c1 c2 c3) (hb:Below w.heap.size w w'):cJ w' pg c0 c1 c2 c3:=(hb.block pg h.lt).trans h
theorem cJ.set {w:World} {pg:Nat} {c0 c1 c2 c3 r:Value} (i:Nat) (h:cJ w pg c0 c1 c2 c3):w.grownBy (w.setCell ⟨pg,i,none⟩ r) (some pg)∧(w.setCell ⟨pg,i,none⟩ r).heap[pg]? =some (.cells (#[c0,c1,c2,c3].setIfInBounds i r) 42 (0,0)):=
 ⟨⟨rfl,rfl,rfl,by simp,fun k _ hk=>Below.heap_setCell w ⟨pg,i,none⟩ r _ (fun e=>hk (congrArg some e))⟩,Go.heap_setCell_same w pg i _ _ r h⟩
theorem JT {w:World} {pg x y z:Nat} {c0 c1 c2 c3:Value} (R:ByteArray) (hp:cJ w pg c0 c1 c2 c3) (hx:t6 w pg x (.func (.func 15) #[] #[])) (hy:t6 w pg y (ptr pg 0)) (hz:t6 w pg z (ptr pg 1)) (hC:Calls Tryz.prog 15 #[c0] w.drew fun e w1=>e= .returned (.string R)∧Below w.heap.size w w1):Calls Tryz.prog 87 #[ptr x 0,ptr y 0,ptr z 0] w fun e w'=>e= .returned (.tuple #[])∧∃w1,Below w.heap.size w w1∧w1.grownBy w' (some pg)∧cJ w' pg c0 (.string R) c2 c3:=by
 have x0:=hx.cell
 have y0:=hy.cell
 have z0:=hz.cell
 obtain ⟨p0,p1,p2,p3⟩:=hp.cell
 have HS:=Lib.hid (fun (u:World) (b:Below w.heap.size w u) (r:Value)=>(hp.below b).set (r:=r) 1)
 have HQ:=Lib.hid (fun (u:World) (b:Below w.heap.size w u)=>(hp.below b).cell)
 have HF:=Lib.hid (fun (u:World) (b:Below w.heap.size w u) (i:Nat)=>Lib.frozen_of_heap (hp.below b) i)
 have HC:=Lib.hid hC
 have HZ:=Lib.hid (fun (u:World) (b:Below w.heap.size w u)=>(b.cell (p:=⟨z,0,none⟩) hz.lt).trans hz.cell)
 unfold ptr at*
 clear hp hx hy hz hC
 go_enter Tryz.func87,Tryz.ntmps87
 go_wp2
 go_region_with (first|(go_at_call 15;refine HC.out.mono ?_;rintro e w1 ⟨rfl,b1⟩;have z1:=HZ.out w1 b1;obtain ⟨q0,q1,q2,q3⟩:=HQ.out w1 b1;have f1:=HF.out w1 b1 1))
 all_goals (refine bodyPost_end (results_none rfl _ _ _) (by rfl) ?_)
 all_goals (exact ⟨rfl,w1,b1,(HS.out w1 b1 (.string R)).1,(HS.out w1 b1 (.string R)).2⟩)
theorem JU {w:World} {pg x y z:Nat} {c0 c1 c2 c3:Value} (R:ByteArray) (hp:cJ w pg c0 c1 c2 c3) (hx:t6 w pg x (.func (.func 46) #[] #[])) (hy:t6 w pg y (ptr pg 1)) (hz:t6 w pg z (ptr pg 1)) (hC:Calls Tryz.prog 46 #[c1] w.drew fun e w1=>e= .returned (.string R)∧Below w.heap.size w w1):Calls Tryz.prog 88 #[ptr x 0,ptr y 0,ptr z 0] w fun e w'=>e= .returned (.tuple #[])∧∃w1,Below w.heap.size w w1∧w1.grownBy w' (some pg)∧cJ w' pg c0 (.string R) c2 c3:=by
 have x0:=hx.cell
 have y0:=hy.cell
 have z0:=hz.cell
 obtain ⟨p0,p1,p2,p3⟩:=hp.cell
 have HS:=Lib.hid (fun (u:World) (b:Below w.heap.size w u) (r:Value)=>(hp.below b).set (r:=r) 1)
 have HQ:=Lib.hid (fun (u:World) (b:Below w.heap.size w u)=>(hp.below b).cell)
 have HF:=Lib.hid (fun (u:World) (b:Below w.heap.size w u) (i:Nat)=>Lib.frozen_of_heap (hp.below b) i)
 have HC:=Lib.hid hC
 have HZ:=Lib.hid (fun (u:World) (b:Below w.heap.size w u)=>(b.cell (p:=⟨z,0,none⟩) hz.lt).trans hz.cell)
 unfold ptr at*
 clear hp hx hy hz hC
 go_enter Tryz.func88,Tryz.ntmps88
 go_wp2
 go_region_with (first|(go_at_call 46;refine HC.out.mono ?_;rintro e w1 ⟨rfl,b1⟩;have z1:=HZ.out w1 b1;obtain ⟨q0,q1,q2,q3⟩:=HQ.out w1 b1;have f1:=HF.out w1 b1 1))
 all_goals (refine bodyPost_end (results_none rfl _ _ _) (by rfl) ?_)
 all_goals (exact ⟨rfl,w1,b1,(HS.out w1 b1 (.string R)).1,(HS.out w1 b1 (.string R)).2⟩)
theorem JV {w:World} {pg x y z:Nat} {c0 c1 c2 c3:Value} (L:List aq) (hp:cJ w pg c0 c1 c2 c3) (hx:t6 w pg x (.func (.func 14) #[] #[])) (hy:t6 w pg y (ptr pg 1)) (hz:t6 w pg z (ptr pg 2)) (hC:Calls Tryz.prog 14 #[c1] w.drew fun e w1=>∃a n c,e= .returned (.slice a n c)∧fS w1 a n c L∧Below w.heap.size w w1):Calls Tryz.prog 90 #[ptr x 0,ptr y 0,ptr z 0] w fun e w'=>e= .returned (.tuple #[])∧∃w1 a n c,fS w1 a n c L∧Below w.heap.size w w1∧w1.grownBy w' (some pg)∧cJ w' pg c0 c1 (.slice a n c) c3:=by
 have x0:=hx.cell
 have y0:=hy.cell
 have z0:=hz.cell
 obtain ⟨p0,p1,p2,p3⟩:=hp.cell
 have HS:=Lib.hid (fun (u:World) (b:Below w.heap.size w u) (r:Value)=>(hp.below b).set (r:=r) 2)
 have HQ:=Lib.hid (fun (u:World) (b:Below w.heap.size w u)=>(hp.below b).cell)
 have HF:=Lib.hid (fun (u:World) (b:Below w.heap.size w u) (i:Nat)=>Lib.frozen_of_heap (hp.below b) i)
 have HC:=Lib.hid hC
 have HZ:=Lib.hid (fun (u:World) (b:Below w.heap.size w u)=>(b.cell (p:=⟨z,0,none⟩) hz.lt).trans hz.cell)
 unfold ptr at*
 clear hp hx hy hz hC
 go_enter Tryz.func90,Tryz.ntmps90
 go_wp2
 go_region_with (first|(go_at_call 14;refine HC.out.mono ?_;rintro e w1 ⟨a,n,c,rfl,hr,b1⟩;have z1:=HZ.out w1 b1;obtain ⟨q0,q1,q2,q3⟩:=HQ.out w1 b1;have f1:=HF.out w1 b1 2))
 all_goals (refine bodyPost_end (results_none rfl _ _ _) (by rfl) ?_)
 all_goals (exact ⟨rfl,w1,a,n,c,hr,b1,(HS.out w1 b1 (.slice a n c)).1,(HS.out w1 b1 (.slice a n c)).2⟩)
theorem JW {w:World} {pg x y z:Nat} {c0 c1 c2 c3:Value} (R:ByteArray) (hp:cJ w pg c0 c1 c2 c3) (hx:t6 w pg x (.func (.func 49) #[] #[])) (hy:t6 w pg y (ptr pg 2)) (hz:t6 w pg z (ptr pg 3)) (hC:Calls Tryz.prog 49 #[c2] w.drew fun e w1=>e= .returned (.string R)∧Below w.heap.size w w1):Calls Tryz.prog 91 #[ptr x 0,ptr y 0,ptr z 0] w fun e w'=>e= .returned (.tuple #[])∧∃w1,Below w.heap.size w w1∧w1.grownBy w' (some pg)∧cJ w' pg c0 c1 c2 (.string R):=by
 have x0:=hx.cell
 have y0:=hy.cell
 have z0:=hz.cell
 obtain ⟨p0,p1,p2,p3⟩:=hp.cell
 have HS:=Lib.hid (fun (u:World) (b:Below w.heap.size w u) (r:Value)=>(hp.below b).set (r:=r) 3)
 have HQ:=Lib.hid (fun (u:World) (b:Below w.heap.size w u)=>(hp.below b).cell)
 have HF:=Lib.hid (fun (u:World) (b:Below w.heap.size w u) (i:Nat)=>Lib.frozen_of_heap (hp.below b) i)
 have HC:=Lib.hid hC
 have HZ:=Lib.hid (fun (u:World) (b:Below w.heap.size w u)=>(b.cell (p:=⟨z,0,none⟩) hz.lt).trans hz.cell)
 unfold ptr at*
 clear hp hx hy hz hC
 go_enter Tryz.func91,Tryz.ntmps91
 go_wp2
 go_region_with (first|(go_at_call 49;refine HC.out.mono ?_;rintro e w1 ⟨rfl,b1⟩;have z1:=HZ.out w1 b1;obtain ⟨q0,q1,q2,q3⟩:=HQ.out w1 b1;have f1:=HF.out w1 b1 3))
 all_goals (refine bodyPost_end (results_none rfl _ _ _) (by rfl) ?_)
 all_goals (exact ⟨rfl,w1,b1,(HS.out w1 b1 (.string R)).1,(HS.out w1 b1 (.string R)).2⟩)
theorem mK (w:World) (pg:Nat) (hp:pg<w.heap.size) (F k fr tt:Nat) (T0 T1 T2:TypeId):GO (((w.alloc (.cells #[ptr pg fr] T0)).alloc (.cells #[.func (.func k) #[] #[]] T1)).alloc (.cells #[ptr pg tt] T2)) pg F k fr tt (.func (.func F) #[] #[ptr (w.heap.size+1) 0,ptr w.heap.size 0,ptr (w.heap.size+2) 0]):=by
 refine ⟨_,_,_,rfl,⟨by omega,T1,?_⟩,⟨hp,T0,?_⟩,by omega,T2,?_⟩
 ·rw [Below.heap_alloc _ _ _ (by simp)]
  have:=heap_alloc_new (w.alloc (.cells #[ptr pg fr] T0)) (.cells #[.func (.func k) #[] #[]] T1)
  rwa [World.size_alloc] at this
 ·rw [Below.heap_alloc _ _ _ (by simp;omega),Below.heap_alloc _ _ _ (by simp)]
  exact heap_alloc_new w _
 ·have:=heap_alloc_new ((w.alloc (.cells #[ptr pg fr] T0)).alloc (.cells #[.func (.func k) #[] #[]] T1)) (.cells #[ptr pg tt] T2)
  rwa [World.size_alloc,World.size_alloc] at this
theorem FZ (w:World) (pg:Nat) (hp:pg<w.heap.size):Calls Tryz.prog 44 #[ptr pg 0,.func (.func 15) #[] #[],ptr pg 1] w fun e w'=>∃x y z,e= .returned (.func (.func 87) #[] #[ptr x 0,ptr y 0,ptr z 0])∧GO w' pg 87 15 0 1 (.func (.func 87) #[] #[ptr x 0,ptr y 0,ptr z 0])∧Below w.heap.size w w':=by
 unfold ptr
 have HP:=Lib.hid hp
 clear hp
 go_enter Tryz.func44,Tryz.ntmps44
 go_wp2
 go_ret
 exact ⟨_,_,_,rfl,mK w pg HP.out _ _ _ _ _ _ _,(((Below.refl _ w).alloc (Nat.le_refl _) _).alloc (by simp) _).alloc (by simp;omega) _⟩
theorem F6 (w:World) (pg:Nat) (hp:pg<w.heap.size):Calls Tryz.prog 45 #[ptr pg 1,.func (.func 46) #[] #[],ptr pg 1] w fun e w'=>∃x y z,e= .returned (.func (.func 88) #[] #[ptr x 0,ptr y 0,ptr z 0])∧GO w' pg 88 46 1 1 (.func (.func 88) #[] #[ptr x 0,ptr y 0,ptr z 0])∧Below w.heap.size w w':=by
 unfold ptr
 have HP:=Lib.hid hp
 clear hp
 go_enter Tryz.func45,Tryz.ntmps45
 go_wp2
 go_ret
 exact ⟨_,_,_,rfl,mK w pg HP.out _ _ _ _ _ _ _,(((Below.refl _ w).alloc (Nat.le_refl _) _).alloc (by simp) _).alloc (by simp;omega) _⟩
theorem F7 (w:World) (pg:Nat) (hp:pg<w.heap.size):Calls Tryz.prog 47 #[ptr pg 1,.func (.func 14) #[] #[],ptr pg 2] w fun e w'=>∃x y z,e= .returned (.func (.func 90) #[] #[ptr x 0,ptr y 0,ptr z 0])∧GO w' pg 90 14 1 2 (.func (.func 90) #[] #[ptr x 0,ptr y 0,ptr z 0])∧Below w.heap.size w w':=by
 unfold ptr
 have HP:=Lib.hid hp
 clear hp
 go_enter Tryz.func47,Tryz.ntmps47
 go_wp2
 go_ret
 exact ⟨_,_,_,rfl,mK w pg HP.out _ _ _ _ _ _ _,(((Below.refl _ w).alloc (Nat.le_refl _) _).alloc (by simp) _).alloc (by simp;omega) _⟩
theorem F8 (w:World) (pg:Nat) (hp:pg<w.heap.size):Calls Tryz.prog 48 #[ptr pg 2,.func (.func 49) #[] #[],ptr pg 3] w fun e w'=>∃x y z,e= .returned (.func (.func 91) #[] #[ptr x 0,ptr y 0,ptr z 0])∧GO w' pg 91 49 2 3 (.func (.func 91) #[] #[ptr x 0,ptr y 0,ptr z 0])∧Below w.heap.size w w':=by
 unfold ptr
 have HP:=Lib.hid hp
 clear hp
 go_enter Tryz.func48,Tryz.ntmps48
 go_wp2
 go_ret
 exact ⟨_,_,_,rfl,mK w pg HP.out _ _ _ _ _ _ _,(((Below.refl _ w).alloc (Nat.le_refl _) _).alloc (by simp) _).alloc (by simp;omega) _⟩
theorem fu {w w':World} (h:Below w.heap.size w w') (r:Option Nat):w.grownBy w' r:=⟨h.os,h.tape,h.output,h.size,fun k hk _=>h.block k hk⟩
def ir (w:World) (pg lb:Nat) (f0 f1 f2 f3:Value):Prop:=
 pg<lb∧(∃T,w.heap[lb]? =some (.cells #[f0,f1,f2,f3] T (0,0)))∧GO w pg 87 15 0 1 f0∧GO w pg 88 46 1 1 f1∧GO w pg 90 14 1 2 f2∧GO w pg 91 49 2 3 f3
theorem ir.grown {w w':World} {pg lb:Nat} {f0 f1 f2 f3:Value} (h:ir w pg lb f0 f1 f2 f3) (hg:w.grownBy w' (some pg)):ir w' pg lb f0 f1 f2 f3:=by
 obtain ⟨h0,⟨T,hT⟩,h1,h2,h3,h4⟩:=h
 exact ⟨h0,⟨T,(hg.block lb (Array.getElem?_eq_some_iff.1 hT).1 (fun e=>by injection e with e;omega)).trans hT⟩,h1.grown hg,h2.grown hg,h3.grown hg,h4.grown hg⟩
theorem F9 (w:World) (pg:Nat) (hp:pg<w.heap.size):Calls Tryz.prog 25 #[ptr pg 0] w fun e w'=>∃lb f0 f1 f2 f3,e= .returned (.slice (some ⟨lb,0,none⟩) 4 4)∧ir w' pg lb f0 f1 f2 f3∧Below w.heap.size w w':=by
 have HP:=Lib.hid hp
 have M0:=fun u h=>Lib.hid (FZ u pg h)
 have M1:=fun u h=>Lib.hid (F6 u pg h)
 have M2:=fun u h=>Lib.hid (F7 u pg h)
 have M3:=fun u h=>Lib.hid (F8 u pg h)
 unfold ptr at*
 clear hp
 go_enter Tryz.func25,Tryz.ntmps25
 go_wp2
 go_region_with (first
  |(go_at_call 44;refine (M0 w.drew HP.out).out.mono ?_;rintro e w1 ⟨x0,y0,z0,rfl,k0,b1⟩;have K0:=Lib.hid k0;have B1:=Lib.hid b1;have Q1:=Lib.hid (show Below w.heap.size w w1∧pg<w1.heap.size from ⟨((Below.refl _ _).drew.trans b1),Nat.lt_of_lt_of_le HP.out b1.size⟩);clear k0 b1)
  |(go_at_call 45;refine (M1 _ Q1.out.2).out.mono ?_;rintro e w2 ⟨x1,y1,z1,rfl,k1,b2⟩;have K1:=Lib.hid k1;have B2:=Lib.hid b2;have Q2:=Lib.hid (show Below w.heap.size w w2∧pg<w2.heap.size from ⟨(Q1.out.1.trans (b2.mono Q1.out.1.size)),Nat.lt_of_lt_of_le Q1.out.2 b2.size⟩);clear k1 b2)
  |(go_at_call 47;refine (M2 _ Q2.out.2).out.mono ?_;rintro e w3 ⟨x2,y2,z2,rfl,k2,b3⟩;have K2:=Lib.hid k2;have B3:=Lib.hid b3;have Q3:=Lib.hid (show Below w.heap.size w w3∧pg<w3.heap.size from ⟨(Q2.out.1.trans (b3.mono Q2.out.1.size)),Nat.lt_of_lt_of_le Q2.out.2 b3.size⟩);clear k2 b3)
  |(go_at_call 48;refine (M3 _ Q3.out.2).out.mono ?_;rintro e w4 ⟨x3,y3,z3,rfl,k3,b4⟩;have K3:=Lib.hid k3;have B4:=Lib.hid b4;have Q4:=Lib.hid (show Below w.heap.size w w4∧pg<w4.heap.size from ⟨(Q3.out.1.trans (b4.mono Q3.out.1.size)),Nat.lt_of_lt_of_le Q3.out.2 b4.size⟩);clear k3 b4))
 go_wp2
 go_ret
 have g2:=fu B2.out (some pg)
 have g3:=fu B3.out (some pg)
 have g4:=fu B4.out (some pg)
 have ga:=fun f0 f1 f2 f3 T=>fu ((Below.refl w4.heap.size w4).alloc (Nat.le_refl _) (.cells #[f0,f1,f2,f3] T)) (some pg)
 exact ⟨_,_,_,_,_,rfl,⟨Q4.out.2,⟨_,heap_alloc_new w4 _⟩,(((K0.out.grown g2).grown g3).grown g4).grown (ga _ _ _ _ _),((K1.out.grown g3).grown g4).grown (ga _ _ _ _ _),(K2.out.grown g4).grown (ga _ _ _ _ _),K3.out.grown (ga _ _ _ _ _)⟩,Q4.out.1.alloc Q4.out.1.size _⟩
end Go.Proofs.YtajpoodpbbbkfaaGreatDoor
