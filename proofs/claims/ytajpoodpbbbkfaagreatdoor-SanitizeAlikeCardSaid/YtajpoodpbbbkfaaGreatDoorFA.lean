/-
  Texts laid together: FloMath, FloAt, FloRef, FloRefB, FloDo, Objs, FloO, FloRow, FloRun, FloCode, StrO.
-/
import Derived.Test.YtajpoodpbbbkfaaGreatDoorP3
import Derived.Test.YtajpoodpbbbkfaaGreatDoorQD
import Derived.Test.YtajpoodpbbbkfaaGreatDoorProg
import Derived.Deep.RegionHeld3
import Derived.KernelRfl
import Derived.StillTailTactics
import Derived.Below
import Derived.ProofKit
import Derived.WalkKit
import Derived.Test.YtajpoodpbbbkfaaGreatDoorP1
import Derived.Deep.AppendSrc
import Derived.Lib.FrozenHead2
import Derived.Lib.UnsafeStr
import Derived.Laws.IdiomCopy
import Derived.Lib.OthersKept
import Derived.OwnWalk
import Derived.Maps.AppendAt
import Derived.BigCall
import Derived.Lib.Hide
import Derived.Lib.Builder
import Derived.Laws.OwnMore
set_option maxHeartbeats 8000000
set_option maxRecDepth 100000
namespace Go.Proofs.YtajpoodpbbbkfaaGreatDoor
structure aC where
 told:ab
 ends:Nat
 blanks:ab
def io:aC:=⟨[],0,[]⟩
def iT (c:UInt8):Bool:=c==9||c==10||c==12||c==13||c==32
def cY (f:aC) (c:UInt8):ab:=(if f.told=[] then [] else f.told++List.replicate f.ends 10++f.blanks)++[c]
def dW (keep:Bool) (f:aC) (c:UInt8):aC:=
 if c=0 then f
 else if iT c=true then
  if keep=true then (if c=10∨c=13 then ⟨f.told,f.ends+1,[]⟩ else ⟨f.told,f.ends,f.blanks++[c]⟩)
  else if f.ends=0∧f.blanks=[] then ⟨f.told,0,[32]⟩ else f
 else ⟨cY f c,0,[]⟩
def cP (keep:Bool) (f:aC) (s:ab):aC:=s.foldl (dW keep) f
def nC (n:Int) (f:aC):aC:=⟨f.told,max f.ends (min n 100).toNat,[]⟩
def jU (f:aC):aC:=⟨f.told,f.ends+1,[]⟩
structure Ma where
 kind:Int
 s:ab
 keep:Bool
 n:Int
def Pe (a:Ma):Prop:= -9223372036854775808≤a.n∧a.n≤9223372036854775807
def Fw (f:aC) (a:Ma):aC:=if a.kind=0 then cP a.keep f a.s else if a.kind=1 then nC a.n f else if a.kind=2 then jU f else f
theorem s8 (keep:Bool) (f:aC):cP keep f []=f:=rfl
theorem gu (keep:Bool) (f:aC) (c:UInt8) (s:ab):cP keep f (c::s)=cP keep (dW keep f c) s:=rfl
theorem lF (keep:Bool) (f:aC) (a b:ab):cP keep f (a++b)=cP keep (cP keep f a) b:=List.foldl_append
structure oT (M:aC→Prop):Prop where
 byte:∀keep f c,M f→M (dW keep f c)
 brk:∀n f,M f→M (nC n f)
 line:∀f,M f→M (jU f)
theorem oT.put {M:aC→Prop} (h:oT M) (keep:Bool):∀(s:ab) (f:aC),M f→M (cP keep f s)
 |[],_,hf=>hf
 |c::s,f,hf=>h.put keep s _ (h.byte keep f c hf)
structure qM (f:aC):Prop where
 told:∀c∈f.told,c≠0∧c≠13
 first:∀c,f.told.head?=some c→iT c=false
 last:∀c,f.told.getLast?=some c→iT c=false
 blanks:∀c∈f.blanks,c=9∨c=12∨c=32
theorem Ch (c:UInt8):iT c=true↔c=9∨c=10∨c=12∨c=13∨c=32:=by
 unfold iT;simp [or_assoc]
theorem Fx (f:aC) (h:qM f) (c:UInt8) (h0:c≠0) (hb:iT c=false):qM ⟨cY f c,0,[]⟩:=by
 have h13:c≠13:=by rintro rfl;cases hb
 refine ⟨fun d hd=>?_,fun d hd=>?_,fun d hd=>?_,fun d hd=>(by cases hd)⟩
 ·unfold cY at hd
  rcases List.mem_append.1 hd with hd|hd
  ·split at hd
   ·cases hd
   ·rcases List.mem_append.1 hd with hd|hd
    ·rcases List.mem_append.1 hd with hd|hd
     ·exact h.told d hd
     ·rw [List.mem_replicate] at hd
      rw [hd.2];decide
    ·rcases h.blanks d hd with e|e|e<;>(rw [e];decide)
  ·simp only [List.mem_cons,List.not_mem_nil,or_false] at hd
   rw [hd];exact ⟨h0,h13⟩
 ·unfold cY at hd
  split at hd
  ·simp at hd;rw [←hd];exact hb
  ·rename_i hne
   refine h.first d ?_
   cases ht:f.told with
   |nil=>exact absurd ht hne
   |cons x t=>rw [ht] at hd;simpa using hd
 ·unfold cY at hd
  rw [List.getLast?_append] at hd
  simp at hd
  rw [←hd];exact hb
theorem lG:oT qM:=by
 refine ⟨fun keep f c h=>?_,fun n f h=>⟨h.told,h.first,h.last,fun d hd=>(by cases hd)⟩,fun f h=>⟨h.told,h.first,h.last,fun d hd=>(by cases hd)⟩⟩
 unfold dW
 split
 ·exact h
 ·rename_i h0
  split
  ·rename_i hb
   rw [Ch] at hb
   split
   ·split
    ·exact ⟨h.told,h.first,h.last,fun d hd=>(by cases hd)⟩
    ·rename_i hc
     refine ⟨h.told,h.first,h.last,fun d hd=>?_⟩
     rcases List.mem_append.1 hd with hd|hd
     ·exact h.blanks d hd
     ·simp only [List.mem_cons,List.not_mem_nil,or_false] at hd
      rw [hd]
      rcases hb with e|e|e|e|e
      ·exact .inl e
      ·exact absurd (.inl e) hc
      ·exact .inr (.inl e)
      ·exact absurd (.inr e) hc
      ·exact .inr (.inr e)
   ·split
    ·exact ⟨h.told,h.first,h.last,fun d hd=>by
      simp only [List.mem_cons,List.not_mem_nil,or_false] at hd
      exact .inr (.inr hd)⟩
    ·exact h
  ·rename_i hb
   exact Fx f h c h0 (by simpa using hb)
theorem nD:qM io:=⟨fun c h=>(by cases h),fun c h=>(by cases h),fun c h=>(by cases h),fun c h=>(by cases h)⟩
def oU (c:UInt8):Bool:= !(c==0)&& !(iT c)
def eF (s:ab):ab:=s.filter oU
theorem my (a b:ab):eF (a++b)=eF a++eF b:=List.filter_append ..
theorem nF (l:ab) (h:∀c∈l,oU c=false):eF l=[]:=by
 unfold eF
 rw [List.filter_eq_nil_iff]
 intro c hc;rw [h c hc];exact Bool.false_ne_true
theorem Fy (keep:Bool) (f:aC) (hf:qM f) (c:UInt8):eF (dW keep f c).told=eF f.told++eF [c]:=by
 unfold dW
 split
 ·rename_i h;subst h;simp [eF,oU]
 ·rename_i h0
  split
  ·rename_i hb
   have:eF [c]=[]:=nF _ (fun d hd=>by
    simp only [List.mem_cons,List.not_mem_nil,or_false] at hd
    subst hd
    unfold oU;rw [hb];simp)
   rw [this,List.append_nil]
   split
   ·split<;>rfl
   ·split<;>rfl
  ·unfold cY
   rw [my]
   congr 1
   split
   ·rename_i h;rw [h]
   ·rw [my,my,nF (List.replicate f.ends 10) (fun d hd=>by rw [(List.mem_replicate.1 hd).2];decide),nF f.blanks (fun d hd=>by
     rcases hf.blanks d hd with e|e|e<;>(rw [e];decide))]
    simp
theorem s9 (keep:Bool):∀(s:ab) (f:aC),qM f→eF (cP keep f s).told=eF f.told++eF s
 |[],f,_=>by simp [cP,eF]
 |c::s,f,hf=>by
  rw [gu,s9 keep s _ (lG.byte keep f c hf),Fy keep f hf c,List.append_assoc,←my];rfl
structure PW (f:aC):Prop where
 blanks:f.blanks=[]∨f.blanks=[32]
 ends:f.ends=0
 only:∀c∈f.told,iT c=true→c=32
 last:∀c,f.told.getLast?=some c→iT c=false
 apart:∀i:Nat,f.told[i]? =some (32:UInt8)→f.told[i+1]?≠some (32:UInt8)
def aC.size (f:aC):Nat:=f.told.length+f.ends+f.blanks.length
theorem Jg (keep:Bool) (f:aC) (c:UInt8):(dW keep f c).size≤f.size+1:=by
 unfold dW aC.size
 split
 ·omega
 ·split
  ·split
   ·split
    ·simp;omega
    ·simp;omega
   ·split
    ·simp;omega
    ·omega
  ·unfold cY
   split
   ·rename_i h;simp [h]
   ·simp;omega
theorem gv (keep:Bool):∀(s:ab) (f:aC),(cP keep f s).size≤f.size+s.length
 |[],f=>Nat.le_refl _
 |c::s,f=>by
  have h1:=Jg keep f c
  have h2:=gv keep s (dW keep f c)
  rw [gu,List.length_cons];omega
theorem zW (n:Int) (f:aC):(nC n f).size≤f.size+100:=by
 unfold nC aC.size;simp;omega
theorem jW (f:aC):(jU f).size≤f.size+1:=by
 unfold jU aC.size;simp;omega
end Go.Proofs.YtajpoodpbbbkfaaGreatDoor
namespace Go.Proofs.YtajpoodpbbbkfaaGreatDoor
open Go.RowKit Go.Lib
def gM (t:ByteArray) (n:Nat) (b:ByteArray):Array Value:=#[.string t,.int .i64 (n:Int),.string b]
def cM (T:TypeId) (w:World) (g:Nat) (t:ByteArray) (n:Nat) (b:ByteArray):Prop:=w.heap[g]? =some (.cells (gM t n b) T (0,0))
def eG (T:TypeId) (w:World) (g:Nat) (f:aC):Prop:=cM T w g ⟨f.told.toArray⟩ f.ends ⟨f.blanks.toArray⟩
theorem cM.lt {T:TypeId} {w:World} {g:Nat} {t:ByteArray} {n:Nat} {b:ByteArray} (h:cM T w g t n b):g<w.heap.size:=(Array.getElem?_eq_some_iff.1 h).1
theorem cM.kept {T:TypeId} {w w':World} {g:Nat} {t:ByteArray} {n:Nat} {b:ByteArray} {r:Option Nat} (h:cM T w g t n b) (hg:w.grownBy w' r) (hne:some g≠r):cM T w' g t n b:=(hg.block _ h.lt hne).trans h
theorem cM.below {T:TypeId} {w w':World} {g:Nat} {t:ByteArray} {n:Nat} {b:ByteArray} (h:cM T w g t n b) (hb:Below w.heap.size w w'):cM T w' g t n b:=(hb.block _ h.lt).trans h
theorem bL {T:TypeId} {w:World} {g:Nat} {t:ByteArray} {n:Nat} {b:ByteArray} (h:cM T w g t n b):w.cell? ⟨g,0,none⟩=some (.string t)∧w.cell? ⟨g,1,none⟩=some (.int .i64 (n:Int))∧w.cell? ⟨g,2,none⟩=some (.string b):=by
 refine ⟨?_,?_,?_⟩<;>(rw [cell_of_row _ _ _ _ _ _ h];rfl)
theorem ip {T:TypeId} {w:World} {g:Nat} {t:ByteArray} {n:Nat} {b:ByteArray} (h:cM T w g t n b) (i:Nat):w.frozen? ⟨g,i,none⟩=false:=by
 unfold cM at h
 simp [World.frozen?,h]
section
variable {P:Program} {ops:Array Oper} {rest:List Oper} {o:Oper} {a:Act} {w:World} {Q:Exit→Act→World→Prop}
theorem aE (T : TypeId) (hg : o.guard = none) (ty : TypeId) (x y : Operand) (ho : o.op = .store ty x y) (g i : Nat) (v : Value) (t t' : ByteArray) (n n' : Nat) (b b' : ByteArray)
    (hx : a.eval x = .pointer (some ⟨g, i, none⟩)) (hy : a.eval y = v) (hb : cM T w g t n b) (hi : i < 3) (hs : (P.info? ty).map (·.size) = some 1) (h1 : v.oneCell' = true) (hc : v.cells = #[v]) (hd : (gM t n b).setIfInBounds i v = gM t' n' b')
    (hK : ∀ w', cM T w' g t' n' b' → w.grownBy w' (some g) → wpList P ops Q rest (a.put o.dst undef) w') :
    wpList P ops Q (o :: rest) a w :=
  jR hg ty x y ho g i v T hx hy (gM t n b) hb hi hs h1 hc (fun w' h => hK w' (by unfold cM; rw [← hd]; exact h))
end
theorem cM.set {T:TypeId} {w:World} {g:Nat} {t:ByteArray} {n:Nat} {b:ByteArray} (h:cM T w g t n b) (i:Nat) (v:Value) {t':ByteArray} {n':Nat} {b':ByteArray} (hd:(gM t n b).setIfInBounds i v=gM t' n' b'):cM T (w.setCell ⟨g,i,none⟩ v) g t' n' b'∧w.grownBy (w.setCell ⟨g,i,none⟩ v) (some g):=by
 refine ⟨?_,rfl,rfl,rfl,by simp,fun k _ hk=>?_⟩
 ·unfold cM
  rw [←hd]
  exact Go.heap_setCell_same w g i _ T v h
 ·exact Below.heap_setCell w ⟨g,i,none⟩ v _ (fun e=>hk (congrArg some e))
theorem bS {w w':World} (h:Below w.heap.size w w') (r:Option Nat):w.grownBy w' r:=⟨h.os,h.tape,h.output,h.size,fun k hk _=>h.block k hk⟩
end Go.Proofs.YtajpoodpbbbkfaaGreatDoor
namespace Go.Proofs.YtajpoodpbbbkfaaGreatDoor
open Go.RowKit Go.Lib
theorem fN : (Tryz.prog.info? 9).map (·.size) = some 1 := by kernel_rfl
theorem jX : (Tryz.prog.info? 3).map (·.size) = some 1 := by kernel_rfl
theorem Mb (c:UInt8) (n:Nat) (hn:n<256):(((c.toNat:Nat):Int)==(n:Int))=(c==UInt8.ofNat n):=by
 rw [Bool.eq_iff_iff,beq_iff_eq,beq_iff_eq]
 constructor
 ·exact fun h=>aT c n hn h
 ·rintro rfl
  simp;omega
theorem Mc (a:ab) (c:UInt8):(⟨a.toArray⟩:ByteArray)++⟨#[c]⟩=⟨(a++[c]).toArray⟩:=bl (by simp)
theorem lH (w:World) (q:Int) (c:UInt8) (h:(c.toNat:Int)=q):(convert 22 9 (.slice (some ⟨w.heap.size,0,none⟩) 1 1)).run Tryz.prog (w.alloc (.cells #[.int .u8 q] 5)).drew= .ok (.string ⟨#[c]⟩) (w.alloc (.cells #[.int .u8 q] 5)).drew:=by
 refine run_convert_bytes_back (P:=Tryz.prog) _ 22 9 5 ⟨w.heap.size,0,none⟩ 1 [c] Tryz.underlying22 Tryz.underlying5 Tryz.underlying9 ?_
 intro j hj
 have:j=0:=by simp at hj;exact hj
 subst this
 rw [show ((⟨w.heap.size,0,none⟩:Addr).add 0)=⟨w.heap.size,0,none⟩ from rfl]
 show (w.alloc (.cells #[.int .u8 q] 5)).cell? _=_
 rw [Lib.cell_of_heap (heap_alloc_new w _),←h]
 rfl
theorem ta {T:TypeId} {w w1:World} {g:Nat} {t:ByteArray} {n:Nat} {b:ByteArray} (h:cM T w1 g t n b∧w.grownBy w1 (some g)) (o:Obj):cM T (w1.alloc o).drew g t n b∧w.grownBy (w1.alloc o).drew (some g):=by
 have h1:Below w1.heap.size w1 (w1.alloc o).drew:=((Below.refl _ w1).alloc (Nat.le_refl _) _).drew
 exact ⟨h.1.below h1,h.2.trans (bS h1 _)⟩
def fO (g:Nat) (f:aC) (w:World) (e:Ending) (w':World):Prop:=e= .returned (.tuple #[])∧eG 91 w' g f∧w.grownBy w' (some g)
theorem Jh (g:Nat) (f:aC) (keep:Bool) (w:World) (h:eG 91 w g f):Calls Tryz.prog 120 #[.pointer (some ⟨g,0,none⟩),.int .u8 0,.bool keep] w (fO g f w):=by
 have H:=Lib.hid h
 clear h
 go_enter Tryz.func120,Tryz.ntmps120
 go_wp2
 refine bodyPost_ret (results_none rfl _ _ _) rfl ?_
 exact ⟨rfl,H.out,bS (Below.refl _ _) _⟩
theorem Ji (g:Nat) (f:aC) (c:UInt8) (w:World) (h:eG 91 w g f) (hc:c=9∨c=12∨c=32) (hs:f.size≤1073741824):Calls Tryz.prog 120 #[.pointer (some ⟨g,0,none⟩),.int .u8 ((c.toNat:Nat):Int),.bool true] w (fO g ⟨f.told,f.ends,f.blanks++[c]⟩ w):=by
 have hbl:f.blanks.length≤1073741824:=by unfold aC.size at hs;omega
 obtain ⟨t,n,b⟩:=f
 unfold fO eG at*
 simp only at h hbl⊢
 clear hs
 rw [←Mc]
 have hb:(⟨b.toArray⟩:ByteArray).size≤1073741824:=by rw [Lib.size_eq,List.toList_toArray];exact hbl
 generalize (⟨t.toArray⟩:ByteArray)=A at h⊢
 generalize (⟨b.toArray⟩:ByteArray)=B at h hb⊢
 have H:=Lib.hid h
 obtain ⟨x0,x1,x2⟩:=bL h
 have z2:=ip h 2
 have zg:=h.lt
 clear h hbl
 have g1:¬9223372036854775807<B.size+1:=by omega
 have FIN:=fun (q:Int) (d:UInt8)=>Lib.hid (show cM 91 ((w.setCell ⟨g,2,none⟩ (.string (B++⟨#[d]⟩))).alloc (.cells #[.int .u8 q] 5)).drew g A n (B++⟨#[d]⟩)∧w.grownBy ((w.setCell ⟨g,2,none⟩ (.string (B++⟨#[d]⟩))).alloc (.cells #[.int .u8 q] 5)).drew (some g) from ta (H.out.set 2 _ rfl) _)
 rcases hc with rfl|rfl|rfl
 ·have o1:=lH w 9 9 rfl
  have F:=FIN 9 9
  clear FIN
  go_enter Tryz.func120,Tryz.ntmps120
  go_wp2
  go_region_with (fail)
  all_goals
   go_wp2
   refine bodyPost_ret (results_none rfl _ _ _) rfl ?_
   exact ⟨rfl,F.out⟩
 ·have o1:=lH w 12 12 rfl
  have F:=FIN 12 12
  clear FIN
  go_enter Tryz.func120,Tryz.ntmps120
  go_wp2
  go_region_with (fail)
  all_goals
   go_wp2
   refine bodyPost_ret (results_none rfl _ _ _) rfl ?_
   exact ⟨rfl,F.out⟩
 ·have o1:=lH w 32 32 rfl
  have F:=FIN 32 32
  clear FIN
  go_enter Tryz.func120,Tryz.ntmps120
  go_wp2
  go_region_with (fail)
  all_goals
   go_wp2
   refine bodyPost_ret (results_none rfl _ _ _) rfl ?_
   exact ⟨rfl,F.out⟩
theorem Jj (g:Nat) (f:aC) (c:UInt8) (w:World) (h:eG 91 w g f) (hc:c=10∨c=13) (hs:f.size≤1073741824):Calls Tryz.prog 120 #[.pointer (some ⟨g,0,none⟩),.int .u8 ((c.toNat:Nat):Int),.bool true] w (fO g ⟨f.told,f.ends+1,[]⟩ w):=by
 have hbl:f.ends≤1073741824:=by unfold aC.size at hs;omega
 obtain ⟨t,n,b⟩:=f
 unfold fO eG at*
 simp only at h hbl⊢
 clear hs
 generalize (⟨t.toArray⟩:ByteArray)=A at h⊢
 generalize (⟨b.toArray⟩:ByteArray)=B at h⊢
 have H:=Lib.hid h
 obtain ⟨x0,x1,x2⟩:=bL h
 clear h
 rcases hc with rfl|rfl
 all_goals
  go_enter Tryz.func120,Tryz.ntmps120
  go_wp2_with (first
   |(refine aE 91 rfl 3 _ _ rfl g 1 _ A A n (n+1) B B rfl rfl H.out (by decide) jX rfl rfl (by first|rfl|(simp [gM])) ?_;intro w1 h1 g1;have H1:=Lib.hid h1;have G1:=Lib.hid g1;obtain ⟨y0,y1,y2⟩:=bL h1;clear h1 g1)
   |(refine aE 91 rfl 9 _ _ rfl g 2 _ A A (n+1) (n+1) B ⟨#[]⟩ rfl rfl H1.out (by decide) fN rfl rfl rfl ?_;intro w2 h2 g2))
  refine bodyPost_ret (results_none rfl _ _ _) rfl ?_
  exact ⟨rfl,h2,G1.out.trans g2⟩
theorem Jk (g:Nat) (f:aC) (c:UInt8) (w:World) (h:eG 91 w g f) (hc:c=9∨c=10∨c=12∨c=13∨c=32):Calls Tryz.prog 120 #[.pointer (some ⟨g,0,none⟩),.int .u8 ((c.toNat:Nat):Int),.bool false] w (fO g (if f.ends=0∧f.blanks=[] then ⟨f.told,0,[32]⟩ else f) w):=by
 obtain ⟨t,n,b⟩:=f
 unfold fO eG at*
 simp only at h⊢
 by_cases hn:n=0
 ·subst hn
  cases b with
  |nil=>
   rw [if_pos ⟨rfl,rfl⟩]
   generalize (⟨t.toArray⟩:ByteArray)=A at h⊢
   have h:cM 91 w g A 0 ⟨#[]⟩:=h
   have H:=Lib.hid h
   obtain ⟨x0,x1,x2⟩:=bL h
   clear h
   rcases hc with rfl|rfl|rfl|rfl|rfl
   all_goals
    go_enter Tryz.func120,Tryz.ntmps120
    go_wp2_with (refine aE 91 rfl 9 _ _ rfl g 2 _ A A 0 0 ⟨#[]⟩ ⟨#[32]⟩ rfl rfl H.out (by decide) fN rfl rfl rfl ?_;intro w2 h2 g2)
    refine bodyPost_ret (results_none rfl _ _ _) rfl ?_
    exact ⟨rfl,h2,g2⟩
  |cons d b=>
   rw [if_neg (fun e=>by cases e.2)]
   generalize (⟨t.toArray⟩:ByteArray)=A at h⊢
   obtain ⟨B,hB⟩:∃B:ByteArray,(⟨(d::b).toArray⟩:ByteArray)=B:=⟨_,rfl⟩
   have hB':B.data.toList=d::b:=by rw [←hB]
   have hne:¬B.toList=[]:=fun e=>by
    have:=ib B ⟨#[]⟩
    rw [e,hB'] at this
    simp at this
   have hem:B.toList.isEmpty=false:=by
    cases h:B.toList with
    |nil=>exact absurd h hne
    |cons a l=>rfl
   simp only at h⊢
   rw [hB] at h⊢
   have H:=Lib.hid h
   obtain ⟨x0,x1,x2⟩:=bL h
   clear h hB hB'
   rcases hc with rfl|rfl|rfl|rfl|rfl
   all_goals
    go_enter Tryz.func120,Tryz.ntmps120
    go_wp2
    refine bodyPost_ret (results_none rfl _ _ _) rfl ?_
    exact ⟨rfl,H.out,bS (Below.refl _ _) _⟩
 ·rw [if_neg (fun e=>hn e.1)]
  generalize (⟨t.toArray⟩:ByteArray)=A at h⊢
  generalize (⟨b.toArray⟩:ByteArray)=B at h⊢
  have H:=Lib.hid h
  obtain ⟨x0,x1,x2⟩:=bL h
  have b0:((n:Int)==0)=false:=by rw [beq_eq_false_iff_ne];omega
  clear h
  rcases hc with rfl|rfl|rfl|rfl|rfl
  all_goals
   go_enter Tryz.func120,Tryz.ntmps120
   go_wp2
   refine bodyPost_ret (results_none rfl _ _ _) rfl ?_
   exact ⟨rfl,H.out,bS (Below.refl _ _) _⟩
theorem Jl (A:ByteArray) (h:A.data.toList≠[]):¬A.toList=[]∧A.toList.isEmpty=false:=by
 have hne:¬A.toList=[]:=fun e=>by
  have:=ib A ⟨#[]⟩
  cases hl:A.data.toList with
  |nil=>exact h hl
  |cons c t=>
   rw [e,hl] at this
   simp at this
 refine ⟨hne,?_⟩
 cases h:A.toList with
 |nil=>exact absurd h hne
 |cons a l=>rfl
theorem tc (c:UInt8) (h0:c≠0) (hb:iT c=false):(((c.toNat:Nat):Int)==0)=false∧(((c.toNat:Nat):Int)==9)=false∧(((c.toNat:Nat):Int)==10)=false∧(((c.toNat:Nat):Int)==12)=false∧(((c.toNat:Nat):Int)==13)=false∧(((c.toNat:Nat):Int)==32)=false:=by
 have hk:∀d:UInt8,iT d=true→c≠d:=fun d hd e=>by rw [←e,hb] at hd;cases hd
 have k:∀n:Nat,n<256→c≠UInt8.ofNat n→(((c.toNat:Nat):Int)==(n:Int))=false:=fun n hn h=>by
  rw [Mb c n hn,beq_eq_false_iff_ne];exact h
 exact ⟨k 0 (by decide) h0,k 9 (by decide) (hk 9 rfl),k 10 (by decide) (hk 10 rfl),k 12 (by decide) (hk 12 rfl),k 13 (by decide) (hk 13 rfl),k 32 (by decide) (hk 32 rfl)⟩
theorem FA (g:Nat) (n:Nat) (b:ab) (c:UInt8) (keep:Bool) (w:World) (h:eG 91 w g ⟨[],n,b⟩) (h0:c≠0) (hb:iT c=false):Calls Tryz.prog 120 #[.pointer (some ⟨g,0,none⟩),.int .u8 ((c.toNat:Nat):Int),.bool keep] w (fO g ⟨[c],0,[]⟩ w):=by
 obtain ⟨k0,k9,k10,k12,k13,k32⟩:=tc c h0 hb
 unfold fO eG at*
 simp only at h⊢
 have h:cM 91 w g ⟨#[]⟩ n ⟨b.toArray⟩:=h
 generalize (⟨b.toArray⟩:ByteArray)=B at h⊢
 have H:=Lib.hid h
 obtain ⟨x0,x1,x2⟩:=bL h
 have z0:=ip h 0
 have zg:=h.lt
 clear h
 obtain ⟨q,hq⟩:∃q:Int,((c.toNat:Nat):Int)=q:=⟨_,rfl⟩
 have o1:=lH w q c hq
 rw [hq] at k0 k9 k10 k12 k13 k32⊢
 have g1:¬9223372036854775807<(⟨#[]⟩:ByteArray).size+1:=by decide
 have hlt:=c.toNat_lt
 have hq0:0≤q:=by omega
 have hq1:q≤255:=by omega
 obtain ⟨d,hd,hds⟩:∃d:ByteArray,d=⟨#[c]⟩∧d.size=1:=⟨_,rfl,rfl⟩
 rw [←hd] at o1
 have F0:=Lib.hid (ta (H.out.set 0 (.string d) (t':=d) (n':=n) (b':=B) rfl) (.cells #[.int .u8 q] 5))
 have HD:=Lib.hid hd
 clear hq hd hlt h0 hb
 go_enter Tryz.func120,Tryz.ntmps120
 go_wp2
 go_region_with (fail)
 all_goals
  obtain ⟨f1,e1⟩:=F0.out
  have F1:=Lib.hid f1
  have E1:=Lib.hid e1
  clear f1 e1
  go_wp2_with (first
   |(refine aE 91 rfl 3 _ _ rfl g 1 _ d d n 0 B B rfl rfl F1.out (by decide) jX rfl rfl rfl ?_;intro w1 h1 g1;have H1:=Lib.hid h1;have G1:=Lib.hid g1;clear h1 g1)
   |(refine aE 91 rfl 9 _ _ rfl g 2 _ d d 0 0 B ⟨#[]⟩ rfl rfl H1.out (by decide) fN rfl rfl rfl ?_;intro w2 h2 g2))
  refine bodyPost_end (results_none rfl _ _ _) rfl ?_
  exact ⟨rfl,by rw [←HD.out];exact h2,(E1.out.trans G1.out).trans g2⟩
end Go.Proofs.YtajpoodpbbbkfaaGreatDoor
namespace Go.Proofs.YtajpoodpbbbkfaaGreatDoor
open Go.RowKit Go.Lib
theorem Jm (g : Nat) (f : aC) (c : UInt8) (keep : Bool) (w : World) (h : eG 91 w g f) (hn : f.told ≠ []) (h0 : c ≠ 0) (hb : iT c = false) (hs : f.size ≤ 1073741824) :
    Calls Tryz.prog 120 #[.pointer (some ⟨g, 0, none⟩), .int .u8 ((c.toNat : Nat) : Int), .bool keep] w (fO g ⟨cY f c, 0, []⟩ w) := by
  obtain ⟨k0, k9, k10, k12, k13, k32⟩ := tc c h0 hb
  obtain ⟨t, n, b⟩ := f
  unfold aC.size at hs
  unfold fO eG at *
  unfold cY
  simp only at h hn hs ⊢
  rw [if_neg hn]
  obtain ⟨q, hq⟩ : ∃ q : Int, ((c.toNat : Nat) : Int) = q := ⟨_, rfl⟩
  rw [hq] at k0 k9 k10 k12 k13 k32 ⊢
  have o1 := fun w => Lib.hid (lH w q c hq)
  have hlt := c.toNat_lt
  have hq0 : 0 ≤ q := by omega
  have hq1 : q ≤ 255 := by omega
  obtain ⟨d, hd, hds⟩ : ∃ d : ByteArray, d = ⟨#[c]⟩ ∧ d.size = 1 := ⟨_, rfl, rfl⟩
  rw [← hd] at o1
  obtain ⟨A, hA⟩ : ∃ A : ByteArray, (⟨t.toArray⟩ : ByteArray) = A := ⟨_, rfl⟩
  have hAl : A.data.toList = t := by rw [← hA]
  have hAs : A.size = t.length := by rw [Lib.size_eq, hAl]
  obtain ⟨B, hB⟩ : ∃ B : ByteArray, (⟨b.toArray⟩ : ByteArray) = B := ⟨_, rfl⟩
  have hBl : B.data.toList = b := by rw [← hB]
  have hBs : B.size = b.length := by rw [Lib.size_eq, hBl]
  have HT : Hid (∀ T : ByteArray, T.data.toList = t ++ List.replicate n 10 → (T ++ B) ++ d = ⟨(t ++ List.replicate n 10 ++ b ++ [c]).toArray⟩) := Lib.hid fun T hT => bl (by
    rw [hd]; simp [hT, hBl])
  rw [hA, hB] at h
  obtain ⟨Z, hZ⟩ : ∃ Z : ByteArray, (⟨(t ++ List.replicate n 10 ++ b ++ [c]).toArray⟩ : ByteArray) = Z := ⟨_, rfl⟩
  rw [hZ] at HT ⊢
  obtain ⟨a1, a2⟩ := Jl A (by rw [hAl]; exact hn)
  have hsz : A.size + n + B.size ≤ 1073741824 := by omega
  have H := Lib.hid h
  have HAL := Lib.hid hAl
  obtain ⟨x0, x1, x2⟩ := bL h
  clear h hq hd hlt h0 hb hA hB hBl hZ hn hs hAs hBs hAl
  go_enter Tryz.func120, Tryz.ntmps120
  go_wp2
  clear x0 x1 x2
  go_loopw [6] (fun v wr => ∃ (i : Nat) (T : ByteArray), v = .int .i64 (i : Int) ∧ cM 91 wr g T n B ∧ w.grownBy wr (some g) ∧ i ≤ n ∧ T.size = A.size + i ∧ Hid (T.data.toList = t ++ List.replicate i 10)) (fun v _ => n - (ae v).toNat)
  case atStart => exact ⟨0, A, rfl, H.out, bS (Below.refl _ _) _, Nat.zero_le _, rfl, Lib.hid (by rw [HAL.out]; simp)⟩
  case round =>
    obtain ⟨i, T, rfl, hF, hG, hi, hTs, HTL⟩ := hrel
    have HF := Lib.hid hF
    have HG := Lib.hid hG
    obtain ⟨x0, x1, x2⟩ := bL hF
    have z0 := ip hF 0
    have zg := hF.lt
    by_cases hlt : i < n
    · have g1 : ¬ 9223372036854775807 < T.size + 1 := by omega
      have HTN := Lib.hid (show (T ++ ⟨#[10]⟩).data.toList = t ++ List.replicate (i + 1) 10 from by
        rw [List.replicate_succ']
        simp [HTL.out])
      clear hF hG z0 zg
      go_wp2_with (refine aE 91 rfl 9 _ _ rfl g 0 _ T (T ++ ⟨#[10]⟩) n n B B rfl rfl HF.out (by decide) fN rfl rfl rfl ?_; intro w1 h1 g1; have H1 := Lib.hid h1; have G1 := Lib.hid g1; clear h1 g1)
      go_roundw
      case rel => exact ⟨i + 1, T ++ ⟨#[10]⟩, by go_num, H1.out, HG.out.trans G1.out, by omega, by rw [ByteArray.size_append]; show T.size + 1 = _; omega, HTN⟩
      case measure => simp [ae]; omega
    · obtain rfl : i = n := by omega
      have g1 : ¬ 9223372036854775807 < T.size + B.size := by omega
      go_wp2
      go_region_with (fail)
      all_goals
        have F5 : Hid (cM 91 (wr.setCell ⟨g, 0, none⟩ (.string (T ++ B))).drew g (T ++ B) i B ∧ w.grownBy (wr.setCell ⟨g, 0, none⟩ (.string (T ++ B))).drew (some g)) := Lib.hid (by
          obtain ⟨k1, k2⟩ := HF.out.set 0 (.string (T ++ B)) (t' := T ++ B) (n' := i) (b' := B) rfl
          have h1 : Below (wr.setCell ⟨g, 0, none⟩ (.string (T ++ B))).heap.size (wr.setCell ⟨g, 0, none⟩ (.string (T ++ B))) (wr.setCell ⟨g, 0, none⟩ (.string (T ++ B))).drew := (Below.refl _ _).drew
          exact ⟨k1.below h1, (HG.out.trans k2).trans (bS h1 _)⟩)
        obtain ⟨wx, hwx⟩ : ∃ wx, (wr.setCell ⟨g, 0, none⟩ (.string (T ++ B))).drew = wx := ⟨_, rfl⟩
        rw [hwx] at F5 ⊢
        obtain ⟨f5, e5⟩ := F5.out
        have HF5 := Lib.hid f5
        have HE5 := Lib.hid e5
        clear hwx F5 e5 x0 x1 x2 z0 zg g1
        obtain ⟨x0, x1, x2⟩ := bL f5
        have z0 := ip f5 0
        have zg := f5.lt
        have hTBs : (T ++ B).size ≤ 1073741824 := by rw [ByteArray.size_append]; omega
        have HTB := Lib.hid (HT.out T HTL.out)
        obtain ⟨U, hU⟩ : ∃ U, T ++ B = U := ⟨_, rfl⟩
        rw [hU] at x0 hTBs HF5 HTB ⊢
        have g1 : ¬ 9223372036854775807 < U.size + d.size := by omega
        have o2 := (o1 wx).out
        have F0 := Lib.hid (ta (HF5.out.set 0 (.string (U ++ d)) (t' := U ++ d) (n' := i) (b' := B) rfl) (.cells #[.int .u8 q] 5))
        clear f5 hU o1 hF hG HF
        go_wp2
        go_region_with (fail)
        all_goals
          obtain ⟨f1, e1⟩ := F0.out
          rw [HTB.out] at f1 e1 ⊢
          have F1 := Lib.hid f1
          have E1 := Lib.hid e1
          clear f1 e1
          go_wp2_with (first
            | (refine aE 91 rfl 3 _ _ rfl g 1 _ Z Z i 0 B B rfl rfl F1.out (by decide) jX rfl rfl rfl ?_; intro w1 h1 g1; have H1 := Lib.hid h1; have G1 := Lib.hid g1; clear h1 g1)
            | (refine aE 91 rfl 9 _ _ rfl g 2 _ Z Z 0 0 B ⟨#[]⟩ rfl rfl H1.out (by decide) fN rfl rfl rfl ?_; intro w2 h2 g2))
          refine bodyPost_end (results_none rfl _ _ _) (by rfl) ?_
          exact ⟨rfl, h2, ((HE5.out.trans E1.out).trans G1.out).trans g2⟩
theorem Md (g:Nat) (f:aC) (c:UInt8) (keep:Bool) (w:World) (h:eG 91 w g f) (hs:f.size≤1073741824):Calls Tryz.prog 120 #[.pointer (some ⟨g,0,none⟩),.int .u8 ((c.toNat:Nat):Int),.bool keep] w (fO g (dW keep f c) w):=by
 unfold dW
 by_cases h0:c=0
 ·rw [if_pos h0,h0];exact Jh g f keep w h
 ·rw [if_neg h0]
  by_cases hb:iT c=true
  ·rw [if_pos hb]
   have hk:=(Ch c).1 hb
   cases keep with
   |true=>
    rw [if_pos rfl]
    by_cases hl:c=10∨c=13
    ·rw [if_pos hl];exact Jj g f c w h hl hs
    ·rw [if_neg hl]
     refine Ji g f c w h ?_ hs
     rcases hk with e|e|e|e|e
     ·exact .inl e
     ·exact absurd (.inl e) hl
     ·exact .inr (.inl e)
     ·exact absurd (.inr e) hl
     ·exact .inr (.inr e)
   |false=>rw [if_neg Bool.false_ne_true];exact Jk g f c w h hk
  ·rw [if_neg hb]
   have hb:iT c=false:=by simpa using hb
   by_cases hn:f.told=[]
   ·obtain ⟨t,n,b⟩:=f
    simp only at hn
    subst hn
    exact FA g n b c keep w h h0 hb
   ·exact Jm g f c keep w h hn h0 hb hs
end Go.Proofs.YtajpoodpbbbkfaaGreatDoor
namespace Go.Proofs.YtajpoodpbbbkfaaGreatDoor
open Go.RowKit Go.Lib
theorem FB (keep:Bool) (f:aC) (s:ab) (i:Nat) (c:UInt8) (h:s[i]? =some c):cP keep f (s.take (i+1))=dW keep (cP keep f (s.take i)) c:=by
 rw [List.take_add_one,h,lF];rfl
theorem FC (g:Nat) (f:aC) (s:ByteArray) (keep:Bool) (n:Int) (w:World) (h:eG 91 w g f) (hs:f.size+s.size≤1073741824):Calls Tryz.prog 78 #[.pointer (some ⟨g,0,none⟩),.agg #[.int .i64 0,.string s,.bool keep,.int .i64 n]] w (fO g (cP keep f s.data.toList) w):=by
 have C:=fun (f:aC) (c:UInt8) (w:World) (h:eG 91 w g f) (hs:f.size≤1073741824)=>Lib.hid (Md g f c keep w h hs)
 have H:=Lib.hid h
 have hsz:s.size≤1073741824:=by omega
 have HS:=Lib.hid hs
 have zg:=h.lt
 clear h hs
 obtain ⟨b,hb⟩:∃b,w.heap.size=b:=⟨_,rfl⟩
 obtain ⟨w1,hw1⟩:∃w1,w.alloc (.cells #[.int .i64 0,.string s,.bool keep,.int .i64 n] 98)=w1:=⟨_,rfl⟩
 have B1:=Lib.hid (show Below w.heap.size w w1 by rw [←hw1];exact (Below.refl _ _).alloc (Nat.le_refl _) _)
 have Y:=Lib.hid (show w1.heap[b]? =some (.cells #[.int .i64 0,.string s,.bool keep,.int .i64 n] 98 (0,0)) by rw [←hw1,←hb];exact heap_alloc_new w _)
 have HW:=Lib.hid hw1
 have ne:some b≠some g:=fun e=>by injection e with e;omega
 have NE:=Lib.hid ne
 clear hw1 ne
 go_enter Tryz.func78,Tryz.ntmps78
 go_wp2
 rw [HW.out]
 have HB:=Lib.hid hb
 clear hb
 go_loopw [5] (fun v wr=>∃i:Nat,v= .int .i64 (i:Int)∧i≤s.size∧eG 91 wr g (cP keep f (s.data.toList.take i))∧w1.grownBy wr (some g)) (fun v _=>s.size-(ae v).toNat)
 case atStart=>exact ⟨0,rfl,Nat.zero_le _,by rw [List.take_zero];exact cM.below H.out B1.out,bS (Below.refl _ _) _⟩
 case round=>
  obtain ⟨i,rfl,hi,hF,hG⟩:=hrel
  have Y':=(hG.block b (Array.getElem?_eq_some_iff.1 Y.out).1 NE.out).trans Y.out
  have y1:wr.cell? ⟨b,1,none⟩=some (.string s):=by rw [cell_of_row _ _ _ _ _ _ Y'];rfl
  have y2:wr.cell? ⟨b,2,none⟩=some (.bool keep):=by rw [cell_of_row _ _ _ _ _ _ Y'];rfl
  have HF:=Lib.hid hF
  have HG:=Lib.hid hG
  clear hF hG Y'
  by_cases hlt:i<s.size
  ·have HC:=C (cP keep f (s.data.toList.take i)) s.data[i] wr.drew (cM.below HF.out ((Below.refl _ _).drew)) (by
    have:=gv keep (s.data.toList.take i) f
    have h2:=HS.out
    rw [List.length_take] at this
    omega)
   go_wp2
   go_still_tail 7,(by kernel_rfl)
   change wpList _ _ _ _ _ wr.drew
   obtain ⟨w2,hw2⟩:∃w2,wr.drew=w2:=⟨_,rfl⟩
   have G2:=Lib.hid (show w1.grownBy w2 (some g) from HG.out.trans (bS (by rw [←hw2];exact (Below.refl _ _).drew) _))
   rw [hw2] at HC⊢
   have SN:=Lib.hid (FB keep f s.data.toList i s.data[i] (by simp))
   clear hw2 y1 y2
   go_wp2_with (go_at_call 120;refine HC.out.mono ?_;rintro e w3 ⟨rfl,h3,g3⟩)
   go_roundw
   case rel=>exact ⟨i+1,by go_num,by omega,by rw [SN.out];exact h3,G2.out.trans g3⟩
   case measure=>simp [ae];omega
  ·obtain rfl:i=s.size:=by omega
   go_wp2
   refine bodyPost_end (results_none rfl _ _ _) (by rfl) ?_
   have e:s.data.toList.take s.size=s.data.toList:=List.take_of_length_le (by rw [Lib.size_eq];exact Nat.le_refl _)
   rw [e] at HF
   exact ⟨rfl,HF.out,(bS B1.out _).trans HG.out⟩
theorem zX (w w1:World) (k n:Int) (s:ByteArray) (keep:Bool) (T:TypeId) (g b:Nat) (hb:w.heap.size=b) (hg:g<b) (h:(w.alloc (.cells #[.int .i64 k,.string s,.bool keep,.int .i64 n] T)).grownBy w1 (some g)):w1.cell? ⟨b,0,none⟩=some (.int .i64 k):=by
 have e:=heap_alloc_new w (.cells #[.int .i64 k,.string s,.bool keep,.int .i64 n] T)
 rw [hb] at e
 have h2:=(h.block b (Array.getElem?_eq_some_iff.1 e).1 (fun e=>by injection e with e;omega)).trans e
 rw [cell_of_row _ _ _ _ _ _ h2];rfl
theorem zY (g:Nat) (f:aC) (s:ByteArray) (keep:Bool) (n:Int) (w:World) (h:eG 91 w g f) (hs:f.size≤1073741824) (hn: -9223372036854775808≤n∧n≤9223372036854775807):Calls Tryz.prog 78 #[.pointer (some ⟨g,0,none⟩),.agg #[.int .i64 1,.string s,.bool keep,.int .i64 n]] w (fO g (nC n f) w):=by
 have hen:f.ends≤1073741824:=by unfold aC.size at hs;omega
 obtain ⟨t,m,b⟩:=f
 unfold fO eG nC at*
 simp only at h hen⊢
 clear hs
 generalize (⟨t.toArray⟩:ByteArray)=A at h⊢
 generalize (⟨b.toArray⟩:ByteArray)=B at h⊢
 have zg:=h.lt
 have B1:=(Below.refl w.heap.size w).alloc (Nat.le_refl _) (.cells #[.int .i64 1,.string s,.bool keep,.int .i64 n] 98)
 have H:=Lib.hid (cM.below h B1)
 obtain ⟨b,hb⟩:∃b,w.heap.size=b:=⟨_,rfl⟩
 have YC:=fun w1=>Lib.hid (zX w w1 1 n s keep 98 g b hb (by omega))
 have B1:=Lib.hid B1
 obtain ⟨x0,x1,x2⟩:=bL H.out
 clear h x0 x2
 by_cases h1:n≤100<;>by_cases h2:(m:Int)<min n 100
 all_goals
  obtain ⟨r,hr⟩:∃r:Nat,max m (min n 100).toNat=r:=⟨_,rfl⟩
  rw [hr]
 ·obtain rfl:(r:Int)=n:=by omega
  have h2:(m:Int)<(r:Int):=by omega
  have hmn:min (r:Int) 100=(r:Int):=by omega
  clear hr
  go_enter Tryz.func78,Tryz.ntmps78
  go_wp2_with (first
   |(refine aE 91 rfl 3 _ _ rfl g 1 _ A A m r B B rfl rfl H.out (by decide) jX rfl rfl rfl ?_;intro w1 h1 g1;have H1:=Lib.hid h1;have G1:=Lib.hid g1;have y0:=(YC w1).out g1;clear h1 g1)
   |(refine aE 91 rfl 9 _ _ rfl g 2 _ A A r r B ⟨#[]⟩ rfl rfl H1.out (by decide) fN rfl rfl rfl ?_;intro w2 h2 g2;have H2:=Lib.hid h2;have G2:=Lib.hid (G1.out.trans g2);have y0:=(YC w2).out (G1.out.trans g2);clear h2 g2))
  refine bodyPost_ret (results_none rfl _ _ _) (by rfl) ?_
  exact ⟨rfl,H2.out,(bS B1.out _).trans G2.out⟩
 focus
  obtain rfl:r=m:=by omega
  have h3:n≤(r:Int):=by omega
 rotate_left
 ·obtain rfl:r=100:=by omega
  have h2:(m:Int)<100:=by omega
  have h1:100<n:=by omega
  have hmn:min n 100=(100:Int):=by omega
  clear hr
  go_enter Tryz.func78,Tryz.ntmps78
  go_wp2_with (first
   |(refine aE 91 rfl 3 _ _ rfl g 1 _ A A m 100 B B rfl rfl H.out (by decide) jX rfl rfl rfl ?_;intro w1 h1 g1;have H1:=Lib.hid h1;have G1:=Lib.hid g1;have y0:=(YC w1).out g1;clear h1 g1)
   |(refine aE 91 rfl 9 _ _ rfl g 2 _ A A 100 100 B ⟨#[]⟩ rfl rfl H1.out (by decide) fN rfl rfl rfl ?_;intro w2 h2 g2;have H2:=Lib.hid h2;have G2:=Lib.hid (G1.out.trans g2);have y0:=(YC w2).out (G1.out.trans g2);clear h2 g2))
  refine bodyPost_ret (results_none rfl _ _ _) (by rfl) ?_
  exact ⟨rfl,H2.out,(bS B1.out _).trans G2.out⟩
 focus
  obtain rfl:r=m:=by omega
  have h3:(100:Int)≤(r:Int):=by omega
  have h1:100<n:=by omega
 rotate_left
 all_goals
  clear hr h2
  go_enter Tryz.func78,Tryz.ntmps78
  go_wp2_with (refine aE 91 rfl 9 _ _ rfl g 2 _ A A r r B ⟨#[]⟩ rfl rfl H.out (by decide) fN rfl rfl rfl ?_;intro w2 h2 g2;have H2:=Lib.hid h2;have G2:=Lib.hid g2;have y0:=(YC w2).out g2;clear h2 g2)
  refine bodyPost_ret (results_none rfl _ _ _) (by rfl) ?_
  exact ⟨rfl,H2.out,(bS B1.out _).trans G2.out⟩
theorem Ci (g:Nat) (f:aC) (s:ByteArray) (keep:Bool) (n:Int) (w:World) (h:eG 91 w g f) (hs:f.size≤1073741824):Calls Tryz.prog 78 #[.pointer (some ⟨g,0,none⟩),.agg #[.int .i64 2,.string s,.bool keep,.int .i64 n]] w (fO g (jU f) w):=by
 have hen:f.ends≤1073741824:=by unfold aC.size at hs;omega
 obtain ⟨t,m,b⟩:=f
 unfold fO eG jU at*
 simp only at h hen⊢
 clear hs
 generalize (⟨t.toArray⟩:ByteArray)=A at h⊢
 generalize (⟨b.toArray⟩:ByteArray)=B at h⊢
 have zg:=h.lt
 have B1:=(Below.refl w.heap.size w).alloc (Nat.le_refl _) (.cells #[.int .i64 2,.string s,.bool keep,.int .i64 n] 98)
 have H:=Lib.hid (cM.below h B1)
 obtain ⟨b,hb⟩:∃b,w.heap.size=b:=⟨_,rfl⟩
 have YC:=fun w1=>Lib.hid (zX w w1 2 n s keep 98 g b hb (by omega))
 have B1:=Lib.hid B1
 obtain ⟨x0,x1,x2⟩:=bL H.out
 clear h x0 x2
 go_enter Tryz.func78,Tryz.ntmps78
 go_wp2_with (first
  |(refine aE 91 rfl 3 _ _ rfl g 1 _ A A m (m+1) B B rfl rfl H.out (by decide) jX rfl rfl (by first|rfl|(simp [gM])) ?_;intro w1 h1 g1;have H1:=Lib.hid h1;have G1:=Lib.hid g1;have y0:=(YC w1).out g1;clear h1 g1)
  |(refine aE 91 rfl 9 _ _ rfl g 2 _ A A (m+1) (m+1) B ⟨#[]⟩ rfl rfl H1.out (by decide) fN rfl rfl rfl ?_;intro w2 h2 g2;have H2:=Lib.hid h2;have G2:=Lib.hid (G1.out.trans g2);have y0:=(YC w2).out (G1.out.trans g2);clear h2 g2))
 refine bodyPost_ret (results_none rfl _ _ _) (by rfl) ?_
 exact ⟨rfl,H2.out,(bS B1.out _).trans G2.out⟩
theorem z5 (g:Nat) (f:aC) (k:Int) (s:ByteArray) (keep:Bool) (n:Int) (w:World) (h:eG 91 w g f) (h0:(k==0)=false) (h1:(k==1)=false) (h2:(k==2)=false):Calls Tryz.prog 78 #[.pointer (some ⟨g,0,none⟩),.agg #[.int .i64 k,.string s,.bool keep,.int .i64 n]] w (fO g f w):=by
 have B1:=(Below.refl w.heap.size w).alloc (Nat.le_refl _) (.cells #[.int .i64 k,.string s,.bool keep,.int .i64 n] 98)
 have H:=Lib.hid (cM.below h B1)
 have B1:=Lib.hid B1
 clear h
 go_enter Tryz.func78,Tryz.ntmps78
 go_wp2
 refine bodyPost_ret (results_none rfl _ _ _) (by rfl) ?_
 exact ⟨rfl,H.out,bS B1.out _⟩
theorem FD (g:Nat) (f:aC) (k:Int) (s:ByteArray) (keep:Bool) (n:Int) (w:World) (h:eG 91 w g f) (hs:f.size+s.size≤1073741824) (hn: -9223372036854775808≤n∧n≤9223372036854775807):Calls Tryz.prog 78 #[.pointer (some ⟨g,0,none⟩),.agg #[.int .i64 k,.string s,.bool keep,.int .i64 n]] w (fO g (Fw f ⟨k,s.data.toList,keep,n⟩) w):=by
 unfold Fw
 simp only
 by_cases h0:k=0
 ·rw [if_pos h0,h0];exact FC g f s keep n w h hs
 ·rw [if_neg h0]
  by_cases h1:k=1
  ·rw [if_pos h1,h1];exact zY g f s keep n w h (by omega) hn
  ·rw [if_neg h1]
   by_cases h2:k=2
   ·rw [if_pos h2,h2];exact Ci g f s keep n w h (by omega)
   ·rw [if_neg h2]
    exact z5 g f k s keep n w h (by rw [beq_eq_false_iff_ne];exact h0) (by rw [beq_eq_false_iff_ne];exact h1) (by rw [beq_eq_false_iff_ne];exact h2)
end Go.Proofs.YtajpoodpbbbkfaaGreatDoor
namespace Go.Proofs.YtajpoodpbbbkfaaGreatDoor
open Go.RowKit Go.Lib
abbrev eH:=Nat→Prop
abbrev Own:=World→eH→Prop
structure bC (S:Own):Prop where
 lt:∀{w:World} {F:eH},S w F→∀k,F k→k<w.heap.size
 same:∀{w w':World} {F:eH},S w F→(∀k,F k→w'.heap[k]? =w.heap[k]?)→S w' F
structure bv (F F':eH) (w w':World):Prop where
 os:w'.os=w.os
 tape:w'.tape=w.tape
 output:w'.output=w.output
 size:w.heap.size≤w'.heap.size
 block:∀k,k<w.heap.size→¬F k→w'.heap[k]? =w.heap[k]?
 foot:∀k,F' k→F k∨w.heap.size≤k
theorem bv.refl (F:eH) (w:World):bv F F w w:=⟨rfl,rfl,rfl,Nat.le_refl _,fun _ _ _=>rfl,fun _ h=> .inl h⟩
theorem bv.of_below (F:eH) {w w':World} (h:Below w.heap.size w w'):bv F F w w':=⟨h.os,h.tape,h.output,h.size,fun k hk _=>h.block k hk,fun _ h=> .inl h⟩
theorem bv.of_grown {F:eH} {w w':World} {g:Nat} (h:w.grownBy w' (some g)) (hg:F g):bv F F w w':=
 ⟨h.os,h.tape,h.output,h.size,fun k hk hF=>h.block k hk (fun e=>hF (by rw [Option.some.inj e];exact hg)),fun _ h=> .inl h⟩
theorem bv.trans {F F1 F2:eH} {w w1 w2:World} (h:bv F F1 w w1) (h1:bv F1 F2 w1 w2):bv F F2 w w2:=
 ⟨h1.os.trans h.os,h1.tape.trans h.tape,h1.output.trans h.output,Nat.le_trans h.size h1.size,fun k hk hF=>(h1.block k (Nat.lt_of_lt_of_le hk h.size) (fun e=>(h.foot k e).elim hF (fun e=>by omega))).trans (h.block k hk hF),fun k hk=>(h1.foot k hk).elim (h.foot k) (fun e=> .inr (Nat.le_trans h.size e))⟩
theorem bv.below {F F':eH} {w0 w w':World} {B:Nat} (h:bv F F' w w') (hb:Below B w0 w) (hB:B≤w.heap.size) (hF:∀k,F k→B≤k):Below B w0 w':=
 hb.trans ⟨h.os,h.tape,h.output,h.size,fun k hk=>h.block k (by omega) (fun e=>by have:=hF k e;omega)⟩
def bI (S T:Own):Own:=fun w F=>∃F1 F2,S w F1∧T w F2∧(∀k,F1 k→¬F2 k)∧∀k,F k↔F1 k∨F2 k
def D3:Own:=fun _ F=>∀k,¬F k
theorem bC.emp:bC D3:=⟨fun h k hk=>absurd hk (h k),fun h _=>h⟩
theorem bC.sep {S T:Own} (hS:bC S) (hT:bC T):bC (bI S T):=by
 refine ⟨?_,?_⟩
 ·rintro w F ⟨F1,F2,h1,h2,-,hF⟩ k hk
  exact ((hF k).1 hk).elim (hS.lt h1 k) (hT.lt h2 k)
 ·rintro w w' F ⟨F1,F2,h1,h2,hd,hF⟩ hk
  exact ⟨F1,F2,hS.same h1 (fun k h=>hk k ((hF k).2 (.inl h))),hT.same h2 (fun k h=>hk k ((hF k).2 (.inr h))),hd,hF⟩
def ax (w0 w:World) (S:Own):Prop:=Below w0.heap.size w0 w∧∃F,S w F∧∀k,F k→w0.heap.size≤k
theorem ax.bel {w0 w:World} {S:Own} (h:ax w0 w S):Below w0.heap.size w0 w:=h.1
theorem ax.nothing (w:World):ax w w D3:=⟨Below.refl _ w,fun _=>False,fun _ h=>h,fun _ h=>h.elim⟩
theorem ax.none {w0 w:World} (h:Below w0.heap.size w0 w):ax w0 w D3:=⟨h,fun _=>False,fun _ h=>h,fun _ h=>h.elim⟩
theorem ax.below {w0 w w':World} {S:Own} (h:ax w0 w S) (hL:bC S) (hb:Below w.heap.size w w'):ax w0 w' S:=by
 obtain ⟨h0,F,hS,hF⟩:=h
 exact ⟨h0.trans (hb.mono h0.size),F,hL.same hS (fun k hk=>hb.block k (hL.lt hS k hk)),hF⟩
theorem ax.turn {w0 w:World} {S T R:Own} (h:ax w0 w (bI S (bI T R))):ax w0 w (bI T (bI S R)):=by
 obtain ⟨h0,F,⟨F1,F2,h1,⟨F3,F4,h3,h4,hd2,hF2⟩,hd,hF⟩,hB⟩:=h
 refine ⟨h0,F,⟨F3,fun k=>F1 k∨F4 k,h3,⟨F1,F4,h1,h4,fun k a b=>hd k a ((hF2 k).2 (.inr b)),fun _=>Iff.rfl⟩,fun k a b=>b.elim (fun b=>hd k b ((hF2 k).2 (.inl a))) (fun b=>hd2 k a b),fun k=>?_⟩,hB⟩
 rw [hF,hF2]
 exact ⟨fun h=>h.elim (fun h=> .inr (.inl h)) (fun h=>h.elim .inl (fun h=> .inr (.inr h))),fun h=>h.elim (fun h=> .inr (.inl h)) (fun h=>h.elim .inl (fun h=> .inr (.inr h)))⟩
def ff (S T:Own):Prop:=∀w F,S w F→T w F
theorem ff.turn (S T R:Own):ff (bI S (bI T R)) (bI T (bI S R)):=by
 rintro w F ⟨F1,F2,h1,⟨F3,F4,h3,h4,hd2,hF2⟩,hd,hF⟩
 refine ⟨F3,fun k=>F1 k∨F4 k,h3,⟨F1,F4,h1,h4,fun k a b=>hd k a ((hF2 k).2 (.inr b)),fun _=>Iff.rfl⟩,fun k a b=>b.elim (fun b=>hd k b ((hF2 k).2 (.inl a))) (fun b=>hd2 k a b),fun k=>?_⟩
 rw [hF,hF2]
 exact ⟨fun h=>h.elim (fun h=> .inr (.inl h)) (fun h=>h.elim .inl (fun h=> .inr (.inr h))),fun h=>h.elim (fun h=> .inr (.inl h)) (fun h=>h.elim .inl (fun h=> .inr (.inr h)))⟩
theorem ff.right {T T':Own} (S:Own) (h:ff T T'):ff (bI S T) (bI S T'):=by
 rintro w F ⟨F1,F2,h1,h2,hd,hF⟩
 exact ⟨F1,F2,h1,h w F2 h2,hd,hF⟩
theorem ax.imp {w0 w:World} {S T:Own} (h:ax w0 w S) (hi:ff S T):ax w0 w T:=by
 obtain ⟨h0,F,h1,hB⟩:=h
 exact ⟨h0,F,hi w F h1,hB⟩
theorem ax.third {w0 w:World} {A B C R:Own} (h:ax w0 w (bI A (bI B (bI C R)))):ax w0 w (bI C (bI A (bI B R))):=(h.imp (ff.right A (ff.turn B C R))).imp (ff.turn A C _)
theorem ax.back {w0 w:World} {A B C R:Own} (h:ax w0 w (bI C (bI A (bI B R)))):ax w0 w (bI A (bI B (bI C R))):=(h.imp (ff.turn C A _)).imp (ff.right A (ff.turn C B R))
theorem ax.rest {w0 w:World} {S T:Own} (h:ax w0 w (bI S T)):ax w0 w T:=by
 obtain ⟨h0,F,⟨F1,F2,h1,h2,hd,hF⟩,hB⟩:=h
 exact ⟨h0,F2,h2,fun k hk=>hB k ((hF k).2 (.inr hk))⟩
theorem ax.first {w0 w:World} {S T:Own} (h:ax w0 w (bI S T)):∃F,S w F∧(∀k,F k→w0.heap.size≤k)∧∀w' S' F',bC T→S' w' F'→bv F F' w w'→ax w0 w' (bI S' T):=by
 obtain ⟨h0,F,⟨F1,F2,h1,h2,hd,hF⟩,hB⟩:=h
 refine ⟨F1,h1,fun k hk=>hB k ((hF k).2 (.inl hk)),fun w' S' F' hT hS' hm=>?_⟩
 have hlt:=fun k hk=>hT.lt h2 k hk
 refine ⟨hm.below h0 h0.size (fun k hk=>hB k ((hF k).2 (.inl hk))),fun k=>F' k∨F2 k,⟨F',F2,hS',hT.same h2 (fun k hk=>hm.block k (hlt k hk) (fun e=>hd k e hk)),fun k a b=>(hm.foot k a).elim (fun e=>hd k e b) (fun e=>by have:=hlt k b;omega),fun _=>Iff.rfl⟩,fun k hk=>?_⟩
 rcases hk with hk|hk
 ·exact (hm.foot k hk).elim (fun e=>hB k ((hF k).2 (.inl e))) (fun e=>Nat.le_trans h0.size e)
 ·exact hB k ((hF k).2 (.inr hk))
theorem ax.more {w0 w w':World} {S T:Own} (h:ax w0 w T) (hT:bC T) (hb:Below w.heap.size w w') {F:eH} (hS:S w' F) (hn:∀k,F k→w.heap.size≤k):ax w0 w' (bI S T):=by
 obtain ⟨h0,F2,h2,hF2⟩:=h
 refine ⟨h0.trans (hb.mono h0.size),fun k=>F k∨F2 k,⟨F,F2,hS,hT.same h2 (fun k hk=>hb.block k (hT.lt h2 k hk)),fun k a b=>by have:=hn k a;have:=hT.lt h2 k b;omega,fun _=>Iff.rfl⟩,fun k hk=>?_⟩
 exact hk.elim (fun e=>Nat.le_trans h0.size (hn k e)) (hF2 k)
theorem ax.call {P:Program} {f:Nat} {args:Array Value} {w0 w:World} {S S' T:Own} {Q:Ending→Prop} (h:ax w0 w (bI S T)) (hT:bC T) (hc:∀F,S w F→Calls P f args w fun e w'=>Q e∧∃F',S' w' F'∧bv F F' w w'):Calls P f args w fun e w'=>Q e∧ax w0 w' (bI S' T):=by
 obtain ⟨F,hS,-,hk⟩:=h.first
 refine (hc F hS).mono ?_
 rintro e w' ⟨hq,F',hS',hm⟩
 exact ⟨hq,hk w' S' F' hT hS' hm⟩
end Go.Proofs.YtajpoodpbbbkfaaGreatDoor
namespace Go.Proofs.YtajpoodpbbbkfaaGreatDoor
open Go.RowKit Go.Lib
def rc (g:Nat) (f:aC):Own:=fun w F=>eG 91 w g f∧∀k,F k↔k=g
theorem jY (g:Nat) (f:aC):bC (rc g f):=by
 refine ⟨?_,?_⟩
 ·rintro w F ⟨h,hF⟩ k hk
  rw [(hF k).1 hk];exact cM.lt h
 ·rintro w w' F ⟨h,hF⟩ hk
  exact ⟨(hk g ((hF g).2 rfl)).trans h,hF⟩
def Ot (a:Ma):Value:= .agg #[.int .i64 a.kind,.string ⟨a.s.toArray⟩,.bool a.keep,.int .i64 a.n]
theorem nG (w0 w:World) (g:Nat) (f:aC) (R:Own) (hR:bC R) (h:ax w0 w (bI (rc g f) R)) (a:Ma) (hs:f.size+a.s.length≤1073741824) (ha:Pe a):Calls Tryz.prog 78 #[.pointer (some ⟨g,0,none⟩),Ot a] w fun e w'=>e= .returned (.tuple #[])∧ax w0 w' (bI (rc g (Fw f a)) R):=by
 refine ax.call h hR fun F hF=>?_
 obtain ⟨h1,h2⟩:=hF
 have hsz:(⟨a.s.toArray⟩:ByteArray).size=a.s.length:=by rw [Lib.size_eq,List.toList_toArray]
 refine (FD g f a.kind ⟨a.s.toArray⟩ a.keep a.n w h1 (by omega) ha).mono ?_
 rintro e w' ⟨rfl,h3,hg⟩
 rw [show (⟨a.s.toArray⟩:ByteArray).data.toList=a.s by rw [List.toList_toArray]] at h3
 exact ⟨rfl,F,⟨h3,h2⟩,bv.of_grown hg ((h2 g).2 rfl)⟩
theorem FE {w0 w:World} {R:Own} (h:ax w0 w R) (hR:bC R):ax w0 (w.alloc (.cells #[.string ⟨#[]⟩,.int .i64 0,.string ⟨#[]⟩] 91)) (bI (rc w.heap.size io) R):=
 h.more hR ((Below.refl w.heap.size w).alloc (Nat.le_refl _) _) (S:=rc w.heap.size io) (F:=fun k=>k=w.heap.size) ⟨heap_alloc_new w _,fun _=>Iff.rfl⟩ (fun k hk=>by omega)
theorem FG {w0 w:World} {g:Nat} {f:aC} {R:Own} (h:ax w0 w (bI (rc g f) R)):w.cell? ⟨g,0,none⟩=some (.string ⟨f.told.toArray⟩):=by
 obtain ⟨F,hF,-,-⟩:=h.first
 exact (bL hF.1).1
def cF (b:Nat) (o:Obj):Own:=fun w F=>w.heap[b]? =some o∧∀k,F k↔k=b
theorem aI (b:Nat) (o:Obj):bC (cF b o):=by
 refine ⟨?_,?_⟩
 ·rintro w F ⟨h,hF⟩ k hk
  rw [(hF k).1 hk];exact (Array.getElem?_eq_some_iff.1 h).1
 ·rintro w w' F ⟨h,hF⟩ hk
  exact ⟨(hk b ((hF b).2 rfl)).trans h,hF⟩
theorem gw {w0 w:World} {R:Own} (h:ax w0 w R) (hR:bC R) (o:Obj):ax w0 (w.alloc o) (bI (cF w.heap.size o) R):=
 h.more hR ((Below.refl w.heap.size w).alloc (Nat.le_refl _) _) (S:=cF w.heap.size o) (F:=fun k=>k=w.heap.size) ⟨heap_alloc_new w _,fun _=>Iff.rfl⟩ (fun k hk=>by omega)
theorem dX {w0 w:World} {b:Nat} {o:Obj} {R:Own} (h:ax w0 w (bI (cF b o) R)):w.heap[b]? =some o:=by
 obtain ⟨F,hF,-,-⟩:=h.first
 exact hF.1
end Go.Proofs.YtajpoodpbbbkfaaGreatDoor
namespace Go.Proofs.YtajpoodpbbbkfaaGreatDoor
open Go.RowKit
theorem kJ (g:Nat) (t:TypeId) (fz:Nat × Nat):∀(vs:List Value) (o:Nat) (cur:Array Value) (w:World),w.heap[g]? =some (.cells cur t fz)→o+vs.length≤cur.size→(w.setCells g o vs).heap[g]? =some (.cells (cur.toList.take o++vs++cur.toList.drop (o+vs.length)).toArray t fz)
 |[],o,cur,w,hg,_=>by
  show w.heap[g]? =_
  rw [hg]
  simp only [List.append_nil,List.length_nil,Nat.add_zero,List.take_append_drop,Array.toArray_toList]
 |v::rest,o,cur,w,hg,hl=>by
  simp only [List.length_cons] at hl
  have h1:(w.setCell ⟨g,o,none⟩ v).heap[g]? =some (.cells (cur.setIfInBounds o v) t fz):=by
   rw [setCell_eq_setRow w g o cur t fz v hg]
   exact setRow_heap w g cur _ t fz hg
  have ih:=kJ g t fz rest (o+1) (cur.setIfInBounds o v) (w.setCell ⟨g,o,none⟩ v) h1 (by simp;omega)
  show ((w.setCell ⟨g,o,none⟩ v).setCells g (o+1) rest).heap[g]? =_
  rw [ih]
  have e:=list_seg_step cur.toList o v rest (by simp;omega)
  simp only [Array.toList_setIfInBounds,List.length_cons]
  rw [e]
theorem js (g:Nat):∀(vs:List Value) (o:Nat) (w:World),w.grownBy (w.setCells g o vs) (some g)
 |[],_,w=>World.grownBy.refl w _
 |v::rest,o,w=>by
  have ih:=js g rest (o+1) (w.setCell ⟨g,o,none⟩ v)
  refine ⟨ih.os,ih.tape,ih.output,?_,fun k hk hne=>?_⟩
  ·have hs:(w.setCell ⟨g,o,none⟩ v).heap.size=w.heap.size:=by simp [World.setCell]
   have:=ih.size
   rw [hs] at this
   exact this
  ·rw [show (w.setCells g o (v::rest))=(w.setCell ⟨g,o,none⟩ v).setCells g (o+1) rest from rfl,ih.block k (by simpa [World.setCell] using hk) hne]
   exact heap_setCell_other w ⟨g,o,none⟩ k v (fun e=>hne (by rw [e]))
section
variable {P:Program} (w:World)
theorem xF (t tx ty e:TypeId) (i:TypeInfo) (z:Value) (ht:P.underlying t=some (.slice e)) (hi:P.info? e=some i) (hz:i.zero=some z) (hsize:i.size=1) (hby:i.bytes=1) (hzs:z.cells.size=1) (v:Value) (n:Nat) (xs:List Value) (hown:w.ownsRowF 0 e 1 v n xs) (x:Value) (m:Nat) (news:List Value) (hs:Src P 1 tx x m news w) (h63:n+m≤140737488355328):∃v' w',(Builtin.append_ #[t,tx] ty #[v,x]).run P w= .ok v' w'∧w'.ownsRowF 0 e 1 v' (n+m) (xs++news)∧w.grownBy w' v.ownBlock∧(v'.ownBlock=v.ownBlock∨v'.ownBlock=some w.heap.size):=by
 have hml:n+m≤maxLen:=by unfold maxLen;omega
 have hsmall:((n+m:Nat):Int)≤9223372036854775807:=by omega
 have hlen:(xs++news).length=(n+m)*1:=by rw [List.length_append,hown.1,hs.newsLen,Nat.add_mul]
 have hs':Src P i.size tx x m news w:=by rw [hsize];exact hs
 rcases hown.2 with ⟨rfl,rfl⟩|⟨g,cap,cur,fz,rfl,hbg,hg,hfz,hnc,hcm,hcs,htake⟩
 focus
  have hx0:xs=[]:=List.eq_nil_of_length_eq_zero (by rw [hown.1])
  subst hx0
  by_cases hm:m=0
 ·subst hm
  have hn0:news=[]:=List.eq_nil_of_length_eq_zero (by rw [hs.newsLen])
  subst hn0
  refine ⟨.slice none 0 0,w,?_,⟨by simp,.inl ⟨rfl,rfl⟩⟩,World.grownBy.refl w _,.inl rfl⟩
  have hc:=hs'.cells
  rcases hs.kind with ⟨e',hk⟩|hk<;>simp [Builtin.append_,run_underlying ht,run_underlying hk,sizeOf,typeInfo,hi,hs.len,hc]
 focus
  have hr:=run_append_grow_src (P:=P) w t tx ty e i z ht hi hz none 0 0 [] (run_firstCells_none w.drew i.size 0 0 0) x m news hs' (by omega) hsmall (growslice_fits (by omega) (by rw [hby];omega))
  have hg2:=grownCap_ge w (0+m) 0 e
  have hm2:grownCap w (0+m) 0 e≤maxLen:=grownCap_le_maxLen w (0+m) 0 e hml
 rotate_left
 focus
  by_cases hroom:n+m≤cap
 ·have hfit:n*i.size+news.length≤cur.size:=by (rw [hs.newsLen,hcs,hsize];(try omega))
  have hr:=run_append_room_src (P:=P) w t tx ty e i ht hi g 0 n cap x m news hs' hroom (fun j hj=>by
   simp only [World.cell?,hg,Nat.zero_add]
   rw [Array.getElem?_eq_getElem (by omega)]
   rfl) (fun j hj=>by
   obtain ⟨lo,hi'⟩:=fz
   simp only [World.frozen?,hg,Nat.zero_add,Bool.and_eq_false_iff,decide_eq_false_iff_not]
   simp only at hfz
   rw [hsize]
   omega)
  rw [Nat.zero_add,hsize] at hr
  rw [hsize] at hfit
  have hh:=kJ g e fz news (n*1) cur w hg hfit
  refine ⟨_,_,hr,⟨hlen,.inr ⟨g,cap,_,fz,rfl,hbg,hh,by omega,hroom,hcm,?_,?_⟩⟩,js g news (n*1) w,.inl rfl⟩
  ·simp only [List.size_toArray,List.length_append,List.length_take,List.length_drop,Array.length_toList]
   omega
  ·rw [htake,←hlen]
   exact List.take_left
 focus
  have holds:=hown.cells (g:=g) rfl
  have hr:=run_append_grow_src (P:=P) w t tx ty e i z ht hi hz (some ⟨g,0,none⟩) n cap xs (run_firstCells_some w.drew i.size n ⟨g,0,none⟩ n cap xs (by rw [hsize];exact hown.1) (by simpa using holds)) x m news hs' (by omega) hsmall (growslice_fits (by omega) (by rw [hby];omega))
  have hg2:=grownCap_ge w (n+m) cap e
  have hm2:grownCap w (n+m) cap e≤maxLen:=grownCap_le_maxLen w (n+m) cap e hml
 rotate_left
 all_goals
  refine ⟨_,_,hr,⟨hlen,.inr ⟨w.heap.size,_,_,(0,0),rfl,Nat.zero_le _,heap_alloc_new w.drew _,Nat.zero_le _,hg2,hm2,?_,?_⟩⟩,⟨rfl,rfl,rfl,by simp,fun k hk _=>Below.heap_alloc w.drew _ k hk⟩,.inr rfl⟩
  ·simp only [Array.size_append,List.size_toArray,size_zeroCells,hzs,hlen]
   omega
  ·simp only [Array.toList_append,List.append_assoc]
   rw [←List.append_assoc,←hlen]
   exact List.take_left
theorem kS {ops:Array Oper} {rest:List Oper} {o:Oper} {a:Act} {Q:Exit→Act→World→Prop} (hgd:o.guard=none) (sl x:Operand) (t tx:TypeId) (ho:o.op= .call {callee:= .builtin .append,args:=#[sl,x],argTypes:=#[t,tx]}) (e:TypeId) (i:TypeInfo) (z:Value) (ht:P.underlying t=some (.slice e)) (hi:P.info? e=some i) (hz:i.zero=some z) (hsize:i.size=1) (hby:i.bytes=1) (hzs:z.cells.size=1) (v:Value) (n:Nat) (xs:List Value) (hv:a.eval sl=v) (hown:w.ownsRowF 0 e 1 v n xs) (xv:Value) (m:Nat) (news:List Value) (hx:a.eval x=xv) (hs:Src P 1 tx xv m news w) (h63:n+m≤140737488355328) (h:∀v' w',w'.ownsRowF 0 e 1 v' (n+m) (xs++news)→w.grownBy w' v.ownBlock→(v'.ownBlock=v.ownBlock∨v'.ownBlock=some w.heap.size)→wpList P ops Q rest (a.put o.dst v') w'):wpList P ops Q (o::rest) a w:=by
 refine wpList_plain hgd fun K hK=>?_
 obtain ⟨v',w',hr,h2,h3,h4⟩:=xF (P:=P) w t tx o.type e i z ht hi hz hsize hby hzs v n xs hown xv m news hs h63
 unfold Oper.wp execOp
 simp only [ho,resolve,invoke,builtin,Sem.run_bind,Sem.run_pure,Result.andThen_ok,List.map_toArray,List.map_cons,List.map_nil,hv,hx,hr]
 exact hK _ _ (h v' w' h2 h3 h4)
end
end Go.Proofs.YtajpoodpbbbkfaaGreatDoor
namespace Go.Proofs.YtajpoodpbbbkfaaGreatDoor
open Go.RowKit Go.Lib
theorem oV : (Tryz.prog.info? 54).map (·.size) = some 2 := by kernel_rfl
theorem xG:liesAt Tryz.prog Tryz.prog.depth 142 (4/Tryz.prog.cellsOf 142) 0 54 1=true:=by kernel_rfl
theorem mz:(Tryz.prog.info? 5).map (fun i=>(i.zero,i.size,i.bytes))=some (some (.int .u8 0),1,1):=by kernel_rfl
theorem Cj:Tryz.prog.cellsOf 5=1:=by kernel_rfl
theorem mA {w w':World} {base:Nat} {e:TypeId} {size:Nat} {v:Value} {n:Nat} {xs:List Value} (h:w.ownsRowF base e size v n xs) (hk:∀k,v.ownBlock=some k→w'.heap[k]? =w.heap[k]?):w'.ownsRowF base e size v n xs:=by
 refine ⟨h.1,?_⟩
 rcases h.2 with hn|⟨g,cap,cur,fz,rfl,hb,hg,rest⟩
 ·exact .inl hn
 ·exact .inr ⟨g,cap,cur,fz,rfl,hb,(hk g rfl).trans hg,rest⟩
theorem lI {w w':World} {base:Nat} {e:TypeId} {size:Nat} {v:Value} {n:Nat} {xs:List Value} (h:w.ownsRow base e size v n xs) (hk:∀k,v.ownBlock=some k→w'.heap[k]? =w.heap[k]?):w'.ownsRow base e size v n xs:=by
 refine ⟨h.1,?_⟩
 rcases h.2 with hn|⟨g,cap,cur,rfl,hb,hg,rest⟩
 ·exact .inl hn
 ·exact .inr ⟨g,cap,cur,rfl,hb,(hk g rfl).trans hg,rest⟩
theorem xH {w:World} {base:Nat} {e:TypeId} {size:Nat} {v:Value} {n:Nat} {xs:List Value} (h:w.ownsRowF base e size v n xs) (k:Nat) (hk:v.ownBlock=some k):k<w.heap.size:=(h.lt k hk).2
theorem Ck {w:World} {base:Nat} {e:TypeId} {size:Nat} {v:Value} {n:Nat} {xs:List Value} (h:w.ownsRow base e size v n xs) (k:Nat) (hk:v.ownBlock=some k):k<w.heap.size:=(h.lt k hk).2
structure bm (w:World) (b:Nat) (p v1:Value) (n:Nat) (v2:Value) (t l:ab):Prop where
 blk:w.heap[b]? =some (.cells #[p,v1,.int .i64 (n:Int),v2] 142 (0,0))
 ptr:p= .pointer none∨p= .pointer (some ⟨b,0,none⟩)
 told:w.ownsRowF 0 5 1 v1 t.length (Lib.byteCells t)
 blanks:w.ownsRow 0 5 1 v2 l.length (Lib.byteCells l)
 apart:∀k,v1.ownBlock=some k→v2.ownBlock≠some k
 bare:t=[]→v1= .slice none 0 0
def dN (b:Nat) (v1 v2:Value):eH:=fun k=>k=b∨v1.ownBlock=some k∨v2.ownBlock=some k
def lJ (g:Addr) (f:aC):Own:=fun w F=>∃b p v1 v2,g=⟨b,0,none⟩∧bm w b p v1 f.ends v2 f.told f.blanks∧∀k,F k↔dN b v1 v2 k
section
variable {w w':World} {b:Nat} {p v1:Value} {n:Nat} {v2:Value} {t l:ab}
theorem bm.ltb (h:bm w b p v1 n v2 t l):b<w.heap.size:=(Array.getElem?_eq_some_iff.1 h.blk).1
theorem bm.ne1 (h:bm w b p v1 n v2 t l):v1.ownBlock≠some b:=Lib.ownBlock_neF h.told h.blk (by decide)
theorem bm.ne2 (h:bm w b p v1 n v2 t l):v2.ownBlock≠some b:=Lib.ownBlock_ne h.blanks h.blk (by decide)
theorem bm.lt (h:bm w b p v1 n v2 t l):∀k,dN b v1 v2 k→k<w.heap.size:=by
 rintro k (rfl|hk|hk)
 ·exact h.ltb
 ·exact xH h.told k hk
 ·exact Ck h.blanks k hk
theorem bm.same (h:bm w b p v1 n v2 t l) (hk:∀k,dN b v1 v2 k→w'.heap[k]? =w.heap[k]?):bm w' b p v1 n v2 t l:=
 ⟨(hk b (.inl rfl)).trans h.blk,h.ptr,mA h.told (fun k e=>hk k (.inr (.inl e))),lI h.blanks (fun k e=>hk k (.inr (.inr e))),h.apart,h.bare⟩
theorem bm.cells (h:bm w b p v1 n v2 t l):w.cell? ⟨b,0,none⟩=some p∧w.cell? ⟨b,1,none⟩=some v1∧w.cell? ⟨b,2,none⟩=some (.int .i64 (n:Int))∧w.cell? ⟨b,3,none⟩=some v2:=by
 refine ⟨?_,?_,?_,?_⟩<;>(rw [Lib.cell_of_heap h.blk];rfl)
theorem bm.thawed (h:bm w b p v1 n v2 t l) (i:Nat):w.frozen? ⟨b,i,none⟩=false:=Lib.frozen_of_heap h.blk i
theorem bm.shape (h:bm w b p v1 n v2 t l):w.shape? b=some (142,4):=by simp [World.shape?,h.blk]
theorem bm.form1 (h:bm w b p v1 n v2 t l):∃a cap,v1= .slice a t.length cap:=by
 rcases h.told.2 with ⟨e,e0⟩|⟨g,cap,cur,fz,e,_⟩
 ·exact ⟨none,0,by rw [e,e0]⟩
 ·exact ⟨_,cap,e⟩
theorem bm.form2 (h:bm w b p v1 n v2 t l):(v2= .slice none 0 0∧l.length=0)∨∃g cap,v2= .slice (some ⟨g,0,none⟩) l.length cap∧l.length≤cap∧cap≤maxLen:=by
 rcases h.blanks.2 with ⟨e,e0⟩|⟨g,cap,cur,e,_,_,hc,hm,_⟩
 ·exact .inl ⟨e,e0⟩
 ·exact .inr ⟨g,cap,e,hc,hm⟩
theorem pZ {w w2:World} {b:Nat} {v1 v2 v1' v2':Value} {row:Option Nat} (hg:w.grownBy w2 row) (hrow:∀k,row=some k→dN b v1 v2 k) (hf:∀k,dN b v1' v2' k→dN b v1 v2 k∨w.heap.size≤k) (i:Nat) (u:Value):bv (dN b v1 v2) (dN b v1' v2') w (w2.setCell ⟨b,i,none⟩ u):=by
 refine ⟨hg.os,hg.tape,hg.output,by simpa [World.setCell] using hg.size,fun k hk hF=>?_,hf⟩
 rw [Below.heap_setCell w2 ⟨b,i,none⟩ u k (fun e=>hF (.inl e))]
 exact hg.block k hk (fun e=>hF (hrow k e.symm))
theorem mB {w:World} {b:Nat} {v1 v2:Value} (i:Nat) (u:Value):bv (dN b v1 v2) (dN b v1 v2) w (w.setCell ⟨b,i,none⟩ u):=
 pZ (World.grownBy.refl w none) (fun _ e=>by cases e) (fun _ h=> .inl h) i u
theorem bm.other (h:bm w b p v1 n v2 t l) (i:Nat) (u:Value):(w.setCell ⟨b,i,none⟩ u).ownsRowF 0 5 1 v1 t.length (Lib.byteCells t)∧(w.setCell ⟨b,i,none⟩ u).ownsRow 0 5 1 v2 l.length (Lib.byteCells l):=
 ⟨mA h.told (fun k e=>Below.heap_setCell w ⟨b,i,none⟩ u k (fun e2=>h.ne1 (by rw [e,e2]))),lI h.blanks (fun k e=>Below.heap_setCell w ⟨b,i,none⟩ u k (fun e2=>h.ne2 (by rw [e,e2])))⟩
theorem bm.used (h:bm w b p v1 n v2 t l):bm (w.setCell ⟨b,0,none⟩ (.pointer (some ⟨b,0,none⟩))) b (.pointer (some ⟨b,0,none⟩)) v1 n v2 t l:=
 ⟨Go.heap_setCell_same w b 0 _ _ _ h.blk,.inr rfl,(h.other 0 _).1,(h.other 0 _).2,h.apart,h.bare⟩
theorem bm.waits (h:bm w b p v1 n v2 t l) (m:Nat):bm (w.setCell ⟨b,2,none⟩ (.int .i64 (m:Int))) b p v1 m v2 t l:=
 ⟨Go.heap_setCell_same w b 2 _ _ _ h.blk,h.ptr,(h.other 2 _).1,(h.other 2 _).2,h.apart,h.bare⟩
theorem bm.grow1 {w2:World} {v1':Value} {t':ab} (h:bm w b p v1 n v2 t l) (hg:w.grownBy w2 v1.ownBlock) (ho:w2.ownsRowF 0 5 1 v1' t'.length (Lib.byteCells t')) (hl:∀k,v1'.ownBlock=some k→v1.ownBlock=some k∨w.heap.size≤k) (hb:t'=[]→v1'= .slice none 0 0):bm (w2.setCell ⟨b,1,none⟩ v1') b p v1' n v2 t' l∧bv (dN b v1 v2) (dN b v1' v2) w (w2.setCell ⟨b,1,none⟩ v1'):=by
 have hb2:w2.heap[b]? =some (.cells #[p,v1,.int .i64 (n:Int),v2] 142 (0,0)):=(hg.block b h.ltb (fun e=>h.ne1 e.symm)).trans h.blk
 have hne:∀k,v1'.ownBlock=some k→k≠b:=fun k e e2=>by
  rcases hl k e with h1|h1
  ·exact h.ne1 (by rw [h1,e2])
  ·have:=h.ltb;omega
 refine ⟨⟨Go.heap_setCell_same w2 b 1 _ _ _ hb2,h.ptr,mA ho (fun k e=>Below.heap_setCell w2 ⟨b,1,none⟩ _ k (hne k e)),?_,fun k e=>?_,hb⟩,pZ hg (fun k e=> .inr (.inl e)) ?_ 1 _⟩
 ·refine lI h.blanks (fun k e=>?_)
  rw [Below.heap_setCell w2 ⟨b,1,none⟩ _ k (fun e2=>h.ne2 (by rw [e,e2]))]
  exact hg.block k (Ck h.blanks k e) (fun e2=>h.apart k e2.symm e)
 ·rcases hl k e with h1|h1
  ·exact h.apart k h1
  ·intro e2
   have:=Ck h.blanks k e2
   omega
 ·rintro k (e|e|e)
  ·exact .inl (.inl e)
  ·exact (hl k e).elim (fun x=> .inl (.inr (.inl x))) .inr
  ·exact .inl (.inr (.inr e))
theorem bm.grow2 {w2:World} {v2':Value} {l':ab} (h:bm w b p v1 n v2 t l) (hg:w.grownBy w2 v2.ownBlock) (ho:w2.ownsRow 0 5 1 v2' l'.length (Lib.byteCells l')) (hl:∀k,v2'.ownBlock=some k→v2.ownBlock=some k∨w.heap.size≤k):bm (w2.setCell ⟨b,3,none⟩ v2') b p v1 n v2' t l'∧bv (dN b v1 v2) (dN b v1 v2') w (w2.setCell ⟨b,3,none⟩ v2'):=by
 have hb2:w2.heap[b]? =some (.cells #[p,v1,.int .i64 (n:Int),v2] 142 (0,0)):=(hg.block b h.ltb (fun e=>h.ne2 e.symm)).trans h.blk
 have hne:∀k,v2'.ownBlock=some k→k≠b:=fun k e e2=>by
  rcases hl k e with h1|h1
  ·exact h.ne2 (by rw [h1,e2])
  ·have:=h.ltb;omega
 refine ⟨⟨Go.heap_setCell_same w2 b 3 _ _ _ hb2,h.ptr,?_,lI ho (fun k e=>Below.heap_setCell w2 ⟨b,3,none⟩ _ k (hne k e)),fun k e=>?_,h.bare⟩,pZ hg (fun k e=> .inr (.inr e)) ?_ 3 _⟩
 ·refine mA h.told (fun k e=>?_)
  rw [Below.heap_setCell w2 ⟨b,3,none⟩ _ k (fun e2=>h.ne1 (by rw [e,e2]))]
  exact hg.block k (xH h.told k e) (fun e2=>h.apart k e e2.symm)
 ·intro e2
  rcases hl k e2 with h1|h1
  ·exact h.apart k e h1
  ·have:=xH h.told k e
   omega
 ·rintro k (e|e|e)
  ·exact .inl (.inl e)
  ·exact .inl (.inr (.inl e))
  ·exact (hl k e).elim (fun x=> .inl (.inr (.inr x))) .inr
end
theorem cQ (g:Addr) (f:aC):bC (lJ g f):=by
 refine ⟨?_,?_⟩
 ·rintro w F ⟨b,p,v1,v2,rfl,h,hF⟩ k hk
  exact h.lt k ((hF k).1 hk)
 ·rintro w w' F ⟨b,p,v1,v2,rfl,h,hF⟩ hk
  exact ⟨b,p,v1,v2,rfl,h.same (fun k e=>hk k ((hF k).2 e)),hF⟩
theorem rE {g:Addr} {f:aC} {w:World} {F:eH} (h:lJ g f w F):∃b p v1 v2,g=⟨b,0,none⟩∧bm w b p v1 f.ends v2 f.told f.blanks∧F=dN b v1 v2:=by
 obtain ⟨b,p,v1,v2,e,h1,hF⟩:=h
 exact ⟨b,p,v1,v2,e,h1,funext fun k=>propext (hF k)⟩
theorem Jo (b:Nat) (w:World) (h0:w.cell? ⟨b,0,none⟩=some (.pointer (some ⟨b,0,none⟩))):Calls Tryz.prog 68 #[.pointer (some ⟨b,0,none⟩)] w fun e w'=>e= .returned (.tuple #[])∧w=w':=by
 obtain ⟨j,hj,_⟩:=Option.map_eq_some_iff.1 oV
 go_enter Tryz.func68,Tryz.ntmps68
 go_wp2
 rw [Lib.run_neq_ptr_same w _ Tryz.underlying52 hj]
 go_wp2
 go_end0
 exact ⟨rfl,rfl⟩
theorem FH (b:Nat) (w:World) (h0:w.cell? ⟨b,0,none⟩=some (.pointer none)) (hsh:w.shape? b=some (142,4)) (hfz:w.frozen? ⟨b,0,none⟩=false):Calls Tryz.prog 68 #[.pointer (some ⟨b,0,none⟩)] w fun e w'=>e= .returned (.tuple #[])∧w'=w.setCell ⟨b,0,none⟩ (.pointer (some ⟨b,0,none⟩)):=by
 obtain ⟨j,hj,hjs⟩:=Option.map_eq_some_iff.1 oV
 go_enter Tryz.func68,Tryz.ntmps68
 go_wp2
 rw [Lib.run_to_unsafe w ⟨b,0,none⟩ Tryz.underlying52 Tryz.underlying133 hj (by rw [hjs];decide) hsh (Nat.zero_lt_succ 3)]
 simp only [Result.andThen]
 rw [Oper.upon_value]
 go_wp2
 rw [run_callFunc_extern Tryz.func116 (by kernel_rfl) (by kernel_rfl) (by kernel_rfl) (e:=Extern.AbiNoEscape.same) (by kernel_rfl)]
 rw [Lib.run_noEscape]
 simp only [Result.andThen]
 rw [Oper.upon_value]
 go_wp2
 rw [Lib.run_from_unsafe w ⟨b,0,none⟩ Tryz.underlying133 Tryz.underlying52 hj hsh xG]
 simp only [Result.andThen]
 rw [Oper.upon_value]
 go_wp2
 go_end0
 exact ⟨rfl,rfl⟩
theorem PP {w:World} {b:Nat} {p v1:Value} {n:Nat} {v2:Value} {t l:ab} (h:bm w b p v1 n v2 t l):Calls Tryz.prog 68 #[.pointer (some ⟨b,0,none⟩)] w fun e w'=>e= .returned (.tuple #[])∧bm w' b (.pointer (some ⟨b,0,none⟩)) v1 n v2 t l∧bv (dN b v1 v2) (dN b v1 v2) w w':=by
 rcases h.ptr with e|e
 ·refine (FH b w (by rw [h.cells.1,e]) h.shape (h.thawed 0)).mono ?_
  rintro x w' ⟨rfl,rfl⟩
  exact ⟨rfl,h.used,mB 0 _⟩
 ·refine (Jo b w (by rw [h.cells.1,e])).mono ?_
  rintro x w' ⟨rfl,rfl⟩
  exact ⟨rfl,by rw [←e];exact h,bv.refl _ _⟩
theorem vN (c:UInt8) (q:Int) (hq:(c.toNat:Int)=q):Lib.byteCells [c]=[Value.int .u8 q]:=by rw [←hq];rfl
theorem Me {w:World} {tx:TypeId} (ht:Tryz.prog.underlying tx=some (.slice 5)) (a:Addr) (q:Int) (h:w.cell? a=some (.int .u8 q)):Src Tryz.prog 1 tx (.slice (some a) 1 1) 1 [.int .u8 q] w:=by
 refine Src.ofSlice w ht a 1 1 _ rfl (fun j u hj=>?_) (fun u hu=>?_)
 ·match j,hj with
  |0,hj=>simp at hj;subst hj;simpa [Addr.add] using h
 ·simp at hu;subst hu;rfl
theorem td {w:World} {b:Nat} {p v1:Value} {n:Nat} {v2:Value} {t l:ab} (h:bm w b p v1 n v2 t l) (c:UInt8) (q:Int) (hq:(c.toNat:Int)=q) (ht:t.length≤2147483648):Calls Tryz.prog 89 #[.pointer (some ⟨b,0,none⟩),.int .u8 q] w fun e w'=>e= .returned .nilIface∧∃p' v1',bm w' b p' v1' n v2 (t++[c]) l∧bv (dN b v1 v2) (dN b v1' v2) w w':=by
 obtain ⟨i0,hi,hz0,hz1,hz2⟩:=info_parts mz
 have HQ:=Lib.hid (vN c q hq)
 have CC:=Lib.hid (PP h)
 clear h hq
 go_enter Tryz.func89,Tryz.ntmps89
 go_wp2_with (go_at_call 68;refine CC.out.mono ?_)
 rintro e w1 ⟨rfl,h1,m1⟩
 have H1:=Lib.hid h1
 have M1:=Lib.hid m1
 obtain ⟨c0,c1,c2,c3⟩:=h1.cells
 have s1:=Me (w:=w1.alloc (.cells #[.int .u8 q] 5)) (tx:=22) Tryz.underlying22 ⟨w1.heap.size,0,none⟩ q (by rw [Lib.cell_of_heap (heap_alloc_new w1 _)];rfl)
 have S1:=Lib.hid s1
 clear h1 m1 c0 c2 c3 s1
 go_wp2_with (at_builtin;refine kS _ rfl _ _ 22 22 rfl 5 i0 (.int .u8 0) Tryz.underlying22 hi hz0 hz1 hz2 rfl _ _ _ rfl (World.ownsRowF.alloc H1.out.told _) _ _ _ rfl S1.out (by omega) ?_)
 intro v' w2 hown hgrow hloc
 have hG:w1.grownBy w2 v1.ownBlock:=(World.grownBy_alloc w1 _ _).trans hgrow
 have hL:∀k,v'.ownBlock=some k→v1.ownBlock=some k∨w1.heap.size≤k:=fun k e=>by
  rcases hloc with x|x
  ·exact .inl (by rw [←x,e])
  ·rw [e] at x;injection x with x;exact .inr (by rw [x];simp)
 have hO:w2.ownsRowF 0 5 1 v' (t++[c]).length (Lib.byteCells (t++[c])):=by
  rw [List.length_append,Lib.byteCells_append,HQ.out];exact hown
 obtain ⟨x1,x2⟩:=H1.out.grow1 (t':=t++[c]) hG hO hL (fun e=>by simp at e)
 have X1:=Lib.hid x1
 have X2:=Lib.hid (M1.out.trans x2)
 have hb2:w2.heap[b]? =w1.heap[b]? :=hG.block b H1.out.ltb (fun e=>H1.out.ne1 e.symm)
 have d1:w2.cell? ⟨b,1,none⟩=some v1:=by rw [Lib.cell_of_heap (hb2.trans H1.out.blk)];rfl
 have f1:w2.frozen? ⟨b,1,none⟩=false:=Lib.frozen_of_heap (hb2.trans H1.out.blk) 1
 clear hown hgrow hloc hG hL hO x1 x2 hb2
 obtain ⟨a,m,cap,e⟩:∃a m cap,v'= .slice a m cap:=by
  obtain ⟨a,cap,e⟩:=X1.out.form1
  exact ⟨a,_,cap,e⟩
 subst e
 go_wp2
 go_ret
 exact ⟨rfl,_,_,X1.out,X2.out⟩
theorem Cl {w:World} {b:Nat} {p v1:Value} {n:Nat} {v2:Value} {t l:ab} (h:bm w b p v1 n v2 t l):Src Tryz.prog 1 22 v2 l.length (Lib.byteCells l) w:=by
 rcases h.blanks.2 with ⟨rfl,e0⟩|⟨g,cap,cur,rfl,_,_⟩
 ·have:l=[]:=List.eq_nil_of_length_eq_zero e0
  subst this
  exact Src.ofNil w Tryz.underlying22 0
 ·refine Src.ofSlice w Tryz.underlying22 ⟨g,0,none⟩ l.length cap _ (by simp [Lib.byteCells]) (h.blanks.cells (g:=g) rfl) (fun u hu=>?_)
  obtain ⟨c,_,rfl⟩:=List.mem_map.1 hu
  rfl
theorem Ou {w:World} {b:Nat} {p v1:Value} {n:Nat} {v2:Value} {t l:ab} (h:bm w b p v1 n v2 t l) (hne:t≠[]) (ht:t.length+l.length≤2147483648):Calls Tryz.prog 230 #[.pointer (some ⟨b,0,none⟩),v2] w fun e w'=>e= .returned (.tuple #[.int .i64 (l.length:Int),.nilIface])∧∃p' v1',bm w' b p' v1' n v2 (t++l) l∧bv (dN b v1 v2) (dN b v1' v2) w w':=by
 obtain ⟨i0,hi,hz0,hz1,hz2⟩:=info_parts mz
 have HN:=Lib.hid hne
 have CC:=Lib.hid (PP h)
 obtain ⟨a2,cap2,e2⟩:∃a cap,v2= .slice a l.length cap:=by
  rcases h.form2 with ⟨e,e0⟩|⟨g,cap,e,_⟩
  ·exact ⟨none,0,by rw [e,e0]⟩
  ·exact ⟨_,cap,e⟩
 subst e2
 clear h hne
 go_enter Tryz.func230,Tryz.ntmps230
 go_wp2_with (go_at_call 68;refine CC.out.mono ?_)
 rintro e w1 ⟨rfl,h1,m1⟩
 have H1:=Lib.hid h1
 have M1:=Lib.hid m1
 obtain ⟨c0,c1,c2,c3⟩:=h1.cells
 have S1:=Lib.hid (Cl h1)
 clear h1 m1 c0 c2 c3
 go_wp2_with (at_builtin;refine kS _ rfl _ _ 22 22 rfl 5 i0 (.int .u8 0) Tryz.underlying22 hi hz0 hz1 hz2 rfl _ _ _ rfl H1.out.told _ _ _ rfl S1.out (by omega) ?_)
 intro v' w2 hown hG hloc
 have hL:∀k,v'.ownBlock=some k→v1.ownBlock=some k∨w1.heap.size≤k:=fun k e=>by
  rcases hloc with x|x
  ·exact .inl (by rw [←x,e])
  ·rw [e] at x;injection x with x;exact .inr (by rw [x];exact Nat.le_refl _)
 have hO:w2.ownsRowF 0 5 1 v' (t++l).length (Lib.byteCells (t++l)):=by
  rw [List.length_append,Lib.byteCells_append];exact hown
 obtain ⟨x1,x2⟩:=H1.out.grow1 (t':=t++l) hG hO hL (fun e=>absurd (List.append_eq_nil_iff.1 e).1 HN.out)
 have X1:=Lib.hid x1
 have X2:=Lib.hid (M1.out.trans x2)
 have hb2:w2.heap[b]? =w1.heap[b]? :=hG.block b H1.out.ltb (fun e=>H1.out.ne1 e.symm)
 have d1:w2.cell? ⟨b,1,none⟩=some v1:=by rw [Lib.cell_of_heap (hb2.trans H1.out.blk)];rfl
 have f1:w2.frozen? ⟨b,1,none⟩=false:=Lib.frozen_of_heap (hb2.trans H1.out.blk) 1
 clear hown hloc hG hL hO x1 x2 hb2
 obtain ⟨a,m,cap,e⟩:∃a m cap,v'= .slice a m cap:=by
  obtain ⟨a,cap,e⟩:=X1.out.form1
  exact ⟨a,_,cap,e⟩
 subst e
 go_wp2
 go_ret2
 exact ⟨rfl,_,_,X1.out,X2.out⟩
theorem PG {w:World} {b:Nat} {p v1:Value} {n:Nat} {v2:Value} {t l:ab} (h:bm w b p v1 n v2 t l):Calls Tryz.prog 229 #[.pointer (some ⟨b,0,none⟩)] w fun e w'=>e= .returned (.int .i64 (t.length:Int))∧w'=w:=by
 obtain ⟨a,cap,e⟩:=h.form1
 subst e
 obtain ⟨c0,c1,c2,c3⟩:=h.cells
 clear h
 go_enter Tryz.func229,Tryz.ntmps229
 go_wp2
 go_ret
 exact ⟨rfl,rfl⟩
theorem bm.froze {w:World} {b:Nat} {p:Value} {n:Nat} {v2:Value} {t l:ab} {g cap:Nat} (h:bm w b p (.slice (some ⟨g,0,none⟩) t.length cap) n v2 t l):bm (w.freeze ⟨g,0,none⟩ t.length) b p (.slice (some ⟨g,0,none⟩) t.length cap) n v2 t l∧bv (dN b (.slice (some ⟨g,0,none⟩) t.length cap) v2) (dN b (.slice (some ⟨g,0,none⟩) t.length cap) v2) w (w.freeze ⟨g,0,none⟩ t.length):=by
 have hgb:g≠b:=fun e=>h.ne1 (by simp [Value.ownBlock,e])
 have hoth:∀k,k≠g→(w.freeze ⟨g,0,none⟩ t.length).heap[k]? =w.heap[k]? :=fun k hk=>by
  unfold World.freeze
  split
  ·rfl
  ·simp only [Array.getElem?_modify]
   rw [if_neg (fun e=>hk e.symm)]
 refine ⟨⟨(hoth b (fun e=>hgb e.symm)).trans h.blk,h.ptr,?_,lI h.blanks (fun k e=>hoth k (fun e2=>h.apart g rfl (by rw [e,e2]))),h.apart,h.bare⟩,?_⟩
 ·refine ⟨h.told.1,?_⟩
  rcases h.told.2 with ⟨hv,_⟩|⟨g',cap',cur,fz,hv,hbg,hg,hfz,rest⟩
  ·cases hv
  ·injection hv with ha _ hcap
   injection ha with ha
   injection ha with hgg _ _
   subst hgg
   subst hcap
   unfold World.freeze
   split
   ·exact .inr ⟨g,_,cur,fz,rfl,hbg,hg,hfz,rest⟩
   ·obtain ⟨lo,hi⟩:=fz
    refine .inr ⟨g,_,cur,(if lo==hi then (0,0+t.length) else (min lo 0,max hi (0+t.length))),rfl,hbg,?_,?_,rest⟩
    ·simp [Array.getElem?_modify,hg]
    ·simp only at hfz
     split<;>simp<;>omega
 ·refine ⟨?_,?_,?_,?_,fun k hk hF=>hoth k (fun e=>hF (.inr (.inl (by rw [e];rfl)))),fun _ h=> .inl h⟩
  all_goals (unfold World.freeze;split<;>simp)
theorem bm.drew {w:World} {b:Nat} {p v1:Value} {n:Nat} {v2:Value} {t l:ab} (h:bm w b p v1 n v2 t l):bm w.drew b p v1 n v2 t l:=h.same (fun _ _=>rfl)
theorem nH (F:eH) (w:World):bv F F w w.drew:=bv.of_below F (Below.refl _ w).drew
theorem Mf {w:World} {b:Nat} {p v1:Value} {n:Nat} {v2:Value} {t l:ab} (h:bm w b p v1 n v2 t l):Calls Tryz.prog 35 #[.pointer (some ⟨b,0,none⟩)] w fun e w'=>e= .returned (.string ⟨t.toArray⟩)∧bm w' b p v1 n v2 t l∧bv (dN b v1 v2) (dN b v1 v2) w w':=by
 by_cases h0:t=[]
 ·have e:=h.bare h0
  subst e;subst h0
  have hUS:∀(W:World),(Builtin.unsafeString_ #[88,3] 9 #[.pointer none,.int .i64 0]).run Tryz.prog W= .ok (.string .empty) W:=fun W=>Lib.run_unsafeString_none W _ _ _ none
  have hSD:(Builtin.unsafeSliceData_ #[22] 88 #[.slice none 0 0]).run Tryz.prog w.drew= .ok (.pointer none) w.drew:=rfl
  have H:=Lib.hid h
  obtain ⟨c0,c1,c2,c3⟩:=h.drew.cells
  clear h c0 c2 c3
  go_enter Tryz.func35,Tryz.ntmps35
  go_wp2
  go_region
  all_goals (go_wp2;go_ret;exact ⟨rfl,H.out.drew,nH _ _⟩)
 ·obtain ⟨g,cap,e,hc⟩:∃g cap,v1= .slice (some ⟨g,0,none⟩) t.length cap∧t.length≤cap:=by
   rcases h.told.2 with ⟨_,e⟩|⟨g,cap,cur,fz,e,_,_,_,hc,_⟩
   ·exact absurd (List.eq_nil_of_length_eq_zero e) h0
   ·exact ⟨g,cap,e,hc⟩
  subst e
  have hl0:t.length≠0:=fun e=>h0 (List.eq_nil_of_length_eq_zero e)
  have hSD:(Builtin.unsafeSliceData_ #[22] 88 #[.slice (some ⟨g,0,none⟩) t.length cap]).run Tryz.prog w.drew= .ok (.pointer (some ⟨g,0,none⟩)) w.drew:=
   Lib.run_unsafeSliceData_row _ _ _ _ _ _ (by omega)
  have hUS:(Builtin.unsafeString_ #[88,3] 9 #[.pointer (some ⟨g,0,none⟩),.int .i64 t.length]).run Tryz.prog w.drew= .ok (.string ⟨t.toArray⟩) (w.drew.freeze ⟨g,0,none⟩ t.length):=by
   rcases h.told.2 with ⟨hv,_⟩|⟨g',cap',cur,fz,hv,hbg,hg,hfz,hnc,hcm,hcs,_⟩
   ·cases hv
   ·injection hv with ha _ hcap
    injection ha with ha
    injection ha with hgg _ _
    subst hgg
    refine Lib.run_unsafeString_row w.drew 88 3 9 5 Tryz.underlying88 Cj g cur.size (by have hg':w.drew.heap[g]? =some (.cells cur 5 fz):=hg;simp [World.shape?,hg']) t h0 (by omega) (by unfold maxLen at hcm;omega) ?_
    intro j x hx
    exact h.drew.told.cells (g:=g) rfl j (.int .u8 x.toNat) (by simp [Lib.byteCells,hx])
  obtain ⟨x1,x2⟩:=h.drew.froze
  have X1:=Lib.hid x1
  have X2:=Lib.hid ((nH _ _).trans x2)
  obtain ⟨c0,c1,c2,c3⟩:=h.drew.cells
  clear h c0 c2 c3 x1 x2 h0
  go_enter Tryz.func35,Tryz.ntmps35
  go_wp2
  go_region
  all_goals (go_wp2;go_ret;exact ⟨rfl,X1.out,X2.out⟩)
theorem Jp {w:World} {b:Nat} {p v1:Value} {n:Nat} {v2:Value} {t l:ab} (h:bm w b p v1 n v2 t l):Calls Tryz.prog 201 #[.pointer (some ⟨b,0,none⟩)] w fun e w'=>e= .returned (.tuple #[])∧∃v2',bm w' b p v1 n v2' t []∧bv (dN b v1 v2) (dN b v1 v2') w w':=by
 obtain ⟨c0,c1,c2,c3⟩:=h.cells
 have f3:=h.thawed 3
 rcases h.blanks.2 with ⟨rfl,e0⟩|⟨g,cap,cur,rfl,hb,hg,hn,hm,hs,ht⟩
 ·obtain ⟨x1,x2⟩:=h.grow2 (v2':= .slice none 0 0) (l':=[]) (World.grownBy.refl w _) (World.ownsRow_nil w 0 _ 1) (fun k e=> .inl e)
  have X1:=Lib.hid x1
  have X2:=Lib.hid x2
  clear h c0 c1 c2 x1 x2
  go_enter Tryz.func201,Tryz.ntmps201
  go_wp2
  refine bodyPost_end (results_none rfl _ _ _) rfl ?_
  exact ⟨rfl,_,X1.out,X2.out⟩
 ·obtain ⟨x1,x2⟩:=h.grow2 (v2':= .slice (some ⟨g,0,none⟩) 0 cap) (l':=[]) (World.grownBy.refl w _) ⟨rfl,.inr ⟨g,cap,cur,rfl,hb,hg,Nat.zero_le _,hm,hs,by simp [Lib.byteCells]⟩⟩ (fun k e=> .inl e)
  have X1:=Lib.hid x1
  have X2:=Lib.hid x2
  have hm2:(cap:Int)≤9223372036854775807:=by unfold maxLen at hm;omega
  have hn2:(0:Int)≤(cap:Int):=by omega
  clear h c0 c1 c2 x1 x2 hb hg hm hs ht hn
  go_enter Tryz.func201,Tryz.ntmps201
  go_wp2
  refine bodyPost_end (results_none rfl _ _ _) rfl ?_
  exact ⟨rfl,_,X1.out,X2.out⟩
theorem vO {w:World} {b:Nat} {p v1:Value} {n:Nat} {v2:Value} {t l:ab} (h:bm w b p v1 n v2 t l) (hn:n≤2147483648):Calls Tryz.prog 176 #[.pointer (some ⟨b,0,none⟩)] w fun e w'=>e= .returned (.tuple #[])∧∃v2',bm w' b p v1 (n+1) v2' t []∧bv (dN b v1 v2) (dN b v1 v2') w w':=by
 obtain ⟨c0,c1,c2,c3⟩:=h.cells
 have f2:=h.thawed 2
 have C:=Lib.hid (Jp (h.waits (n+1)))
 have M:=Lib.hid (mB (w:=w) (b:=b) (v1:=v1) (v2:=v2) 2 (.int .i64 ((n+1:Nat):Int)))
 clear h c0 c1 c3
 go_enter Tryz.func176,Tryz.ntmps176
 go_wp2_with (go_at_call 201;refine C.out.mono ?_;rintro e w' ⟨rfl,v2',x1,x2⟩;have X1:=Lib.hid x1;have X2:=Lib.hid (M.out.trans x2);clear x1 x2)
 refine bodyPost_end (results_none rfl _ _ _) rfl ?_
 exact ⟨rfl,v2',X1.out,X2.out⟩
theorem Cm {w:World} {b:Nat} {p v1:Value} {n:Nat} {v2:Value} {t l:ab} (h:bm w b p v1 n v2 t l) (m:Int) (hn:n≤2147483648) (hm: -9223372036854775808≤m∧m≤9223372036854775807):Calls Tryz.prog 178 #[.pointer (some ⟨b,0,none⟩),.int .i64 m] w fun e w'=>e= .returned (.tuple #[])∧∃v2',bm w' b p v1 (max n (min m 100).toNat) v2' t []∧bv (dN b v1 v2) (dN b v1 v2') w w':=by
 obtain ⟨c0,c1,c2,c3⟩:=h.cells
 have f2:=h.thawed 2
 obtain ⟨r,hr⟩:∃r:Nat,max n (min m 100).toNat=r:=⟨_,rfl⟩
 rw [hr]
 have C:=Lib.hid (Jp (h.waits r))
 have M:=Lib.hid (mB (w:=w) (b:=b) (v1:=v1) (v2:=v2) 2 (.int .i64 (r:Int)))
 clear h c0 c1 c3
 by_cases h1:m≤100<;>by_cases h2:(n:Int)<min m 100
 focus
  obtain rfl:m=(r:Int):=by omega
  have h2:(n:Int)<(r:Int):=by omega
  have e1:min (r:Int) 100=(r:Int):=by omega
  have e2:max (n:Int) (r:Int)=(r:Int):=by omega
 rotate_left
 focus
  obtain rfl:r=n:=by omega
  have h2:m≤(r:Int):=by omega
  have e1:min m 100=m:=by omega
  have e2:max (r:Int) m=(r:Int):=by omega
 rotate_left
 focus
  obtain rfl:r=100:=by omega
  have h2:(n:Int)<100:=by omega
  have h1:100<m:=by omega
  have e1:min m 100=100:=by omega
  have e2:max (n:Int) 100=100:=by omega
 rotate_left
 focus
  obtain rfl:r=n:=by omega
  have h2:(100:Int)≤(r:Int):=by omega
  have h1:100<m:=by omega
  have e1:min m 100=100:=by omega
  have e2:max (r:Int) 100=(r:Int):=by omega
 rotate_left
 all_goals
  clear hr
  go_enter Tryz.func178,Tryz.ntmps178
  go_wp2_with (go_at_call 201;refine C.out.mono ?_;rintro e w' ⟨rfl,v2',x1,x2⟩;have X1:=Lib.hid x1;have X2:=Lib.hid (M.out.trans x2);clear x1 x2)
  refine bodyPost_end (results_none rfl _ _ _) rfl ?_
  exact ⟨rfl,v2',X1.out,X2.out⟩
end Go.Proofs.YtajpoodpbbbkfaaGreatDoor
namespace Go.Proofs.YtajpoodpbbbkfaaGreatDoor
open Go.RowKit Go.Lib
def dY (keep:Bool) (c:UInt8):Nat:=
 if c=0 then 204
 else if c=10∨c=13 then (if keep=true then 205 else 206)
 else if c=9∨c=12∨c=32 then (if keep=true then 207 else 206)
 else 208
theorem p6 (c:UInt8) (q:Int) (hq:(c.toNat:Int)=q) (k:Nat) (hk:k<256) (h:c≠UInt8.ofNat k):(q==(k:Int))=false:=by
 rw [beq_eq_false_iff_ne]
 intro e
 exact h (aT c k hk (by omega))
theorem Jq (keep:Bool) (c:UInt8) (q:Int) (w:World) (hq:(c.toNat:Int)=q):Calls Tryz.prog 180 #[.int .u8 q,.bool keep] w fun e w'=>e= .returned (.func (.func (dY keep c)) #[] #[])∧w'=w:=by
 by_cases h0:c=0
 ·subst h0
  obtain rfl:q=0:=by rw [←hq];rfl
  have e:dY keep 0=204:=rfl
  rw [e]
  clear hq e
  go_enter Tryz.func180,Tryz.ntmps180
  go_wp2
  go_ret
  exact ⟨rfl,rfl⟩
 by_cases h1:c=10∨c=13
 ·rcases h1 with rfl|rfl
  all_goals
   subst hq
   simp only [show (((10:UInt8).toNat:Nat):Int)=10 from rfl,show (((13:UInt8).toNat:Nat):Int)=13 from rfl]
   cases keep
   all_goals
    simp only [show dY false 10=206 from rfl,show dY false 13=206 from rfl,show dY true 10=205 from rfl,show dY true 13=205 from rfl]
    clear h0
    go_enter Tryz.func180,Tryz.ntmps180
    go_wp2
    go_ret
    exact ⟨rfl,rfl⟩
 by_cases h2:c=9∨c=12∨c=32
 ·rcases h2 with rfl|rfl|rfl
  all_goals
   subst hq
   simp only [show (((9:UInt8).toNat:Nat):Int)=9 from rfl,show (((12:UInt8).toNat:Nat):Int)=12 from rfl,show (((32:UInt8).toNat:Nat):Int)=32 from rfl]
   cases keep
   all_goals
    simp only [show dY false 9=206 from rfl,show dY false 12=206 from rfl,show dY false 32=206 from rfl,show dY true 9=207 from rfl,show dY true 12=207 from rfl,show dY true 32=207 from rfl]
    clear h0 h1
    go_enter Tryz.func180,Tryz.ntmps180
    go_wp2
    go_ret
    exact ⟨rfl,rfl⟩
 have e:dY keep c=208:=by unfold dY;rw [if_neg h0,if_neg h1,if_neg h2]
 rw [e]
 have b0:=p6 c q hq 0 (by decide) h0
 have b9:=p6 c q hq 9 (by decide) (fun x=>h2 (.inl x))
 have b10:=p6 c q hq 10 (by decide) (fun x=>h1 (.inl x))
 have b12:=p6 c q hq 12 (by decide) (fun x=>h2 (.inr (.inl x)))
 have b13:=p6 c q hq 13 (by decide) (fun x=>h1 (.inr x))
 have b32:=p6 c q hq 32 (by decide) (fun x=>h2 (.inr (.inr x)))
 clear hq e h0 h1 h2
 go_enter Tryz.func180,Tryz.ntmps180
 go_wp2
 go_ret
 exact ⟨rfl,rfl⟩
def Ov (w:World) (b:Nat) (v1 v2:Value) (f:aC) (e:Ending) (w':World):Prop:=
 e= .returned (.tuple #[])∧∃p' v1' v2',bm w' b p' v1' f.ends v2' f.told f.blanks∧bv (dN b v1 v2) (dN b v1' v2') w w'
theorem Pf {w:World} {b:Nat} {p v1:Value} {n:Nat} {v2:Value} {t l:ab} (h:bm w b p v1 n v2 t l) (q:Int):Calls Tryz.prog 204 #[.pointer (some ⟨b,0,none⟩),.int .u8 q] w (Ov w b v1 v2 ⟨t,n,l⟩):=by
 have H:=Lib.hid h
 clear h
 go_enter Tryz.func204,Tryz.ntmps204
 go_wp2
 refine bodyPost_end (results_none rfl _ _ _) rfl ?_
 exact ⟨rfl,_,_,_,H.out,bv.refl _ _⟩
theorem PH {w:World} {b:Nat} {p v1:Value} {n:Nat} {v2:Value} {t l:ab} (h:bm w b p v1 n v2 t l) (hn:n≤2147483648) (q:Int):Calls Tryz.prog 205 #[.pointer (some ⟨b,0,none⟩),.int .u8 q] w (Ov w b v1 v2 ⟨t,n+1,[]⟩):=by
 have C:=Lib.hid (vO h hn)
 clear h
 go_enter Tryz.func205,Tryz.ntmps205
 go_wp2_with (go_at_call 176;refine C.out.mono ?_;rintro e w' ⟨rfl,v2',x1,x2⟩;have X1:=Lib.hid x1;have X2:=Lib.hid x2;clear x1 x2)
 refine bodyPost_end (results_none rfl _ _ _) rfl ?_
 exact ⟨rfl,_,_,_,X1.out,X2.out⟩
theorem Ph {w:World} {b:Nat} {p v1:Value} {n:Nat} {v2:Value} {t l:ab} (h:bm w b p v1 n v2 t l) (hl:l.length≤2147483648) (c:UInt8) (q:Int) (hq:(c.toNat:Int)=q):Calls Tryz.prog 207 #[.pointer (some ⟨b,0,none⟩),.int .u8 q] w (Ov w b v1 v2 ⟨t,n,l++[c]⟩):=by
 obtain ⟨i0,hi,hz0,hz1,hz2⟩:=info_parts mz
 have HQ:=Lib.hid (vN c q hq)
 have H:=Lib.hid h
 obtain ⟨c0,c1,c2,c3⟩:=h.cells
 clear h hq c0 c1 c2
 go_enter Tryz.func207,Tryz.ntmps207
 go_wp2_with (at_builtin;refine wpList_append_own_at _ rfl _ _ 22 rfl 0 5 i0 (.int .u8 0) 1 1 Tryz.underlying22 hi hz0 hz1 hz2 rfl (by decide) _ _ _ rfl (H.out.blanks.alloc _) ⟨w.heap.size,0,none⟩ 1 1 [.int .u8 q] rfl rfl (cell_one_new _ _ _) ?c2 ?c3 ?c4 (Nat.zero_le _) ?_)
 case c2=>intro u hu;simp at hu;subst hu;rfl
 case c3=>unfold maxLen;omega
 case c4=>omega
 intro v' w2 hown hgrow _ hloc
 have hG:w.grownBy w2 v2.ownBlock:=(World.grownBy_alloc w _ _).trans hgrow
 have hL:∀k,v'.ownBlock=some k→v2.ownBlock=some k∨w.heap.size≤k:=fun k e=>by
  rcases hloc with x|x
  ·exact .inl (by rw [←x,e])
  ·rw [e] at x;injection x with x;exact .inr (by rw [x];simp)
 have hO:w2.ownsRow 0 5 1 v' (l++[c]).length (Lib.byteCells (l++[c])):=by
  rw [List.length_append,Lib.byteCells_append,HQ.out];exact hown
 obtain ⟨x1,x2⟩:=H.out.grow2 (l':=l++[c]) hG hO hL
 have X1:=Lib.hid x1
 have X2:=Lib.hid x2
 have hb2:w2.heap[b]? =w.heap[b]? :=hG.block b H.out.ltb (fun e=>H.out.ne2 e.symm)
 have d1:w2.cell? ⟨b,3,none⟩=some v2:=by rw [Lib.cell_of_heap (hb2.trans H.out.blk)];rfl
 have f1:w2.frozen? ⟨b,3,none⟩=false:=Lib.frozen_of_heap (hb2.trans H.out.blk) 3
 clear hown hgrow hloc hG hL hO x1 x2 hb2
 obtain ⟨a,m,cap,e⟩:∃a m cap,v'= .slice a m cap:=by
  rcases X1.out.form2 with ⟨e,_⟩|⟨g,cap,e,_⟩<;>exact ⟨_,_,_,e⟩
 subst e
 go_wp2
 refine bodyPost_end (results_none rfl _ _ _) rfl ?_
 exact ⟨rfl,_,_,_,X1.out,X2.out⟩
theorem Pi {w:World} {b:Nat} {p v1:Value} {n:Nat} {v2:Value} {t l:ab} (h:bm w b p v1 n v2 t l) (q:Int):Calls Tryz.prog 206 #[.pointer (some ⟨b,0,none⟩),.int .u8 q] w (Ov w b v1 v2 (if n=0∧l=[] then ⟨t,0,[32]⟩ else ⟨t,n,l⟩)):=by
 obtain ⟨i0,hi,hz0,hz1,hz2⟩:=info_parts mz
 obtain ⟨c0,c1,c2,c3⟩:=h.cells
 obtain ⟨a2,cap2,e2⟩:∃a cap,v2= .slice a l.length cap:=by
  rcases h.form2 with ⟨e,e0⟩|⟨g,cap,e,_⟩
  ·exact ⟨none,0,by rw [e,e0]⟩
  ·exact ⟨_,cap,e⟩
 subst e2
 by_cases hn:n=0
 ·subst hn
  cases l with
  |nil=>
   rw [if_pos ⟨rfl,rfl⟩]
   have H:=Lib.hid h
   clear h c0 c1
   simp only [List.length_nil] at c3 H⊢
   go_enter Tryz.func206,Tryz.ntmps206
   go_wp2_with (at_builtin;refine wpList_append_own_at _ rfl _ _ 22 rfl 0 5 i0 (.int .u8 0) 1 1 Tryz.underlying22 hi hz0 hz1 hz2 rfl (by decide) _ _ _ rfl (H.out.blanks.alloc _) ⟨w.heap.size,0,none⟩ 1 1 [.int .u8 32] rfl rfl (cell_one_new _ _ _) ?c2 ?c3 ?c4 (Nat.zero_le _) ?_)
   case c2=>intro u hu;simp at hu;subst hu;rfl
   case c3=>unfold maxLen;simp
   case c4=>simp
   intro v' w2 hown hgrow _ hloc
   have hG:w.grownBy w2 (Value.slice a2 0 cap2).ownBlock:=(World.grownBy_alloc w _ _).trans hgrow
   have hL:∀k,v'.ownBlock=some k→(Value.slice a2 0 cap2).ownBlock=some k∨w.heap.size≤k:=fun k e=>by
    rcases hloc with x|x
    ·exact .inl (by rw [←x,e])
    ·rw [e] at x;injection x with x;exact .inr (by rw [x];simp)
   have hO:w2.ownsRow 0 5 1 v' ([32]:ab).length (Lib.byteCells [32]):=hown
   obtain ⟨x1,x2⟩:=H.out.grow2 (l':=[32]) hG hO hL
   have X1:=Lib.hid x1
   have X2:=Lib.hid x2
   have hb2:w2.heap[b]? =w.heap[b]? :=hG.block b H.out.ltb (fun e=>H.out.ne2 e.symm)
   have d1:w2.cell? ⟨b,3,none⟩=some (.slice a2 0 cap2):=by rw [Lib.cell_of_heap (hb2.trans H.out.blk)];rfl
   have f1:w2.frozen? ⟨b,3,none⟩=false:=Lib.frozen_of_heap (hb2.trans H.out.blk) 3
   clear hown hgrow hloc hG hL hO x1 x2 hb2
   obtain ⟨a,m,cap,e⟩:∃a m cap,v'= .slice a m cap:=by
    rcases X1.out.form2 with ⟨e,_⟩|⟨g,cap,e,_⟩<;>exact ⟨_,_,_,e⟩
   subst e
   go_wp2
   refine bodyPost_end (results_none rfl _ _ _) rfl ?_
   exact ⟨rfl,_,_,_,X1.out,X2.out⟩
  |cons d l=>
   rw [if_neg (fun e=>by cases e.2)]
   obtain ⟨k,hk⟩:∃k,(d::l).length=k:=⟨_,rfl⟩
   have hk0:((k:Int)==0)=false:=by rw [beq_eq_false_iff_ne];simp only [List.length_cons] at hk;omega
   rw [hk] at c3 h⊢
   have H:=Lib.hid h
   clear h c0 c1 hk
   go_enter Tryz.func206,Tryz.ntmps206
   go_wp2
   refine bodyPost_end (results_none rfl _ _ _) rfl ?_
   exact ⟨rfl,_,_,_,H.out,bv.refl _ _⟩
 ·rw [if_neg (fun e=>hn e.1)]
  have hn0:((n:Int)==0)=false:=by rw [beq_eq_false_iff_ne];omega
  have H:=Lib.hid h
  clear h c0 c1 hn
  go_enter Tryz.func206,Tryz.ntmps206
  go_wp2
  refine bodyPost_end (results_none rfl _ _ _) rfl ?_
  exact ⟨rfl,_,_,_,H.out,bv.refl _ _⟩
theorem Jr {w:World} {b:Nat} {p v1:Value} {n:Nat} {v2:Value} {t l:ab} (h:bm w b p v1 n v2 t l) (hs:t.length+n+l.length≤1073741824) (c:UInt8) (q:Int) (hq:(c.toNat:Int)=q):Calls Tryz.prog 208 #[.pointer (some ⟨b,0,none⟩),.int .u8 q] w (Ov w b v1 v2 ⟨cY ⟨t,n,l⟩ c,0,[]⟩):=by
 have CL:=Lib.hid (PG h)
 have CW:=fun {w':World} {p' v1':Value} (t':ab) (h':bm w' b p' v1' n v2 t' l) (ht:t'.length≤2147483648)=>Lib.hid (td h' c q hq ht)
 have CD:=fun {w':World} {p' v1':Value} (t':ab) (h':bm w' b p' v1' n v2 t' l)=>Lib.hid (Jp (h'.waits 0))
 have CN:=fun {w':World} {p' v1':Value} (i:Nat) (hi:i≤n) (h':bm w' b p' v1' n v2 (t++List.replicate i 10) l)=>Lib.hid (td h' 10 10 rfl (by rw [List.length_append,List.length_replicate];omega))
 have MZ:=fun (w':World) (v1':Value)=>Lib.hid (mB (w:=w') (b:=b) (v1:=v1') (v2:=v2) 2 (.int .i64 ((0:Nat):Int)))
 have H:=Lib.hid h
 by_cases h0:t=[]
 ·subst h0
  have e:cY ⟨[],n,l⟩ c=[]++[c]:=by unfold cY;simp
  rw [e]
  have hw:=CW [] h (by simp)
  clear h CW CN hq e hs
  go_enter Tryz.func208,Tryz.ntmps208
  go_wp2_with (first
   |(go_at_call 229;refine CL.out.mono ?_;rintro e w' ⟨rfl,rfl⟩)
   |(go_at_call 89;refine hw.out.mono ?_;rintro e w1 ⟨rfl,p',v1',x1,x2⟩;have X1:=Lib.hid x1;have X2:=Lib.hid x2;have D:=CD _ x1;obtain ⟨y0,y1,y2,y3⟩:=x1.cells;have f2:=x1.thawed 2;clear x1 x2 y0 y1 y3)
   |(go_at_call 201;refine D.out.mono ?_;rintro e w2 ⟨rfl,v2',z1,z2⟩;have Z1:=Lib.hid z1;have Z2:=Lib.hid (X2.out.trans ((MZ _ _).out.trans z2));clear z1 z2))
  refine bodyPost_end (results_none rfl _ _ _) rfl ?_
  exact ⟨rfl,_,_,_,Z1.out,Z2.out⟩
 ·have e:cY ⟨t,n,l⟩ c=((t++List.replicate n 10)++l)++[c]:=by unfold cY;rw [if_neg h0]
  rw [e]
  have hpos:(0:Int)<(t.length:Int):=by
   have:=List.length_pos_iff.2 h0
   omega
  have hn:n≤1073741824:=by omega
  have hd1:decide ((0:Int)<(t.length:Int))=true:=by simpa using hpos
  have hd2:decide (0<t.length)=true:=by simpa using hpos
  have CR:=fun {w':World} {p' v1':Value} (h':bm w' b p' v1' n v2 (t++List.replicate n 10) l)=>Lib.hid (Ou h' (fun e=>h0 (List.append_eq_nil_iff.1 e).1) (by rw [List.length_append,List.length_replicate];omega))
  have CW:=fun {w':World} {p' v1':Value} (h':bm w' b p' v1' n v2 ((t++List.replicate n 10)++l) l)=>CW _ h' (by rw [List.length_append,List.length_append,List.length_replicate];omega)
  obtain ⟨c0,c1,c2,c3⟩:=h.cells
  clear h hq e hs c0 c1 c3
  have h0:=Lib.hid h0
  go_enter Tryz.func208,Tryz.ntmps208
  go_wp2_with (go_at_call 229;refine CL.out.mono ?_;rintro e w' ⟨rfl,rfl⟩)
  clear CL hpos hd1 hd2 c2
  go_loopw [13] (fun v wr=>∃i:Nat,v= .int .i64 (i:Int)∧i≤n∧∃p' v1',bm wr b p' v1' n v2 (t++List.replicate i 10) l∧bv (dN b v1 v2) (dN b v1' v2) w' wr) (fun v _=>n-(ae v).toNat)
  case atStart=>exact ⟨0,rfl,Nat.zero_le _,_,_,by rw [List.replicate_zero,List.append_nil];exact H.out,bv.refl _ _⟩
  case round=>
   obtain ⟨i,rfl,hi,p',v1',x1,x2⟩:=hrel
   by_cases hlt:i<n
   ·have C:=CN i hi x1
    have X2:=Lib.hid x2
    clear x1 x2
    go_wp2_with (go_at_call 89;refine C.out.mono ?_;rintro e w1 ⟨rfl,p2,v12,z1,z2⟩)
    go_roundw
    case rel=>
     refine ⟨i+1,by go_num,by omega,p2,v12,?_,X2.out.trans z2⟩
     rw [List.replicate_succ',←List.append_assoc];exact z1
    case measure=>simp [ae];omega
   ·obtain rfl:i=n:=by omega
    have C:=CR x1
    have X2:=Lib.hid x2
    obtain ⟨c0,c1,c2,c3⟩:=x1.drew.cells
    have C:=CR x1.drew
    clear x1 x2 c0 c1 c2 CN
    go_wp2
    go_still_tail 7,(by kernel_rfl)
    change wpList _ _ _ _ _ wr.drew
    obtain ⟨w2,hw2⟩:∃w2,wr.drew=w2:=⟨_,rfl⟩
    have X3:=Lib.hid (show bv _ _ _ w2 from X2.out.trans (hw2▸nH _ _))
    rw [hw2] at C c3⊢
    clear hw2
    go_wp2_with (go_at_call 230;refine C.out.mono ?_;rintro e w3 ⟨rfl,p3,v13,x1,x2⟩;have HW:=CW x1;have X4:=Lib.hid (X3.out.trans x2);clear x1 x2)
    go_wp2_with (first
     |(go_at_call 89;refine HW.out.mono ?_;rintro e w4 ⟨rfl,p4,v14,x1,x2⟩;have X1:=Lib.hid x1;have X5:=Lib.hid (X4.out.trans x2);have D:=CD _ x1;obtain ⟨y0,y1,y2,y3⟩:=x1.cells;have f2:=x1.thawed 2;clear x1 x2 y0 y1 y3)
     |(go_at_call 201;refine D.out.mono ?_;rintro e w5 ⟨rfl,v2',z1,z2⟩;have Z1:=Lib.hid z1;have Z2:=Lib.hid (X5.out.trans ((MZ _ _).out.trans z2));clear z1 z2))
    refine bodyPost_end (results_none rfl _ _ _) rfl ?_
    exact ⟨rfl,_,_,_,Z1.out,Z2.out⟩
theorem FI (keep:Bool) (f:aC) (s:ab) (i:Nat) (c:UInt8) (h:s[i]? =some c):cP keep f (s.take (i+1))=dW keep (cP keep f (s.take i)) c:=by
 rw [List.take_add_one,h,lF];rfl
theorem FJ (keep:Bool) (c:UInt8):(dY keep c=204∧∀f,dW keep f c=f)∨(dY keep c=205∧∀f,dW keep f c=⟨f.told,f.ends+1,[]⟩)∨(dY keep c=206∧∀f,dW keep f c=if f.ends=0∧f.blanks=[] then ⟨f.told,0,[32]⟩ else ⟨f.told,f.ends,f.blanks⟩)∨(dY keep c=207∧∀f,dW keep f c=⟨f.told,f.ends,f.blanks++[c]⟩)∨(dY keep c=208∧∀f,dW keep f c=⟨cY f c,0,[]⟩):=by
 by_cases h0:c=0
 ·exact .inl ⟨by unfold dY;rw [if_pos h0],fun f=>by unfold dW;rw [if_pos h0]⟩
 by_cases h1:c=10∨c=13
 ·have hb:iT c=true:=by rcases h1 with rfl|rfl<;>rfl
  cases keep with
  |true=>exact .inr (.inl ⟨by unfold dY;rw [if_neg h0,if_pos h1,if_pos rfl],fun f=>by unfold dW;rw [if_neg h0,if_pos hb,if_pos rfl,if_pos h1]⟩)
  |false=>exact .inr (.inr (.inl ⟨by unfold dY;rw [if_neg h0,if_pos h1,if_neg Bool.false_ne_true],fun f=>by unfold dW;rw [if_neg h0,if_pos hb,if_neg Bool.false_ne_true]⟩))
 by_cases h2:c=9∨c=12∨c=32
 ·have hb:iT c=true:=by rcases h2 with rfl|rfl|rfl<;>rfl
  cases keep with
  |true=>exact .inr (.inr (.inr (.inl ⟨by unfold dY;rw [if_neg h0,if_neg h1,if_pos h2,if_pos rfl],fun f=>by unfold dW;rw [if_neg h0,if_pos hb,if_pos rfl,if_neg h1]⟩)))
  |false=>exact .inr (.inr (.inl ⟨by unfold dY;rw [if_neg h0,if_neg h1,if_pos h2,if_neg Bool.false_ne_true],fun f=>by unfold dW;rw [if_neg h0,if_pos hb,if_neg Bool.false_ne_true]⟩))
 ·have hb:¬iT c=true:=fun e=>by
   rcases (Ch c).1 e with e|e|e|e|e
   ·exact h2 (.inl e)
   ·exact h1 (.inl e)
   ·exact h2 (.inr (.inl e))
   ·exact h1 (.inr e)
   ·exact h2 (.inr (.inr e))
  exact .inr (.inr (.inr (.inr ⟨by unfold dY;rw [if_neg h0,if_neg h1,if_neg h2],fun f=>by unfold dW;rw [if_neg h0,if_neg hb]⟩)))
theorem Js {w : World} {b : Nat} {p v1 v2 : Value} (f : aC) (h : bm w b p v1 f.ends v2 f.told f.blanks) (s : ByteArray) (keep : Bool) (hs : f.size + s.size ≤ 1073741824) :
    Calls Tryz.prog 146 #[.pointer (some ⟨b, 0, none⟩), .string s, .bool keep] w (Ov w b v1 v2 (cP keep f s.data.toList)) := by
  have H := Lib.hid h
  have HS := Lib.hid hs
  have hsz : s.size ≤ 1073741824 := by omega
  clear h hs
  go_enter Tryz.func146, Tryz.ntmps146
  go_wp2
  go_loopw [10] (fun v wr => ∃ i : Nat, v = .int .i64 (i : Int) ∧ i ≤ s.size ∧ ∃ p' v1' v2', bm wr b p' v1' (cP keep f (s.data.toList.take i)).ends v2' (cP keep f (s.data.toList.take i)).told (cP keep f (s.data.toList.take i)).blanks ∧ bv (dN b v1 v2) (dN b v1' v2') w wr) (fun v _ => s.size - (ae v).toNat)
  case atStart => exact ⟨0, rfl, Nat.zero_le _, p, v1, v2, by rw [List.take_zero]; exact H.out, bv.refl _ _⟩
  case round =>
    obtain ⟨i, rfl, hi, p', v1', v2', x1, x2⟩ := hrel
    by_cases hlt : i < s.size
    · have SN := Lib.hid (FI keep f s.data.toList i s.data[i] (by simp))
      have SZ := Lib.hid (show (cP keep f (s.data.toList.take i)).size ≤ 1073741824 by
        have := gv keep (s.data.toList.take i) f
        have h2 := HS.out
        rw [List.length_take] at this
        omega)
      generalize hG : cP keep f (s.data.toList.take i) = G at x1 SN SZ
      have X2 := Lib.hid x2
      obtain ⟨T, n, l⟩ := G
      simp only at x1
      have hz : T.length + n + l.length ≤ 1073741824 := SZ.out
      have CD := Jq keep s.data[i] ((s.data[i].toNat : Nat) : Int) wr rfl
      rcases FJ keep s.data[i] with ⟨e1, e2⟩ | ⟨e1, e2⟩ | ⟨e1, e2⟩ | ⟨e1, e2⟩ | ⟨e1, e2⟩
      focus
        rw [e1] at CD
        have C := Lib.hid (Pf x1 _ : Calls Tryz.prog 204 #[.pointer (some ⟨b, 0, none⟩), .int .u8 ((s.data[i].toNat : Nat) : Int)] wr _)
        have E := Lib.hid ((e2 _).symm.trans SN.out.symm)
        have CD := Lib.hid CD
        clear x1 x2 e1 e2 SN SZ hz hG
        go_wp2_with (first
          | (go_at_call 180; refine CD.out.mono ?_; rintro e w' ⟨rfl, rfl⟩)
          | (go_at_call 204; refine C.out.mono ?_; rintro e w3 ⟨rfl, p3, v13, v23, z1, z2⟩))
      rotate_left
      focus
        rw [e1] at CD
        have C := Lib.hid (PH x1 (by omega) _ : Calls Tryz.prog 205 #[.pointer (some ⟨b, 0, none⟩), .int .u8 ((s.data[i].toNat : Nat) : Int)] wr _)
        have E := Lib.hid ((e2 _).symm.trans SN.out.symm)
        have CD := Lib.hid CD
        clear x1 x2 e1 e2 SN SZ hz hG
        go_wp2_with (first
          | (go_at_call 180; refine CD.out.mono ?_; rintro e w' ⟨rfl, rfl⟩)
          | (go_at_call 205; refine C.out.mono ?_; rintro e w3 ⟨rfl, p3, v13, v23, z1, z2⟩))
      rotate_left
      focus
        rw [e1] at CD
        have C := Lib.hid (Pi x1 _ : Calls Tryz.prog 206 #[.pointer (some ⟨b, 0, none⟩), .int .u8 ((s.data[i].toNat : Nat) : Int)] wr _)
        have E := Lib.hid ((e2 _).symm.trans SN.out.symm)
        have CD := Lib.hid CD
        clear x1 x2 e1 e2 SN SZ hz hG
        go_wp2_with (first
          | (go_at_call 180; refine CD.out.mono ?_; rintro e w' ⟨rfl, rfl⟩)
          | (go_at_call 206; refine C.out.mono ?_; rintro e w3 ⟨rfl, p3, v13, v23, z1, z2⟩))
      rotate_left
      focus
        rw [e1] at CD
        have C := Lib.hid (Ph x1 (by omega) s.data[i] _ rfl : Calls Tryz.prog 207 #[.pointer (some ⟨b, 0, none⟩), .int .u8 ((s.data[i].toNat : Nat) : Int)] wr _)
        have E := Lib.hid ((e2 _).symm.trans SN.out.symm)
        have CD := Lib.hid CD
        clear x1 x2 e1 e2 SN SZ hz hG
        go_wp2_with (first
          | (go_at_call 180; refine CD.out.mono ?_; rintro e w' ⟨rfl, rfl⟩)
          | (go_at_call 207; refine C.out.mono ?_; rintro e w3 ⟨rfl, p3, v13, v23, z1, z2⟩))
      rotate_left
      focus
        rw [e1] at CD
        have C := Lib.hid (Jr x1 hz s.data[i] _ rfl : Calls Tryz.prog 208 #[.pointer (some ⟨b, 0, none⟩), .int .u8 ((s.data[i].toNat : Nat) : Int)] wr _)
        have E := Lib.hid ((e2 _).symm.trans SN.out.symm)
        have CD := Lib.hid CD
        clear x1 x2 e1 e2 SN SZ hz hG
        go_wp2_with (first
          | (go_at_call 180; refine CD.out.mono ?_; rintro e w' ⟨rfl, rfl⟩)
          | (go_at_call 208; refine C.out.mono ?_; rintro e w3 ⟨rfl, p3, v13, v23, z1, z2⟩))
      rotate_left
      all_goals
        go_roundw
        case rel =>
          refine ⟨i + 1, by go_num, by omega, p3, v13, v23, ?_, X2.out.trans z2⟩
          rw [← E.out]; exact z1
        case measure => simp [ae]; omega
    · obtain rfl : i = s.size := by omega
      have e : s.data.toList.take s.size = s.data.toList := List.take_of_length_le (by rw [Lib.size_eq]; exact Nat.le_refl _)
      rw [e] at x1
      have X1 := Lib.hid x1
      have X2 := Lib.hid x2
      clear x1 x2 e
      go_wp2
      refine bodyPost_end (results_none rfl _ _ _) (by rfl) ?_
      exact ⟨rfl, _, _, _, X1.out, X2.out⟩
theorem Jt {w:World} {b:Nat} {v1 v2:Value} {f:aC} {e:Ending} {w':World} (h:Ov w b v1 v2 f e w'):e= .returned (.tuple #[])∧∃F',lJ ⟨b,0,none⟩ f w' F'∧bv (dN b v1 v2) F' w w':=by
 obtain ⟨e1,p',v1',v2',h1,h2⟩:=h
 exact ⟨e1,_,⟨b,p',v1',v2',rfl,h1,fun _=>Iff.rfl⟩,h2⟩
theorem Cn (g:Addr) (f:aC) (s:ByteArray) (keep:Bool) (w:World) (F:eH) (h:lJ g f w F) (hs:f.size+s.size≤1073741824):Calls Tryz.prog 146 #[.pointer (some g),.string s,.bool keep] w fun e w'=>e= .returned (.tuple #[])∧∃F',lJ g (cP keep f s.data.toList) w' F'∧bv F F' w w':=by
 obtain ⟨b,p,v1,v2,rfl,h1,rfl⟩:=rE h
 exact (Js f h1 s keep hs).mono fun e w' hd=>Jt hd
theorem xI (g:Addr) (f:aC) (n:Int) (w:World) (F:eH) (h:lJ g f w F) (hs:f.size≤1073741824) (hn: -9223372036854775808≤n∧n≤9223372036854775807):Calls Tryz.prog 178 #[.pointer (some g),.int .i64 n] w fun e w'=>e= .returned (.tuple #[])∧∃F',lJ g (nC n f) w' F'∧bv F F' w w':=by
 obtain ⟨b,p,v1,v2,rfl,h1,rfl⟩:=rE h
 refine (Cm h1 n (by unfold aC.size at hs;omega) hn).mono ?_
 rintro e w' ⟨rfl,v2',h2,h3⟩
 exact ⟨rfl,_,⟨b,p,v1,v2',rfl,h2,fun _=>Iff.rfl⟩,h3⟩
theorem z6 (g:Addr) (f:aC) (w:World) (F:eH) (h:lJ g f w F) (hs:f.size≤1073741824):Calls Tryz.prog 176 #[.pointer (some g)] w fun e w'=>e= .returned (.tuple #[])∧∃F',lJ g (jU f) w' F'∧bv F F' w w':=by
 obtain ⟨b,p,v1,v2,rfl,h1,rfl⟩:=rE h
 refine (vO h1 (by unfold aC.size at hs;omega)).mono ?_
 rintro e w' ⟨rfl,v2',h2,h3⟩
 exact ⟨rfl,_,⟨b,p,v1,v2',rfl,h2,fun _=>Iff.rfl⟩,h3⟩
theorem z7 (g:Addr) (f:aC) (w:World) (F:eH) (h:lJ g f w F) (_:f.size≤1073741824):Calls Tryz.prog 94 #[.pointer (some g)] w fun e w'=>e= .returned (.string ⟨f.told.toArray⟩)∧∃F',lJ g f w' F'∧bv F F' w w':=by
 obtain ⟨b,p,v1,v2,rfl,h1,rfl⟩:=rE h
 have C:=Lib.hid (Mf h1)
 clear h h1
 go_enter Tryz.func94,Tryz.ntmps94
 go_wp2_with (go_at_call 35;refine C.out.mono ?_;rintro e w' ⟨rfl,x1,x2⟩;have X1:=Lib.hid x1;have X2:=Lib.hid x2;clear x1 x2)
 go_ret
 exact ⟨rfl,_,⟨b,p,v1,v2,rfl,X1.out,fun _=>Iff.rfl⟩,X2.out⟩
theorem Cp (w:World):Calls Tryz.prog 92 #[] w fun e w'=>∃g F,e= .returned (.pointer (some g))∧lJ g io w' F∧(∀k,F k→w.heap.size≤k)∧Below w.heap.size w w':=by
 have hX:=Lib.hid (show bm (w.alloc (.cells #[.pointer none,.slice none 0 0,.int .i64 ((0:Nat):Int),.slice none 0 0] 142)) w.heap.size (.pointer none) (.slice none 0 0) 0 (.slice none 0 0) [] [] from
  ⟨heap_alloc_new w _,.inl rfl,World.ownsRowF_nil _ _ _ _,World.ownsRow_nil _ _ _ _,fun k e=>(by cases e),fun _=>rfl⟩)
 have hB:=Lib.hid ((Below.refl w.heap.size w).alloc (Nat.le_refl _) (.cells #[.pointer none,.slice none 0 0,.int .i64 ((0:Nat):Int),.slice none 0 0] 142))
 go_enter Tryz.func92,Tryz.ntmps92
 go_wp2
 go_ret
 refine ⟨⟨w.heap.size,0,none⟩,dN w.heap.size (.slice none 0 0) (.slice none 0 0),rfl,⟨w.heap.size,_,_,_,rfl,hX.out,fun _=>Iff.rfl⟩,?_,hB.out⟩
 rintro k (e|e|e)
 ·omega
 ·cases e
 ·cases e
end Go.Proofs.YtajpoodpbbbkfaaGreatDoor
namespace Go.Proofs.YtajpoodpbbbkfaaGreatDoor
open Go.RowKit Go.Lib
def bA (l:List ab):List Value:=l.map fun x=> .string ⟨x.toArray⟩
theorem bU (l:List ab):(bA l).length=l.length:=List.length_map _
theorem jZ (l m:List ab):bA l++bA m=bA (l++m):=by unfold bA;rw [List.map_append]
theorem oW (l:List ab) (i:Nat) (h:i<l.length):(bA l)[i]? =some (.string ⟨l[i].toArray⟩):=by
 unfold bA
 rw [List.getElem?_map,List.getElem?_eq_getElem h];rfl
theorem vP (l:List ab):∀u∈bA l,u.oneCell'=true:=by
 intro u hu
 obtain ⟨x,-,rfl⟩:=List.mem_map.1 hu
 rfl
def xJ (w:World) (v:Value) (l:List ab):Prop:=
 ∃a cap,v= .slice a l.length cap∧l.length≤cap∧cap≤maxLen∧∀i (h:i<l.length),∃x,a=some x∧w.cell? (x.add i)=some (.string ⟨l[i].toArray⟩)
theorem Cq {w:World} {base:Nat} {v:Value} {l:List ab} (h:w.ownsRow base 9 1 v l.length (bA l)):xJ w v l:=by
 have hc:=fun g hg=>h.cells (g:=g) hg
 rcases h.2 with ⟨rfl,h0⟩|⟨g,cap,cur,rfl,hb,hg,hn,hm,hs,htake⟩
 ·exact ⟨none,0,by rw [h0],by omega,by simp [maxLen],fun i hi=>by omega⟩
 ·exact ⟨_,cap,rfl,hn,hm,fun i hi=>⟨_,rfl,hc g rfl i _ (oW l i hi)⟩⟩
def gx (v:Value) (l:List ab):Own:=fun w F=>w.ownsRow 0 9 1 v l.length (bA l)∧∀k,F k↔v.ownBlock=some k
theorem aS (v:Value) (l:List ab):bC (gx v l):=by
 refine ⟨?_,?_⟩
 ·rintro w F ⟨h,hF⟩ k hk
  exact (h.lt k ((hF k).1 hk)).2
 ·rintro w w' F ⟨h,hF⟩ hk
  refine ⟨⟨h.1,?_⟩,hF⟩
  rcases h.2 with h0|⟨g,cap,cur,rfl,hb,hg,h4⟩
  ·exact .inl h0
  ·exact .inr ⟨g,cap,cur,rfl,hb,(hk g ((hF g).2 rfl)).trans hg,h4⟩
theorem z8 {w0 w:World} {R:Own} (h:ax w0 w R) (hR:bC R):ax w0 w (bI (gx (.slice none 0 0) []) R):=
 h.more hR (Below.refl _ w) (S:=gx (.slice none 0 0) []) (F:=fun _=>False) ⟨World.ownsRow_nil _ _ _ _,fun k=>⟨fun h=>h.elim,fun h=>by cases h⟩⟩ (fun k hk=>hk.elim)
theorem fP {w0 w:World} {v:Value} {l:List ab} {R:Own} (h:ax w0 w (bI (gx v l) R)):xJ w v l:=by
 obtain ⟨F,hF,-,-⟩:=h.first
 exact Cq hF.1
theorem z9 {w0 w:World} {v:Value} {l:List ab} {R:Own} (h:ax w0 w (bI (gx v l) R)):w.ownsRow 0 9 1 v l.length (bA l):=by
 obtain ⟨F,hF,-,-⟩:=h.first
 exact hF.1
theorem Aa {w0 w w':World} {v:Value} {l:List ab} {R:Own} (h:ax w0 w R) (hR:bC R) (hb:Below w.heap.size w w') (ho:w'.ownsRow w.heap.size 9 1 v l.length (bA l)):ax w0 w' (bI (gx v l) R):=
 h.more hR hb (S:=gx v l) (F:=fun k=>v.ownBlock=some k) ⟨⟨ho.1,ho.2.imp id (fun ⟨g,cap,cur,h1,_,h3⟩=>⟨g,cap,cur,h1,Nat.zero_le _,h3⟩)⟩,fun _=>Iff.rfl⟩ (fun k hk=>(ho.lt k hk).1)
theorem Cr {w0 w:World} {R:Own} (h:ax w0 w R) (hR:bC R):ax w0 (w.alloc (.cells #[] 9)) (bI (gx (.slice (some ⟨w.heap.size,0,none⟩) 0 0) []) R):=
 Aa h hR ((Below.refl w.heap.size w).alloc (Nat.le_refl _) _) ⟨rfl,.inr ⟨w.heap.size,0,#[],rfl,Nat.le_refl _,heap_alloc_new w _,Nat.le_refl _,by simp [maxLen],rfl,rfl⟩⟩
theorem vR:(Tryz.prog.info? 9).map (fun i=>(i.zero,i.size,i.bytes))=some (some (.string ⟨#[]⟩),1,16):=by kernel_rfl
theorem fk {ops:Array Oper} {rest:List Oper} {o:Oper} {a:Act} {w0 w:World} {P:Exit→Act→World→Prop} (hgd:o.guard=none) (s x:Operand) (ho:o.op= .call {callee:= .builtin .append,args:=#[s,x],argTypes:=#[92,92]}) (v:Value) (l m:List ab) (R:Own) (hR:bC R) (hs:a.eval s=v) (hM:ax w0 w (bI (gx v l) R)) (ad:Addr) (c:Nat) (n:Nat) (hx:a.eval x= .slice (some ad) n c) (hn:n=m.length) (hnews:∀i (h:i<m.length),w.cell? (ad.add i)=some (.string ⟨m[i].toArray⟩)) (hlen:l.length+m.length≤1073741824) (h:∀v' w',ax w0 w' (bI (gx v' (l++m)) R)→wpList Tryz.prog ops P rest (a.put o.dst v') w'):wpList Tryz.prog ops P (o::rest) a w:=by
 obtain ⟨i0,hi0,hz0,hz1,hz2⟩:=info_parts vR
 obtain ⟨F,hF,-,hk⟩:=hM.first
 subst hn
 refine wpList_append_own_at (w:=w) hgd s x 92 ho 0 9 i0 _ 1 16 Tryz.underlying92 hi0 hz0 hz1 hz2 rfl (by decide) v l.length (bA l) hs hF.1 ad m.length c (bA m) hx (by rw [bU,Nat.mul_one]) ?_ (vP m) (by unfold maxLen;omega) (by omega) (Nat.zero_le _) ?_
 ·intro j u hj
  have hjl:j<m.length:=by
   have:=(List.getElem?_eq_some_iff.1 hj).1
   rwa [bU] at this
  rw [oW m j hjl] at hj
  rw [hnews j hjl];exact hj
 ·intro v1 w1 hown hgr _ hat
  refine h v1 w1 (hk w1 (gx v1 (l++m)) (fun k=>v1.ownBlock=some k) hR ⟨by rw [List.length_append,←jZ];exact hown,fun _=>Iff.rfl⟩ ⟨hgr.os,hgr.tape,hgr.output,hgr.size,fun k hkk hFk=>hgr.block k hkk (fun e=>hFk ((hF.2 k).2 e.symm)),fun k hkk=>?_⟩)
  rcases hat with e|e
  ·exact .inl ((hF.2 k).2 (by rw [←e];exact hkk))
  ·refine .inr ?_
   rw [e] at hkk
   have:=Option.some.inj hkk
   omega
end Go.Proofs.YtajpoodpbbbkfaaGreatDoor
