/-
  Texts laid together: FloMath, FloAt, FloRef, FloRefB, FloDo, Objs, FloO, FloRow, FloRun, FloCode, StrO.
-/
import Derived.Test.YtpmdcppnlggckaaGreatDoorP3
import Derived.Test.YtpmdcppnlggckaaGreatDoorQD
import Derived.Test.YtpmdcppnlggckaaGreatDoorProg
import Derived.Deep.RegionHeld3
import Derived.KernelRfl
import Derived.StillTailTactics
import Derived.Below
import Derived.ProofKit
import Derived.WalkKit
import Derived.Test.YtpmdcppnlggckaaGreatDoorP1
import Derived.Deep.AppendSrc
import Derived.Lib.FrozenHead2
import Derived.Lib.UnsafeStr
import Derived.Laws.IdiomCopy
import Derived.Lib.OthersKept
import Derived.OwnWalk
import Derived.Maps.AppendAt
import Derived.BigCall
import Derived.Lib.Hide
import Derived.Lib.Builder
import Derived.Laws.OwnMore
set_option maxHeartbeats 8000000
set_option maxRecDepth 100000
namespace Go.Proofs.YtpmdcppnlggckaaGreatDoor
structure aH where
 told:ab
 ends:Nat
 blanks:ab
def uD:aH:=⟨[],0,[]⟩
def lw (c:UInt8):Bool:=c==9||c==10||c==12||c==13||c==32
def lI (f:aH) (c:UInt8):ab:=(if f.told=[] then [] else f.told++List.replicate f.ends 10++f.blanks)++[c]
def ir (keep:Bool) (f:aH) (c:UInt8):aH:=
 if c=0 then f
 else if lw c=true then
  if keep=true then (if c=10∨c=13 then ⟨f.told,f.ends+1,[]⟩ else ⟨f.told,f.ends,f.blanks++[c]⟩)
  else if f.ends=0∧f.blanks=[] then ⟨f.told,0,[32]⟩ else f
 else ⟨lI f c,0,[]⟩
def eE (keep:Bool) (f:aH) (s:ab):aH:=s.foldl (ir keep) f
def lY (n:Int) (f:aH):aH:=⟨f.told,max f.ends (min n 100).toNat,[]⟩
def iT (f:aH):aH:=⟨f.told,f.ends+1,[]⟩
structure Ir where
 kind:Int
 s:ab
 keep:Bool
 n:Int
def Lg (a:Ir):Prop:= -9223372036854775808≤a.n∧a.n≤9223372036854775807
def Ci (f:aH) (a:Ir):aH:=if a.kind=0 then eE a.keep f a.s else if a.kind=1 then lY a.n f else if a.kind=2 then iT f else f
theorem Cj (keep:Bool) (f:aH) (c:UInt8) (s:ab):eE keep f (c::s)=eE keep (ir keep f c) s:=rfl
theorem qC (keep:Bool) (f:aH) (a b:ab):eE keep f (a++b)=eE keep (eE keep f a) b:=List.foldl_append
structure oL (M:aH→Prop):Prop where
 byte:∀keep f c,M f→M (ir keep f c)
 brk:∀n f,M f→M (lY n f)
 line:∀f,M f→M (iT f)
theorem oL.put {M:aH→Prop} (h:oL M) (keep:Bool):∀(s:ab) (f:aH),M f→M (eE keep f s)
 |[],_,hf=>hf
 |c::s,f,hf=>h.put keep s _ (h.byte keep f c hf)
structure LS (f:aH):Prop where
 told:∀c∈f.told,c≠0∧c≠13
 first:∀c,f.told.head?=some c→lw c=false
 last:∀c,f.told.getLast?=some c→lw c=false
 blanks:∀c∈f.blanks,c=9∨c=12∨c=32
theorem E9 (c:UInt8):lw c=true↔c=9∨c=10∨c=12∨c=13∨c=32:=by
 unfold lw;simp [or_assoc]
structure L6 (f:aH):Prop where
 blanks:f.blanks=[]∨f.blanks=[32]
 ends:f.ends=0
 only:∀c∈f.told,lw c=true→c=32
 last:∀c,f.told.getLast?=some c→lw c=false
 apart:∀i:Nat,f.told[i]? =some (32:UInt8)→f.told[i+1]?≠some (32:UInt8)
def aH.size (f:aH):Nat:=f.told.length+f.ends+f.blanks.length
theorem Fa (keep:Bool) (f:aH) (c:UInt8):(ir keep f c).size≤f.size+1:=by
 unfold ir aH.size
 split
 ·omega
 ·split
  ·split
   ·split
    ·simp;omega
    ·simp;omega
   ·split
    ·simp;omega
    ·omega
  ·unfold lI
   split
   ·rename_i h;simp [h]
   ·simp;omega
theorem gC (keep:Bool):∀(s:ab) (f:aH),(eE keep f s).size≤f.size+s.length
 |[],f=>Nat.le_refl _
 |c::s,f=>by
  have h1:=Fa keep f c
  have h2:=gC keep s (ir keep f c)
  rw [Cj,List.length_cons];omega
theorem xd (n:Int) (f:aH):(lY n f).size≤f.size+100:=by
 unfold lY aH.size;simp;omega
theorem iV (f:aH):(iT f).size≤f.size+1:=by
 unfold iT aH.size;simp;omega
end Go.Proofs.YtpmdcppnlggckaaGreatDoor
namespace Go.Proofs.YtpmdcppnlggckaaGreatDoor
open Go.RowKit Go.Lib
def fN (t:ByteArray) (n:Nat) (b:ByteArray):Array Value:=#[.string t,.int .i64 (n:Int),.string b]
def cu (T:TypeId) (w:World) (g:Nat) (t:ByteArray) (n:Nat) (b:ByteArray):Prop:=w.heap[g]? =some (.cells (fN t n b) T (0,0))
def dX (T:TypeId) (w:World) (g:Nat) (f:aH):Prop:=cu T w g ⟨f.told.toArray⟩ f.ends ⟨f.blanks.toArray⟩
theorem cu.lt {T:TypeId} {w:World} {g:Nat} {t:ByteArray} {n:Nat} {b:ByteArray} (h:cu T w g t n b):g<w.heap.size:=(Array.getElem?_eq_some_iff.1 h).1
theorem cu.kept {T:TypeId} {w w':World} {g:Nat} {t:ByteArray} {n:Nat} {b:ByteArray} {r:Option Nat} (h:cu T w g t n b) (hg:w.grownBy w' r) (hne:some g≠r):cu T w' g t n b:=(hg.block _ h.lt hne).trans h
theorem cu.below {T:TypeId} {w w':World} {g:Nat} {t:ByteArray} {n:Nat} {b:ByteArray} (h:cu T w g t n b) (hb:Below w.heap.size w w'):cu T w' g t n b:=(hb.block _ h.lt).trans h
theorem bD {T:TypeId} {w:World} {g:Nat} {t:ByteArray} {n:Nat} {b:ByteArray} (h:cu T w g t n b):w.cell? ⟨g,0,none⟩=some (.string t)∧w.cell? ⟨g,1,none⟩=some (.int .i64 (n:Int))∧w.cell? ⟨g,2,none⟩=some (.string b):=by
 refine ⟨?_,?_,?_⟩<;>(rw [cell_of_row _ _ _ _ _ _ h];rfl)
theorem gq {T:TypeId} {w:World} {g:Nat} {t:ByteArray} {n:Nat} {b:ByteArray} (h:cu T w g t n b) (i:Nat):w.frozen? ⟨g,i,none⟩=false:=by
 unfold cu at h
 simp [World.frozen?,h]
section
variable {P:Program} {ops:Array Oper} {rest:List Oper} {o:Oper} {a:Act} {w:World} {Q:Exit→Act→World→Prop}
theorem aB (T : TypeId) (hg : o.guard = none) (ty : TypeId) (x y : Operand) (ho : o.op = .store ty x y) (g i : Nat) (v : Value) (t t' : ByteArray) (n n' : Nat) (b b' : ByteArray)
    (hx : a.eval x = .pointer (some ⟨g, i, none⟩)) (hy : a.eval y = v) (hb : cu T w g t n b) (hi : i < 3) (hs : (P.info? ty).map (·.size) = some 1) (h1 : v.oneCell' = true) (hc : v.cells = #[v]) (hd : (fN t n b).setIfInBounds i v = fN t' n' b')
    (hK : ∀ w', cu T w' g t' n' b' → w.grownBy w' (some g) → wpList P ops Q rest (a.put o.dst undef) w') :
    wpList P ops Q (o :: rest) a w :=
  iS hg ty x y ho g i v T hx hy (fN t n b) hb hi hs h1 hc (fun w' h => hK w' (by unfold cu; rw [← hd]; exact h))
end
theorem cu.set {T:TypeId} {w:World} {g:Nat} {t:ByteArray} {n:Nat} {b:ByteArray} (h:cu T w g t n b) (i:Nat) (v:Value) {t':ByteArray} {n':Nat} {b':ByteArray} (hd:(fN t n b).setIfInBounds i v=fN t' n' b'):cu T (w.setCell ⟨g,i,none⟩ v) g t' n' b'∧w.grownBy (w.setCell ⟨g,i,none⟩ v) (some g):=by
 refine ⟨?_,rfl,rfl,rfl,by simp,fun k _ hk=>?_⟩
 ·unfold cu
  rw [←hd]
  exact Go.heap_setCell_same w g i _ T v h
 ·exact Below.heap_setCell w ⟨g,i,none⟩ v _ (fun e=>hk (congrArg some e))
theorem bI {w w':World} (h:Below w.heap.size w w') (r:Option Nat):w.grownBy w' r:=⟨h.os,h.tape,h.output,h.size,fun k hk _=>h.block k hk⟩
end Go.Proofs.YtpmdcppnlggckaaGreatDoor
namespace Go.Proofs.YtpmdcppnlggckaaGreatDoor
open Go.RowKit Go.Lib
theorem fc : (Tryz.prog.info? 9).map (·.size) = some 1 := by kernel_rfl
theorem iW : (Tryz.prog.info? 3).map (·.size) = some 1 := by kernel_rfl
theorem Is (c:UInt8) (n:Nat) (hn:n<256):(((c.toNat:Nat):Int)==(n:Int))=(c==UInt8.ofNat n):=by
 rw [Bool.eq_iff_iff,beq_iff_eq,beq_iff_eq]
 constructor
 ·exact fun h=>aQ c n hn h
 ·rintro rfl
  simp;omega
theorem It (a:ab) (c:UInt8):(⟨a.toArray⟩:ByteArray)++⟨#[c]⟩=⟨(a++[c]).toArray⟩:=bu (by simp)
theorem kr (w:World) (q:Int) (c:UInt8) (h:(c.toNat:Int)=q):(convert 22 9 (.slice (some ⟨w.heap.size,0,none⟩) 1 1)).run Tryz.prog (w.alloc (.cells #[.int .u8 q] 5)).drew= .ok (.string ⟨#[c]⟩) (w.alloc (.cells #[.int .u8 q] 5)).drew:=by
 refine run_convert_bytes_back (P:=Tryz.prog) _ 22 9 5 ⟨w.heap.size,0,none⟩ 1 [c] Tryz.underlying22 Tryz.underlying5 Tryz.underlying9 ?_
 intro j hj
 have:j=0:=by simp at hj;exact hj
 subst this
 rw [show ((⟨w.heap.size,0,none⟩:Addr).add 0)=⟨w.heap.size,0,none⟩ from rfl]
 show (w.alloc (.cells #[.int .u8 q] 5)).cell? _=_
 rw [Lib.cell_of_heap (heap_alloc_new w _),←h]
 rfl
theorem qD {T:TypeId} {w w1:World} {g:Nat} {t:ByteArray} {n:Nat} {b:ByteArray} (h:cu T w1 g t n b∧w.grownBy w1 (some g)) (o:Obj):cu T (w1.alloc o).drew g t n b∧w.grownBy (w1.alloc o).drew (some g):=by
 have h1:Below w1.heap.size w1 (w1.alloc o).drew:=((Below.refl _ w1).alloc (Nat.le_refl _) _).drew
 exact ⟨h.1.below h1,h.2.trans (bI h1 _)⟩
def fd (g:Nat) (f:aH) (w:World) (e:Ending) (w':World):Prop:=e= .returned (.tuple #[])∧dX 51 w' g f∧w.grownBy w' (some g)
theorem Fb (g:Nat) (f:aH) (keep:Bool) (w:World) (h:dX 51 w g f):Calls Tryz.prog 59 #[.pointer (some ⟨g,0,none⟩),.int .u8 0,.bool keep] w (fd g f w):=by
 have H:=Lib.hid h
 clear h
 go_enter Tryz.func59,Tryz.ntmps59
 go_wp2
 refine bodyPost_ret (results_none rfl _ _ _) rfl ?_
 exact ⟨rfl,H.out,bI (Below.refl _ _) _⟩
theorem Fc (g:Nat) (f:aH) (c:UInt8) (w:World) (h:dX 51 w g f) (hc:c=9∨c=12∨c=32) (hs:f.size≤1073741824):Calls Tryz.prog 59 #[.pointer (some ⟨g,0,none⟩),.int .u8 ((c.toNat:Nat):Int),.bool true] w (fd g ⟨f.told,f.ends,f.blanks++[c]⟩ w):=by
 have hbl:f.blanks.length≤1073741824:=by unfold aH.size at hs;omega
 obtain ⟨t,n,b⟩:=f
 unfold fd dX at*
 simp only at h hbl⊢
 clear hs
 rw [←It]
 have hb:(⟨b.toArray⟩:ByteArray).size≤1073741824:=by rw [Lib.size_eq,List.toList_toArray];exact hbl
 generalize (⟨t.toArray⟩:ByteArray)=A at h⊢
 generalize (⟨b.toArray⟩:ByteArray)=B at h hb⊢
 have H:=Lib.hid h
 obtain ⟨x0,x1,x2⟩:=bD h
 have z2:=gq h 2
 have zg:=h.lt
 clear h hbl
 have g1:¬9223372036854775807<B.size+1:=by omega
 have FIN:=fun (q:Int) (d:UInt8)=>Lib.hid (show cu 51 ((w.setCell ⟨g,2,none⟩ (.string (B++⟨#[d]⟩))).alloc (.cells #[.int .u8 q] 5)).drew g A n (B++⟨#[d]⟩)∧w.grownBy ((w.setCell ⟨g,2,none⟩ (.string (B++⟨#[d]⟩))).alloc (.cells #[.int .u8 q] 5)).drew (some g) from qD (H.out.set 2 _ rfl) _)
 rcases hc with rfl|rfl|rfl
 ·have o1:=kr w 9 9 rfl
  have F:=FIN 9 9
  clear FIN
  go_enter Tryz.func59,Tryz.ntmps59
  go_wp2
  go_region_with (fail)
  all_goals
   go_wp2
   refine bodyPost_ret (results_none rfl _ _ _) rfl ?_
   exact ⟨rfl,F.out⟩
 ·have o1:=kr w 12 12 rfl
  have F:=FIN 12 12
  clear FIN
  go_enter Tryz.func59,Tryz.ntmps59
  go_wp2
  go_region_with (fail)
  all_goals
   go_wp2
   refine bodyPost_ret (results_none rfl _ _ _) rfl ?_
   exact ⟨rfl,F.out⟩
 ·have o1:=kr w 32 32 rfl
  have F:=FIN 32 32
  clear FIN
  go_enter Tryz.func59,Tryz.ntmps59
  go_wp2
  go_region_with (fail)
  all_goals
   go_wp2
   refine bodyPost_ret (results_none rfl _ _ _) rfl ?_
   exact ⟨rfl,F.out⟩
theorem Fd (g:Nat) (f:aH) (c:UInt8) (w:World) (h:dX 51 w g f) (hc:c=10∨c=13) (hs:f.size≤1073741824):Calls Tryz.prog 59 #[.pointer (some ⟨g,0,none⟩),.int .u8 ((c.toNat:Nat):Int),.bool true] w (fd g ⟨f.told,f.ends+1,[]⟩ w):=by
 have hbl:f.ends≤1073741824:=by unfold aH.size at hs;omega
 obtain ⟨t,n,b⟩:=f
 unfold fd dX at*
 simp only at h hbl⊢
 clear hs
 generalize (⟨t.toArray⟩:ByteArray)=A at h⊢
 generalize (⟨b.toArray⟩:ByteArray)=B at h⊢
 have H:=Lib.hid h
 obtain ⟨x0,x1,x2⟩:=bD h
 clear h
 rcases hc with rfl|rfl
 all_goals
  go_enter Tryz.func59,Tryz.ntmps59
  go_wp2_with (first
   |(refine aB 51 rfl 3 _ _ rfl g 1 _ A A n (n+1) B B rfl rfl H.out (by decide) iW rfl rfl (by first|rfl|(simp [fN])) ?_;intro w1 h1 g1;have H1:=Lib.hid h1;have G1:=Lib.hid g1;obtain ⟨y0,y1,y2⟩:=bD h1;clear h1 g1)
   |(refine aB 51 rfl 9 _ _ rfl g 2 _ A A (n+1) (n+1) B ⟨#[]⟩ rfl rfl H1.out (by decide) fc rfl rfl rfl ?_;intro w2 h2 g2))
  refine bodyPost_ret (results_none rfl _ _ _) rfl ?_
  exact ⟨rfl,h2,G1.out.trans g2⟩
theorem Ff (g:Nat) (f:aH) (c:UInt8) (w:World) (h:dX 51 w g f) (hc:c=9∨c=10∨c=12∨c=13∨c=32):Calls Tryz.prog 59 #[.pointer (some ⟨g,0,none⟩),.int .u8 ((c.toNat:Nat):Int),.bool false] w (fd g (if f.ends=0∧f.blanks=[] then ⟨f.told,0,[32]⟩ else f) w):=by
 obtain ⟨t,n,b⟩:=f
 unfold fd dX at*
 simp only at h⊢
 by_cases hn:n=0
 ·subst hn
  cases b with
  |nil=>
   rw [if_pos ⟨rfl,rfl⟩]
   generalize (⟨t.toArray⟩:ByteArray)=A at h⊢
   have h:cu 51 w g A 0 ⟨#[]⟩:=h
   have H:=Lib.hid h
   obtain ⟨x0,x1,x2⟩:=bD h
   clear h
   rcases hc with rfl|rfl|rfl|rfl|rfl
   all_goals
    go_enter Tryz.func59,Tryz.ntmps59
    go_wp2_with (refine aB 51 rfl 9 _ _ rfl g 2 _ A A 0 0 ⟨#[]⟩ ⟨#[32]⟩ rfl rfl H.out (by decide) fc rfl rfl rfl ?_;intro w2 h2 g2)
    refine bodyPost_ret (results_none rfl _ _ _) rfl ?_
    exact ⟨rfl,h2,g2⟩
  |cons d b=>
   rw [if_neg (fun e=>by cases e.2)]
   generalize (⟨t.toArray⟩:ByteArray)=A at h⊢
   obtain ⟨B,hB⟩:∃B:ByteArray,(⟨(d::b).toArray⟩:ByteArray)=B:=⟨_,rfl⟩
   have hB':B.data.toList=d::b:=by rw [←hB]
   have hne:¬B.toList=[]:=fun e=>by
    have:=jk B ⟨#[]⟩
    rw [e,hB'] at this
    simp at this
   have hem:B.toList.isEmpty=false:=by
    cases h:B.toList with
    |nil=>exact absurd h hne
    |cons a l=>rfl
   simp only at h⊢
   rw [hB] at h⊢
   have H:=Lib.hid h
   obtain ⟨x0,x1,x2⟩:=bD h
   clear h hB hB'
   rcases hc with rfl|rfl|rfl|rfl|rfl
   all_goals
    go_enter Tryz.func59,Tryz.ntmps59
    go_wp2
    refine bodyPost_ret (results_none rfl _ _ _) rfl ?_
    exact ⟨rfl,H.out,bI (Below.refl _ _) _⟩
 ·rw [if_neg (fun e=>hn e.1)]
  generalize (⟨t.toArray⟩:ByteArray)=A at h⊢
  generalize (⟨b.toArray⟩:ByteArray)=B at h⊢
  have H:=Lib.hid h
  obtain ⟨x0,x1,x2⟩:=bD h
  have b0:((n:Int)==0)=false:=by rw [beq_eq_false_iff_ne];omega
  clear h
  rcases hc with rfl|rfl|rfl|rfl|rfl
  all_goals
   go_enter Tryz.func59,Tryz.ntmps59
   go_wp2
   refine bodyPost_ret (results_none rfl _ _ _) rfl ?_
   exact ⟨rfl,H.out,bI (Below.refl _ _) _⟩
theorem Fg (A:ByteArray) (h:A.data.toList≠[]):¬A.toList=[]∧A.toList.isEmpty=false:=by
 have hne:¬A.toList=[]:=fun e=>by
  have:=jk A ⟨#[]⟩
  cases hl:A.data.toList with
  |nil=>exact h hl
  |cons c t=>
   rw [e,hl] at this
   simp at this
 refine ⟨hne,?_⟩
 cases h:A.toList with
 |nil=>exact absurd h hne
 |cons a l=>rfl
theorem qE (c:UInt8) (h0:c≠0) (hb:lw c=false):(((c.toNat:Nat):Int)==0)=false∧(((c.toNat:Nat):Int)==9)=false∧(((c.toNat:Nat):Int)==10)=false∧(((c.toNat:Nat):Int)==12)=false∧(((c.toNat:Nat):Int)==13)=false∧(((c.toNat:Nat):Int)==32)=false:=by
 have hk:∀d:UInt8,lw d=true→c≠d:=fun d hd e=>by rw [←e,hb] at hd;cases hd
 have k:∀n:Nat,n<256→c≠UInt8.ofNat n→(((c.toNat:Nat):Int)==(n:Int))=false:=fun n hn h=>by
  rw [Is c n hn,beq_eq_false_iff_ne];exact h
 exact ⟨k 0 (by decide) h0,k 9 (by decide) (hk 9 rfl),k 10 (by decide) (hk 10 rfl),k 12 (by decide) (hk 12 rfl),k 13 (by decide) (hk 13 rfl),k 32 (by decide) (hk 32 rfl)⟩
theorem Ck (g:Nat) (n:Nat) (b:ab) (c:UInt8) (keep:Bool) (w:World) (h:dX 51 w g ⟨[],n,b⟩) (h0:c≠0) (hb:lw c=false):Calls Tryz.prog 59 #[.pointer (some ⟨g,0,none⟩),.int .u8 ((c.toNat:Nat):Int),.bool keep] w (fd g ⟨[c],0,[]⟩ w):=by
 obtain ⟨k0,k9,k10,k12,k13,k32⟩:=qE c h0 hb
 unfold fd dX at*
 simp only at h⊢
 have h:cu 51 w g ⟨#[]⟩ n ⟨b.toArray⟩:=h
 generalize (⟨b.toArray⟩:ByteArray)=B at h⊢
 have H:=Lib.hid h
 obtain ⟨x0,x1,x2⟩:=bD h
 have z0:=gq h 0
 have zg:=h.lt
 clear h
 obtain ⟨q,hq⟩:∃q:Int,((c.toNat:Nat):Int)=q:=⟨_,rfl⟩
 have o1:=kr w q c hq
 rw [hq] at k0 k9 k10 k12 k13 k32⊢
 have g1:¬9223372036854775807<(⟨#[]⟩:ByteArray).size+1:=by decide
 have hlt:=c.toNat_lt
 have hq0:0≤q:=by omega
 have hq1:q≤255:=by omega
 obtain ⟨d,hd,hds⟩:∃d:ByteArray,d=⟨#[c]⟩∧d.size=1:=⟨_,rfl,rfl⟩
 rw [←hd] at o1
 have F0:=Lib.hid (qD (H.out.set 0 (.string d) (t':=d) (n':=n) (b':=B) rfl) (.cells #[.int .u8 q] 5))
 have HD:=Lib.hid hd
 clear hq hd hlt h0 hb
 go_enter Tryz.func59,Tryz.ntmps59
 go_wp2
 go_region_with (fail)
 all_goals
  obtain ⟨f1,e1⟩:=F0.out
  have F1:=Lib.hid f1
  have E1:=Lib.hid e1
  clear f1 e1
  go_wp2_with (first
   |(refine aB 51 rfl 3 _ _ rfl g 1 _ d d n 0 B B rfl rfl F1.out (by decide) iW rfl rfl rfl ?_;intro w1 h1 g1;have H1:=Lib.hid h1;have G1:=Lib.hid g1;clear h1 g1)
   |(refine aB 51 rfl 9 _ _ rfl g 2 _ d d 0 0 B ⟨#[]⟩ rfl rfl H1.out (by decide) fc rfl rfl rfl ?_;intro w2 h2 g2))
  refine bodyPost_end (results_none rfl _ _ _) rfl ?_
  exact ⟨rfl,by rw [←HD.out];exact h2,(E1.out.trans G1.out).trans g2⟩
end Go.Proofs.YtpmdcppnlggckaaGreatDoor
namespace Go.Proofs.YtpmdcppnlggckaaGreatDoor
open Go.RowKit Go.Lib
theorem Fh (g : Nat) (f : aH) (c : UInt8) (keep : Bool) (w : World) (h : dX 51 w g f) (hn : f.told ≠ []) (h0 : c ≠ 0) (hb : lw c = false) (hs : f.size ≤ 1073741824) :
    Calls Tryz.prog 59 #[.pointer (some ⟨g, 0, none⟩), .int .u8 ((c.toNat : Nat) : Int), .bool keep] w (fd g ⟨lI f c, 0, []⟩ w) := by
  obtain ⟨k0, k9, k10, k12, k13, k32⟩ := qE c h0 hb
  obtain ⟨t, n, b⟩ := f
  unfold aH.size at hs
  unfold fd dX at *
  unfold lI
  simp only at h hn hs ⊢
  rw [if_neg hn]
  obtain ⟨q, hq⟩ : ∃ q : Int, ((c.toNat : Nat) : Int) = q := ⟨_, rfl⟩
  rw [hq] at k0 k9 k10 k12 k13 k32 ⊢
  have o1 := fun w => Lib.hid (kr w q c hq)
  have hlt := c.toNat_lt
  have hq0 : 0 ≤ q := by omega
  have hq1 : q ≤ 255 := by omega
  obtain ⟨d, hd, hds⟩ : ∃ d : ByteArray, d = ⟨#[c]⟩ ∧ d.size = 1 := ⟨_, rfl, rfl⟩
  rw [← hd] at o1
  obtain ⟨A, hA⟩ : ∃ A : ByteArray, (⟨t.toArray⟩ : ByteArray) = A := ⟨_, rfl⟩
  have hAl : A.data.toList = t := by rw [← hA]
  have hAs : A.size = t.length := by rw [Lib.size_eq, hAl]
  obtain ⟨B, hB⟩ : ∃ B : ByteArray, (⟨b.toArray⟩ : ByteArray) = B := ⟨_, rfl⟩
  have hBl : B.data.toList = b := by rw [← hB]
  have hBs : B.size = b.length := by rw [Lib.size_eq, hBl]
  have HT : Hid (∀ T : ByteArray, T.data.toList = t ++ List.replicate n 10 → (T ++ B) ++ d = ⟨(t ++ List.replicate n 10 ++ b ++ [c]).toArray⟩) := Lib.hid fun T hT => bu (by
    rw [hd]; simp [hT, hBl])
  rw [hA, hB] at h
  obtain ⟨Z, hZ⟩ : ∃ Z : ByteArray, (⟨(t ++ List.replicate n 10 ++ b ++ [c]).toArray⟩ : ByteArray) = Z := ⟨_, rfl⟩
  rw [hZ] at HT ⊢
  obtain ⟨a1, a2⟩ := Fg A (by rw [hAl]; exact hn)
  have hsz : A.size + n + B.size ≤ 1073741824 := by omega
  have H := Lib.hid h
  have HAL := Lib.hid hAl
  obtain ⟨x0, x1, x2⟩ := bD h
  clear h hq hd hlt h0 hb hA hB hBl hZ hn hs hAs hBs hAl
  go_enter Tryz.func59, Tryz.ntmps59
  go_wp2
  clear x0 x1 x2
  go_loopw [6] (fun v wr => ∃ (i : Nat) (T : ByteArray), v = .int .i64 (i : Int) ∧ cu 51 wr g T n B ∧ w.grownBy wr (some g) ∧ i ≤ n ∧ T.size = A.size + i ∧ Hid (T.data.toList = t ++ List.replicate i 10)) (fun v _ => n - (ae v).toNat)
  case atStart => exact ⟨0, A, rfl, H.out, bI (Below.refl _ _) _, Nat.zero_le _, rfl, Lib.hid (by rw [HAL.out]; simp)⟩
  case round =>
    obtain ⟨i, T, rfl, hF, hG, hi, hTs, HTL⟩ := hrel
    have HF := Lib.hid hF
    have HG := Lib.hid hG
    obtain ⟨x0, x1, x2⟩ := bD hF
    have z0 := gq hF 0
    have zg := hF.lt
    by_cases hlt : i < n
    · have g1 : ¬ 9223372036854775807 < T.size + 1 := by omega
      have HTN := Lib.hid (show (T ++ ⟨#[10]⟩).data.toList = t ++ List.replicate (i + 1) 10 from by
        rw [List.replicate_succ']
        simp [HTL.out])
      clear hF hG z0 zg
      go_wp2_with (refine aB 51 rfl 9 _ _ rfl g 0 _ T (T ++ ⟨#[10]⟩) n n B B rfl rfl HF.out (by decide) fc rfl rfl rfl ?_; intro w1 h1 g1; have H1 := Lib.hid h1; have G1 := Lib.hid g1; clear h1 g1)
      go_roundw
      case rel => exact ⟨i + 1, T ++ ⟨#[10]⟩, by go_num, H1.out, HG.out.trans G1.out, by omega, by rw [ByteArray.size_append]; show T.size + 1 = _; omega, HTN⟩
      case measure => simp [ae]; omega
    · obtain rfl : i = n := by omega
      have g1 : ¬ 9223372036854775807 < T.size + B.size := by omega
      go_wp2
      go_region_with (fail)
      all_goals
        have F5 : Hid (cu 51 (wr.setCell ⟨g, 0, none⟩ (.string (T ++ B))).drew g (T ++ B) i B ∧ w.grownBy (wr.setCell ⟨g, 0, none⟩ (.string (T ++ B))).drew (some g)) := Lib.hid (by
          obtain ⟨k1, k2⟩ := HF.out.set 0 (.string (T ++ B)) (t' := T ++ B) (n' := i) (b' := B) rfl
          have h1 : Below (wr.setCell ⟨g, 0, none⟩ (.string (T ++ B))).heap.size (wr.setCell ⟨g, 0, none⟩ (.string (T ++ B))) (wr.setCell ⟨g, 0, none⟩ (.string (T ++ B))).drew := (Below.refl _ _).drew
          exact ⟨k1.below h1, (HG.out.trans k2).trans (bI h1 _)⟩)
        obtain ⟨wx, hwx⟩ : ∃ wx, (wr.setCell ⟨g, 0, none⟩ (.string (T ++ B))).drew = wx := ⟨_, rfl⟩
        rw [hwx] at F5 ⊢
        obtain ⟨f5, e5⟩ := F5.out
        have HF5 := Lib.hid f5
        have HE5 := Lib.hid e5
        clear hwx F5 e5 x0 x1 x2 z0 zg g1
        obtain ⟨x0, x1, x2⟩ := bD f5
        have z0 := gq f5 0
        have zg := f5.lt
        have hTBs : (T ++ B).size ≤ 1073741824 := by rw [ByteArray.size_append]; omega
        have HTB := Lib.hid (HT.out T HTL.out)
        obtain ⟨U, hU⟩ : ∃ U, T ++ B = U := ⟨_, rfl⟩
        rw [hU] at x0 hTBs HF5 HTB ⊢
        have g1 : ¬ 9223372036854775807 < U.size + d.size := by omega
        have o2 := (o1 wx).out
        have F0 := Lib.hid (qD (HF5.out.set 0 (.string (U ++ d)) (t' := U ++ d) (n' := i) (b' := B) rfl) (.cells #[.int .u8 q] 5))
        clear f5 hU o1 hF hG HF
        go_wp2
        go_region_with (fail)
        all_goals
          obtain ⟨f1, e1⟩ := F0.out
          rw [HTB.out] at f1 e1 ⊢
          have F1 := Lib.hid f1
          have E1 := Lib.hid e1
          clear f1 e1
          go_wp2_with (first
            | (refine aB 51 rfl 3 _ _ rfl g 1 _ Z Z i 0 B B rfl rfl F1.out (by decide) iW rfl rfl rfl ?_; intro w1 h1 g1; have H1 := Lib.hid h1; have G1 := Lib.hid g1; clear h1 g1)
            | (refine aB 51 rfl 9 _ _ rfl g 2 _ Z Z 0 0 B ⟨#[]⟩ rfl rfl H1.out (by decide) fc rfl rfl rfl ?_; intro w2 h2 g2))
          refine bodyPost_end (results_none rfl _ _ _) (by rfl) ?_
          exact ⟨rfl, h2, ((HE5.out.trans E1.out).trans G1.out).trans g2⟩
theorem Iu (g:Nat) (f:aH) (c:UInt8) (keep:Bool) (w:World) (h:dX 51 w g f) (hs:f.size≤1073741824):Calls Tryz.prog 59 #[.pointer (some ⟨g,0,none⟩),.int .u8 ((c.toNat:Nat):Int),.bool keep] w (fd g (ir keep f c) w):=by
 unfold ir
 by_cases h0:c=0
 ·rw [if_pos h0,h0];exact Fb g f keep w h
 ·rw [if_neg h0]
  by_cases hb:lw c=true
  ·rw [if_pos hb]
   have hk:=(E9 c).1 hb
   cases keep with
   |true=>
    rw [if_pos rfl]
    by_cases hl:c=10∨c=13
    ·rw [if_pos hl];exact Fd g f c w h hl hs
    ·rw [if_neg hl]
     refine Fc g f c w h ?_ hs
     rcases hk with e|e|e|e|e
     ·exact .inl e
     ·exact absurd (.inl e) hl
     ·exact .inr (.inl e)
     ·exact absurd (.inr e) hl
     ·exact .inr (.inr e)
   |false=>rw [if_neg Bool.false_ne_true];exact Ff g f c w h hk
  ·rw [if_neg hb]
   have hb:lw c=false:=by simpa using hb
   by_cases hn:f.told=[]
   ·obtain ⟨t,n,b⟩:=f
    simp only at hn
    subst hn
    exact Ck g n b c keep w h h0 hb
   ·exact Fh g f c keep w h hn h0 hb hs
end Go.Proofs.YtpmdcppnlggckaaGreatDoor
namespace Go.Proofs.YtpmdcppnlggckaaGreatDoor
open Go.RowKit Go.Lib
theorem Cl (keep:Bool) (f:aH) (s:ab) (i:Nat) (c:UInt8) (h:s[i]? =some c):eE keep f (s.take (i+1))=ir keep (eE keep f (s.take i)) c:=by
 rw [List.take_add_one,h,qC];rfl
theorem Cm (g:Nat) (f:aH) (s:ByteArray) (keep:Bool) (n:Int) (w:World) (h:dX 51 w g f) (hs:f.size+s.size≤1073741824):Calls Tryz.prog 33 #[.pointer (some ⟨g,0,none⟩),.agg #[.int .i64 0,.string s,.bool keep,.int .i64 n]] w (fd g (eE keep f s.data.toList) w):=by
 have C:=fun (f:aH) (c:UInt8) (w:World) (h:dX 51 w g f) (hs:f.size≤1073741824)=>Lib.hid (Iu g f c keep w h hs)
 have H:=Lib.hid h
 have hsz:s.size≤1073741824:=by omega
 have HS:=Lib.hid hs
 have zg:=h.lt
 clear h hs
 obtain ⟨b,hb⟩:∃b,w.heap.size=b:=⟨_,rfl⟩
 obtain ⟨w1,hw1⟩:∃w1,w.alloc (.cells #[.int .i64 0,.string s,.bool keep,.int .i64 n] 60)=w1:=⟨_,rfl⟩
 have B1:=Lib.hid (show Below w.heap.size w w1 by rw [←hw1];exact (Below.refl _ _).alloc (Nat.le_refl _) _)
 have Y:=Lib.hid (show w1.heap[b]? =some (.cells #[.int .i64 0,.string s,.bool keep,.int .i64 n] 60 (0,0)) by rw [←hw1,←hb];exact heap_alloc_new w _)
 have HW:=Lib.hid hw1
 have ne:some b≠some g:=fun e=>by injection e with e;omega
 have NE:=Lib.hid ne
 clear hw1 ne
 go_enter Tryz.func33,Tryz.ntmps33
 go_wp2
 rw [HW.out]
 have HB:=Lib.hid hb
 clear hb
 go_loopw [5] (fun v wr=>∃i:Nat,v= .int .i64 (i:Int)∧i≤s.size∧dX 51 wr g (eE keep f (s.data.toList.take i))∧w1.grownBy wr (some g)) (fun v _=>s.size-(ae v).toNat)
 case atStart=>exact ⟨0,rfl,Nat.zero_le _,by rw [List.take_zero];exact cu.below H.out B1.out,bI (Below.refl _ _) _⟩
 case round=>
  obtain ⟨i,rfl,hi,hF,hG⟩:=hrel
  have Y':=(hG.block b (Array.getElem?_eq_some_iff.1 Y.out).1 NE.out).trans Y.out
  have y1:wr.cell? ⟨b,1,none⟩=some (.string s):=by rw [cell_of_row _ _ _ _ _ _ Y'];rfl
  have y2:wr.cell? ⟨b,2,none⟩=some (.bool keep):=by rw [cell_of_row _ _ _ _ _ _ Y'];rfl
  have HF:=Lib.hid hF
  have HG:=Lib.hid hG
  clear hF hG Y'
  by_cases hlt:i<s.size
  ·have HC:=C (eE keep f (s.data.toList.take i)) s.data[i] wr.drew (cu.below HF.out ((Below.refl _ _).drew)) (by
    have:=gC keep (s.data.toList.take i) f
    have h2:=HS.out
    rw [List.length_take] at this
    omega)
   go_wp2
   go_still_tail 7,(by kernel_rfl)
   change wpList _ _ _ _ _ wr.drew
   obtain ⟨w2,hw2⟩:∃w2,wr.drew=w2:=⟨_,rfl⟩
   have G2:=Lib.hid (show w1.grownBy w2 (some g) from HG.out.trans (bI (by rw [←hw2];exact (Below.refl _ _).drew) _))
   rw [hw2] at HC⊢
   have SN:=Lib.hid (Cl keep f s.data.toList i s.data[i] (by simp))
   clear hw2 y1 y2
   go_wp2_with (go_at_call 59;refine HC.out.mono ?_;rintro e w3 ⟨rfl,h3,g3⟩)
   go_roundw
   case rel=>exact ⟨i+1,by go_num,by omega,by rw [SN.out];exact h3,G2.out.trans g3⟩
   case measure=>simp [ae];omega
  ·obtain rfl:i=s.size:=by omega
   go_wp2
   refine bodyPost_end (results_none rfl _ _ _) (by rfl) ?_
   have e:s.data.toList.take s.size=s.data.toList:=List.take_of_length_le (by rw [Lib.size_eq];exact Nat.le_refl _)
   rw [e] at HF
   exact ⟨rfl,HF.out,(bI B1.out _).trans HG.out⟩
theorem xe (w w1:World) (k n:Int) (s:ByteArray) (keep:Bool) (T:TypeId) (g b:Nat) (hb:w.heap.size=b) (hg:g<b) (h:(w.alloc (.cells #[.int .i64 k,.string s,.bool keep,.int .i64 n] T)).grownBy w1 (some g)):w1.cell? ⟨b,0,none⟩=some (.int .i64 k):=by
 have e:=heap_alloc_new w (.cells #[.int .i64 k,.string s,.bool keep,.int .i64 n] T)
 rw [hb] at e
 have h2:=(h.block b (Array.getElem?_eq_some_iff.1 e).1 (fun e=>by injection e with e;omega)).trans e
 rw [cell_of_row _ _ _ _ _ _ h2];rfl
theorem xg (g:Nat) (f:aH) (s:ByteArray) (keep:Bool) (n:Int) (w:World) (h:dX 51 w g f) (hs:f.size≤1073741824) (hn: -9223372036854775808≤n∧n≤9223372036854775807):Calls Tryz.prog 33 #[.pointer (some ⟨g,0,none⟩),.agg #[.int .i64 1,.string s,.bool keep,.int .i64 n]] w (fd g (lY n f) w):=by
 have hen:f.ends≤1073741824:=by unfold aH.size at hs;omega
 obtain ⟨t,m,b⟩:=f
 unfold fd dX lY at*
 simp only at h hen⊢
 clear hs
 generalize (⟨t.toArray⟩:ByteArray)=A at h⊢
 generalize (⟨b.toArray⟩:ByteArray)=B at h⊢
 have zg:=h.lt
 have B1:=(Below.refl w.heap.size w).alloc (Nat.le_refl _) (.cells #[.int .i64 1,.string s,.bool keep,.int .i64 n] 60)
 have H:=Lib.hid (cu.below h B1)
 obtain ⟨b,hb⟩:∃b,w.heap.size=b:=⟨_,rfl⟩
 have YC:=fun w1=>Lib.hid (xe w w1 1 n s keep 60 g b hb (by omega))
 have B1:=Lib.hid B1
 obtain ⟨x0,x1,x2⟩:=bD H.out
 clear h x0 x2
 by_cases h1:n≤100<;>by_cases h2:(m:Int)<min n 100
 all_goals
  obtain ⟨r,hr⟩:∃r:Nat,max m (min n 100).toNat=r:=⟨_,rfl⟩
  rw [hr]
 ·obtain rfl:(r:Int)=n:=by omega
  have h2:(m:Int)<(r:Int):=by omega
  have hmn:min (r:Int) 100=(r:Int):=by omega
  clear hr
  go_enter Tryz.func33,Tryz.ntmps33
  go_wp2_with (first
   |(refine aB 51 rfl 3 _ _ rfl g 1 _ A A m r B B rfl rfl H.out (by decide) iW rfl rfl rfl ?_;intro w1 h1 g1;have H1:=Lib.hid h1;have G1:=Lib.hid g1;have y0:=(YC w1).out g1;clear h1 g1)
   |(refine aB 51 rfl 9 _ _ rfl g 2 _ A A r r B ⟨#[]⟩ rfl rfl H1.out (by decide) fc rfl rfl rfl ?_;intro w2 h2 g2;have H2:=Lib.hid h2;have G2:=Lib.hid (G1.out.trans g2);have y0:=(YC w2).out (G1.out.trans g2);clear h2 g2))
  refine bodyPost_ret (results_none rfl _ _ _) (by rfl) ?_
  exact ⟨rfl,H2.out,(bI B1.out _).trans G2.out⟩
 focus
  obtain rfl:r=m:=by omega
  have h3:n≤(r:Int):=by omega
 rotate_left
 ·obtain rfl:r=100:=by omega
  have h2:(m:Int)<100:=by omega
  have h1:100<n:=by omega
  have hmn:min n 100=(100:Int):=by omega
  clear hr
  go_enter Tryz.func33,Tryz.ntmps33
  go_wp2_with (first
   |(refine aB 51 rfl 3 _ _ rfl g 1 _ A A m 100 B B rfl rfl H.out (by decide) iW rfl rfl rfl ?_;intro w1 h1 g1;have H1:=Lib.hid h1;have G1:=Lib.hid g1;have y0:=(YC w1).out g1;clear h1 g1)
   |(refine aB 51 rfl 9 _ _ rfl g 2 _ A A 100 100 B ⟨#[]⟩ rfl rfl H1.out (by decide) fc rfl rfl rfl ?_;intro w2 h2 g2;have H2:=Lib.hid h2;have G2:=Lib.hid (G1.out.trans g2);have y0:=(YC w2).out (G1.out.trans g2);clear h2 g2))
  refine bodyPost_ret (results_none rfl _ _ _) (by rfl) ?_
  exact ⟨rfl,H2.out,(bI B1.out _).trans G2.out⟩
 focus
  obtain rfl:r=m:=by omega
  have h3:(100:Int)≤(r:Int):=by omega
  have h1:100<n:=by omega
 rotate_left
 all_goals
  clear hr h2
  go_enter Tryz.func33,Tryz.ntmps33
  go_wp2_with (refine aB 51 rfl 9 _ _ rfl g 2 _ A A r r B ⟨#[]⟩ rfl rfl H.out (by decide) fc rfl rfl rfl ?_;intro w2 h2 g2;have H2:=Lib.hid h2;have G2:=Lib.hid g2;have y0:=(YC w2).out g2;clear h2 g2)
  refine bodyPost_ret (results_none rfl _ _ _) (by rfl) ?_
  exact ⟨rfl,H2.out,(bI B1.out _).trans G2.out⟩
theorem zh (g:Nat) (f:aH) (s:ByteArray) (keep:Bool) (n:Int) (w:World) (h:dX 51 w g f) (hs:f.size≤1073741824):Calls Tryz.prog 33 #[.pointer (some ⟨g,0,none⟩),.agg #[.int .i64 2,.string s,.bool keep,.int .i64 n]] w (fd g (iT f) w):=by
 have hen:f.ends≤1073741824:=by unfold aH.size at hs;omega
 obtain ⟨t,m,b⟩:=f
 unfold fd dX iT at*
 simp only at h hen⊢
 clear hs
 generalize (⟨t.toArray⟩:ByteArray)=A at h⊢
 generalize (⟨b.toArray⟩:ByteArray)=B at h⊢
 have zg:=h.lt
 have B1:=(Below.refl w.heap.size w).alloc (Nat.le_refl _) (.cells #[.int .i64 2,.string s,.bool keep,.int .i64 n] 60)
 have H:=Lib.hid (cu.below h B1)
 obtain ⟨b,hb⟩:∃b,w.heap.size=b:=⟨_,rfl⟩
 have YC:=fun w1=>Lib.hid (xe w w1 2 n s keep 60 g b hb (by omega))
 have B1:=Lib.hid B1
 obtain ⟨x0,x1,x2⟩:=bD H.out
 clear h x0 x2
 go_enter Tryz.func33,Tryz.ntmps33
 go_wp2_with (first
  |(refine aB 51 rfl 3 _ _ rfl g 1 _ A A m (m+1) B B rfl rfl H.out (by decide) iW rfl rfl (by first|rfl|(simp [fN])) ?_;intro w1 h1 g1;have H1:=Lib.hid h1;have G1:=Lib.hid g1;have y0:=(YC w1).out g1;clear h1 g1)
  |(refine aB 51 rfl 9 _ _ rfl g 2 _ A A (m+1) (m+1) B ⟨#[]⟩ rfl rfl H1.out (by decide) fc rfl rfl rfl ?_;intro w2 h2 g2;have H2:=Lib.hid h2;have G2:=Lib.hid (G1.out.trans g2);have y0:=(YC w2).out (G1.out.trans g2);clear h2 g2))
 refine bodyPost_ret (results_none rfl _ _ _) (by rfl) ?_
 exact ⟨rfl,H2.out,(bI B1.out _).trans G2.out⟩
theorem xh (g:Nat) (f:aH) (k:Int) (s:ByteArray) (keep:Bool) (n:Int) (w:World) (h:dX 51 w g f) (h0:(k==0)=false) (h1:(k==1)=false) (h2:(k==2)=false):Calls Tryz.prog 33 #[.pointer (some ⟨g,0,none⟩),.agg #[.int .i64 k,.string s,.bool keep,.int .i64 n]] w (fd g f w):=by
 have B1:=(Below.refl w.heap.size w).alloc (Nat.le_refl _) (.cells #[.int .i64 k,.string s,.bool keep,.int .i64 n] 60)
 have H:=Lib.hid (cu.below h B1)
 have B1:=Lib.hid B1
 clear h
 go_enter Tryz.func33,Tryz.ntmps33
 go_wp2
 refine bodyPost_ret (results_none rfl _ _ _) (by rfl) ?_
 exact ⟨rfl,H.out,bI B1.out _⟩
theorem Cn (g:Nat) (f:aH) (k:Int) (s:ByteArray) (keep:Bool) (n:Int) (w:World) (h:dX 51 w g f) (hs:f.size+s.size≤1073741824) (hn: -9223372036854775808≤n∧n≤9223372036854775807):Calls Tryz.prog 33 #[.pointer (some ⟨g,0,none⟩),.agg #[.int .i64 k,.string s,.bool keep,.int .i64 n]] w (fd g (Ci f ⟨k,s.data.toList,keep,n⟩) w):=by
 unfold Ci
 simp only
 by_cases h0:k=0
 ·rw [if_pos h0,h0];exact Cm g f s keep n w h hs
 ·rw [if_neg h0]
  by_cases h1:k=1
  ·rw [if_pos h1,h1];exact xg g f s keep n w h (by omega) hn
  ·rw [if_neg h1]
   by_cases h2:k=2
   ·rw [if_pos h2,h2];exact zh g f s keep n w h (by omega)
   ·rw [if_neg h2]
    exact xh g f k s keep n w h (by rw [beq_eq_false_iff_ne];exact h0) (by rw [beq_eq_false_iff_ne];exact h1) (by rw [beq_eq_false_iff_ne];exact h2)
end Go.Proofs.YtpmdcppnlggckaaGreatDoor
namespace Go.Proofs.YtpmdcppnlggckaaGreatDoor
open Go.RowKit Go.Lib
abbrev dY:=Nat→Prop
abbrev dw:=World→dY→Prop
structure bv (S:dw):Prop where
 lt:∀{w:World} {F:dY},S w F→∀k,F k→k<w.heap.size
 same:∀{w w':World} {F:dY},S w F→(∀k,F k→w'.heap[k]? =w.heap[k]?)→S w' F
structure bn (F F':dY) (w w':World):Prop where
 os:w'.os=w.os
 tape:w'.tape=w.tape
 output:w'.output=w.output
 size:w.heap.size≤w'.heap.size
 block:∀k,k<w.heap.size→¬F k→w'.heap[k]? =w.heap[k]?
 foot:∀k,F' k→F k∨w.heap.size≤k
theorem bn.refl (F:dY) (w:World):bn F F w w:=⟨rfl,rfl,rfl,Nat.le_refl _,fun _ _ _=>rfl,fun _ h=> .inl h⟩
theorem bn.of_below (F:dY) {w w':World} (h:Below w.heap.size w w'):bn F F w w':=⟨h.os,h.tape,h.output,h.size,fun k hk _=>h.block k hk,fun _ h=> .inl h⟩
theorem bn.of_grown {F:dY} {w w':World} {g:Nat} (h:w.grownBy w' (some g)) (hg:F g):bn F F w w':=
 ⟨h.os,h.tape,h.output,h.size,fun k hk hF=>h.block k hk (fun e=>hF (by rw [Option.some.inj e];exact hg)),fun _ h=> .inl h⟩
theorem bn.trans {F F1 F2:dY} {w w1 w2:World} (h:bn F F1 w w1) (h1:bn F1 F2 w1 w2):bn F F2 w w2:=
 ⟨h1.os.trans h.os,h1.tape.trans h.tape,h1.output.trans h.output,Nat.le_trans h.size h1.size,fun k hk hF=>(h1.block k (Nat.lt_of_lt_of_le hk h.size) (fun e=>(h.foot k e).elim hF (fun e=>by omega))).trans (h.block k hk hF),fun k hk=>(h1.foot k hk).elim (h.foot k) (fun e=> .inr (Nat.le_trans h.size e))⟩
theorem bn.below {F F':dY} {w0 w w':World} {B:Nat} (h:bn F F' w w') (hb:Below B w0 w) (hB:B≤w.heap.size) (hF:∀k,F k→B≤k):Below B w0 w':=
 hb.trans ⟨h.os,h.tape,h.output,h.size,fun k hk=>h.block k (by omega) (fun e=>by have:=hF k e;omega)⟩
def bB (S T:dw):dw:=fun w F=>∃F1 F2,S w F1∧T w F2∧(∀k,F1 k→¬F2 k)∧∀k,F k↔F1 k∨F2 k
def AS:dw:=fun _ F=>∀k,¬F k
theorem bv.emp:bv AS:=⟨fun h k hk=>absurd hk (h k),fun h _=>h⟩
theorem bv.sep {S T:dw} (hS:bv S) (hT:bv T):bv (bB S T):=by
 refine ⟨?_,?_⟩
 ·rintro w F ⟨F1,F2,h1,h2,-,hF⟩ k hk
  exact ((hF k).1 hk).elim (hS.lt h1 k) (hT.lt h2 k)
 ·rintro w w' F ⟨F1,F2,h1,h2,hd,hF⟩ hk
  exact ⟨F1,F2,hS.same h1 (fun k h=>hk k ((hF k).2 (.inl h))),hT.same h2 (fun k h=>hk k ((hF k).2 (.inr h))),hd,hF⟩
def au (w0 w:World) (S:dw):Prop:=Below w0.heap.size w0 w∧∃F,S w F∧∀k,F k→w0.heap.size≤k
theorem au.bel {w0 w:World} {S:dw} (h:au w0 w S):Below w0.heap.size w0 w:=h.1
theorem au.nothing (w:World):au w w AS:=⟨Below.refl _ w,fun _=>False,fun _ h=>h,fun _ h=>h.elim⟩
theorem au.none {w0 w:World} (h:Below w0.heap.size w0 w):au w0 w AS:=⟨h,fun _=>False,fun _ h=>h,fun _ h=>h.elim⟩
theorem au.below {w0 w w':World} {S:dw} (h:au w0 w S) (hL:bv S) (hb:Below w.heap.size w w'):au w0 w' S:=by
 obtain ⟨h0,F,hS,hF⟩:=h
 exact ⟨h0.trans (hb.mono h0.size),F,hL.same hS (fun k hk=>hb.block k (hL.lt hS k hk)),hF⟩
theorem au.turn {w0 w:World} {S T R:dw} (h:au w0 w (bB S (bB T R))):au w0 w (bB T (bB S R)):=by
 obtain ⟨h0,F,⟨F1,F2,h1,⟨F3,F4,h3,h4,hd2,hF2⟩,hd,hF⟩,hB⟩:=h
 refine ⟨h0,F,⟨F3,fun k=>F1 k∨F4 k,h3,⟨F1,F4,h1,h4,fun k a b=>hd k a ((hF2 k).2 (.inr b)),fun _=>Iff.rfl⟩,fun k a b=>b.elim (fun b=>hd k b ((hF2 k).2 (.inl a))) (fun b=>hd2 k a b),fun k=>?_⟩,hB⟩
 rw [hF,hF2]
 exact ⟨fun h=>h.elim (fun h=> .inr (.inl h)) (fun h=>h.elim .inl (fun h=> .inr (.inr h))),fun h=>h.elim (fun h=> .inr (.inl h)) (fun h=>h.elim .inl (fun h=> .inr (.inr h)))⟩
def eA (S T:dw):Prop:=∀w F,S w F→T w F
theorem eA.turn (S T R:dw):eA (bB S (bB T R)) (bB T (bB S R)):=by
 rintro w F ⟨F1,F2,h1,⟨F3,F4,h3,h4,hd2,hF2⟩,hd,hF⟩
 refine ⟨F3,fun k=>F1 k∨F4 k,h3,⟨F1,F4,h1,h4,fun k a b=>hd k a ((hF2 k).2 (.inr b)),fun _=>Iff.rfl⟩,fun k a b=>b.elim (fun b=>hd k b ((hF2 k).2 (.inl a))) (fun b=>hd2 k a b),fun k=>?_⟩
 rw [hF,hF2]
 exact ⟨fun h=>h.elim (fun h=> .inr (.inl h)) (fun h=>h.elim .inl (fun h=> .inr (.inr h))),fun h=>h.elim (fun h=> .inr (.inl h)) (fun h=>h.elim .inl (fun h=> .inr (.inr h)))⟩
theorem eA.right {T T':dw} (S:dw) (h:eA T T'):eA (bB S T) (bB S T'):=by
 rintro w F ⟨F1,F2,h1,h2,hd,hF⟩
 exact ⟨F1,F2,h1,h w F2 h2,hd,hF⟩
theorem au.imp {w0 w:World} {S T:dw} (h:au w0 w S) (hi:eA S T):au w0 w T:=by
 obtain ⟨h0,F,h1,hB⟩:=h
 exact ⟨h0,F,hi w F h1,hB⟩
theorem au.third {w0 w:World} {A B C R:dw} (h:au w0 w (bB A (bB B (bB C R)))):au w0 w (bB C (bB A (bB B R))):=(h.imp (eA.right A (eA.turn B C R))).imp (eA.turn A C _)
theorem au.back {w0 w:World} {A B C R:dw} (h:au w0 w (bB C (bB A (bB B R)))):au w0 w (bB A (bB B (bB C R))):=(h.imp (eA.turn C A _)).imp (eA.right A (eA.turn C B R))
theorem au.rest {w0 w:World} {S T:dw} (h:au w0 w (bB S T)):au w0 w T:=by
 obtain ⟨h0,F,⟨F1,F2,h1,h2,hd,hF⟩,hB⟩:=h
 exact ⟨h0,F2,h2,fun k hk=>hB k ((hF k).2 (.inr hk))⟩
theorem au.first {w0 w:World} {S T:dw} (h:au w0 w (bB S T)):∃F,S w F∧(∀k,F k→w0.heap.size≤k)∧∀w' S' F',bv T→S' w' F'→bn F F' w w'→au w0 w' (bB S' T):=by
 obtain ⟨h0,F,⟨F1,F2,h1,h2,hd,hF⟩,hB⟩:=h
 refine ⟨F1,h1,fun k hk=>hB k ((hF k).2 (.inl hk)),fun w' S' F' hT hS' hm=>?_⟩
 have hlt:=fun k hk=>hT.lt h2 k hk
 refine ⟨hm.below h0 h0.size (fun k hk=>hB k ((hF k).2 (.inl hk))),fun k=>F' k∨F2 k,⟨F',F2,hS',hT.same h2 (fun k hk=>hm.block k (hlt k hk) (fun e=>hd k e hk)),fun k a b=>(hm.foot k a).elim (fun e=>hd k e b) (fun e=>by have:=hlt k b;omega),fun _=>Iff.rfl⟩,fun k hk=>?_⟩
 rcases hk with hk|hk
 ·exact (hm.foot k hk).elim (fun e=>hB k ((hF k).2 (.inl e))) (fun e=>Nat.le_trans h0.size e)
 ·exact hB k ((hF k).2 (.inr hk))
theorem au.more {w0 w w':World} {S T:dw} (h:au w0 w T) (hT:bv T) (hb:Below w.heap.size w w') {F:dY} (hS:S w' F) (hn:∀k,F k→w.heap.size≤k):au w0 w' (bB S T):=by
 obtain ⟨h0,F2,h2,hF2⟩:=h
 refine ⟨h0.trans (hb.mono h0.size),fun k=>F k∨F2 k,⟨F,F2,hS,hT.same h2 (fun k hk=>hb.block k (hT.lt h2 k hk)),fun k a b=>by have:=hn k a;have:=hT.lt h2 k b;omega,fun _=>Iff.rfl⟩,fun k hk=>?_⟩
 exact hk.elim (fun e=>Nat.le_trans h0.size (hn k e)) (hF2 k)
theorem au.call {P:Program} {f:Nat} {args:Array Value} {w0 w:World} {S S' T:dw} {Q:Ending→Prop} (h:au w0 w (bB S T)) (hT:bv T) (hc:∀F,S w F→Calls P f args w fun e w'=>Q e∧∃F',S' w' F'∧bn F F' w w'):Calls P f args w fun e w'=>Q e∧au w0 w' (bB S' T):=by
 obtain ⟨F,hS,-,hk⟩:=h.first
 refine (hc F hS).mono ?_
 rintro e w' ⟨hq,F',hS',hm⟩
 exact ⟨hq,hk w' S' F' hT hS' hm⟩
end Go.Proofs.YtpmdcppnlggckaaGreatDoor
namespace Go.Proofs.YtpmdcppnlggckaaGreatDoor
open Go.RowKit Go.Lib
def pa (g:Nat) (f:aH):dw:=fun w F=>dX 51 w g f∧∀k,F k↔k=g
theorem iX (g:Nat) (f:aH):bv (pa g f):=by
 refine ⟨?_,?_⟩
 ·rintro w F ⟨h,hF⟩ k hk
  rw [(hF k).1 hk];exact cu.lt h
 ·rintro w w' F ⟨h,hF⟩ hk
  exact ⟨(hk g ((hF g).2 rfl)).trans h,hF⟩
def Kn (a:Ir):Value:= .agg #[.int .i64 a.kind,.string ⟨a.s.toArray⟩,.bool a.keep,.int .i64 a.n]
theorem lZ (w0 w:World) (g:Nat) (f:aH) (R:dw) (hR:bv R) (h:au w0 w (bB (pa g f) R)) (a:Ir) (hs:f.size+a.s.length≤1073741824) (ha:Lg a):Calls Tryz.prog 33 #[.pointer (some ⟨g,0,none⟩),Kn a] w fun e w'=>e= .returned (.tuple #[])∧au w0 w' (bB (pa g (Ci f a)) R):=by
 refine au.call h hR fun F hF=>?_
 obtain ⟨h1,h2⟩:=hF
 have hsz:(⟨a.s.toArray⟩:ByteArray).size=a.s.length:=by rw [Lib.size_eq,List.toList_toArray]
 refine (Cn g f a.kind ⟨a.s.toArray⟩ a.keep a.n w h1 (by omega) ha).mono ?_
 rintro e w' ⟨rfl,h3,hg⟩
 rw [show (⟨a.s.toArray⟩:ByteArray).data.toList=a.s by rw [List.toList_toArray]] at h3
 exact ⟨rfl,F,⟨h3,h2⟩,bn.of_grown hg ((h2 g).2 rfl)⟩
theorem Cp {w0 w:World} {R:dw} (h:au w0 w R) (hR:bv R):au w0 (w.alloc (.cells #[.string ⟨#[]⟩,.int .i64 0,.string ⟨#[]⟩] 51)) (bB (pa w.heap.size uD) R):=
 h.more hR ((Below.refl w.heap.size w).alloc (Nat.le_refl _) _) (S:=pa w.heap.size uD) (F:=fun k=>k=w.heap.size) ⟨heap_alloc_new w _,fun _=>Iff.rfl⟩ (fun k hk=>by omega)
theorem Cq {w0 w:World} {g:Nat} {f:aH} {R:dw} (h:au w0 w (bB (pa g f) R)):w.cell? ⟨g,0,none⟩=some (.string ⟨f.told.toArray⟩):=by
 obtain ⟨F,hF,-,-⟩:=h.first
 exact (bD hF.1).1
def cn (b:Nat) (o:Obj):dw:=fun w F=>w.heap[b]? =some o∧∀k,F k↔k=b
theorem aF (b:Nat) (o:Obj):bv (cn b o):=by
 refine ⟨?_,?_⟩
 ·rintro w F ⟨h,hF⟩ k hk
  rw [(hF k).1 hk];exact (Array.getElem?_eq_some_iff.1 h).1
 ·rintro w w' F ⟨h,hF⟩ hk
  exact ⟨(hk b ((hF b).2 rfl)).trans h,hF⟩
theorem fC {w0 w:World} {R:dw} (h:au w0 w R) (hR:bv R) (o:Obj):au w0 (w.alloc o) (bB (cn w.heap.size o) R):=
 h.more hR ((Below.refl w.heap.size w).alloc (Nat.le_refl _) _) (S:=cn w.heap.size o) (F:=fun k=>k=w.heap.size) ⟨heap_alloc_new w _,fun _=>Iff.rfl⟩ (fun k hk=>by omega)
theorem dA {w0 w:World} {b:Nat} {o:Obj} {R:dw} (h:au w0 w (bB (cn b o) R)):w.heap[b]? =some o:=by
 obtain ⟨F,hF,-,-⟩:=h.first
 exact hF.1
end Go.Proofs.YtpmdcppnlggckaaGreatDoor
namespace Go.Proofs.YtpmdcppnlggckaaGreatDoor
open Go.RowKit
theorem jE (g:Nat) (t:TypeId) (fz:Nat × Nat):∀(vs:List Value) (o:Nat) (cur:Array Value) (w:World),w.heap[g]? =some (.cells cur t fz)→o+vs.length≤cur.size→(w.setCells g o vs).heap[g]? =some (.cells (cur.toList.take o++vs++cur.toList.drop (o+vs.length)).toArray t fz)
 |[],o,cur,w,hg,_=>by
  show w.heap[g]? =_
  rw [hg]
  simp only [List.append_nil,List.length_nil,Nat.add_zero,List.take_append_drop,Array.toArray_toList]
 |v::rest,o,cur,w,hg,hl=>by
  simp only [List.length_cons] at hl
  have h1:(w.setCell ⟨g,o,none⟩ v).heap[g]? =some (.cells (cur.setIfInBounds o v) t fz):=by
   rw [setCell_eq_setRow w g o cur t fz v hg]
   exact setRow_heap w g cur _ t fz hg
  have ih:=jE g t fz rest (o+1) (cur.setIfInBounds o v) (w.setCell ⟨g,o,none⟩ v) h1 (by simp;omega)
  show ((w.setCell ⟨g,o,none⟩ v).setCells g (o+1) rest).heap[g]? =_
  rw [ih]
  have e:=list_seg_step cur.toList o v rest (by simp;omega)
  simp only [Array.toList_setIfInBounds,List.length_cons]
  rw [e]
theorem iu (g:Nat):∀(vs:List Value) (o:Nat) (w:World),w.grownBy (w.setCells g o vs) (some g)
 |[],_,w=>World.grownBy.refl w _
 |v::rest,o,w=>by
  have ih:=iu g rest (o+1) (w.setCell ⟨g,o,none⟩ v)
  refine ⟨ih.os,ih.tape,ih.output,?_,fun k hk hne=>?_⟩
  ·have hs:(w.setCell ⟨g,o,none⟩ v).heap.size=w.heap.size:=by simp [World.setCell]
   have:=ih.size
   rw [hs] at this
   exact this
  ·rw [show (w.setCells g o (v::rest))=(w.setCell ⟨g,o,none⟩ v).setCells g (o+1) rest from rfl,ih.block k (by simpa [World.setCell] using hk) hne]
   exact heap_setCell_other w ⟨g,o,none⟩ k v (fun e=>hne (by rw [e]))
section
variable {P:Program} (w:World)
theorem uE (t tx ty e:TypeId) (i:TypeInfo) (z:Value) (ht:P.underlying t=some (.slice e)) (hi:P.info? e=some i) (hz:i.zero=some z) (hsize:i.size=1) (hby:i.bytes=1) (hzs:z.cells.size=1) (v:Value) (n:Nat) (xs:List Value) (hown:w.ownsRowF 0 e 1 v n xs) (x:Value) (m:Nat) (news:List Value) (hs:Src P 1 tx x m news w) (h63:n+m≤140737488355328):∃v' w',(Builtin.append_ #[t,tx] ty #[v,x]).run P w= .ok v' w'∧w'.ownsRowF 0 e 1 v' (n+m) (xs++news)∧w.grownBy w' v.ownBlock∧(v'.ownBlock=v.ownBlock∨v'.ownBlock=some w.heap.size):=by
 have hml:n+m≤maxLen:=by unfold maxLen;omega
 have hsmall:((n+m:Nat):Int)≤9223372036854775807:=by omega
 have hlen:(xs++news).length=(n+m)*1:=by rw [List.length_append,hown.1,hs.newsLen,Nat.add_mul]
 have hs':Src P i.size tx x m news w:=by rw [hsize];exact hs
 rcases hown.2 with ⟨rfl,rfl⟩|⟨g,cap,cur,fz,rfl,hbg,hg,hfz,hnc,hcm,hcs,htake⟩
 focus
  have hx0:xs=[]:=List.eq_nil_of_length_eq_zero (by rw [hown.1])
  subst hx0
  by_cases hm:m=0
 ·subst hm
  have hn0:news=[]:=List.eq_nil_of_length_eq_zero (by rw [hs.newsLen])
  subst hn0
  refine ⟨.slice none 0 0,w,?_,⟨by simp,.inl ⟨rfl,rfl⟩⟩,World.grownBy.refl w _,.inl rfl⟩
  have hc:=hs'.cells
  rcases hs.kind with ⟨e',hk⟩|hk<;>simp [Builtin.append_,run_underlying ht,run_underlying hk,sizeOf,typeInfo,hi,hs.len,hc]
 focus
  have hr:=run_append_grow_src (P:=P) w t tx ty e i z ht hi hz none 0 0 [] (run_firstCells_none w.drew i.size 0 0 0) x m news hs' (by omega) hsmall (growslice_fits (by omega) (by rw [hby];omega))
  have hg2:=grownCap_ge w (0+m) 0 e
  have hm2:grownCap w (0+m) 0 e≤maxLen:=grownCap_le_maxLen w (0+m) 0 e hml
 rotate_left
 focus
  by_cases hroom:n+m≤cap
 ·have hfit:n*i.size+news.length≤cur.size:=by (rw [hs.newsLen,hcs,hsize];(try omega))
  have hr:=run_append_room_src (P:=P) w t tx ty e i ht hi g 0 n cap x m news hs' hroom (fun j hj=>by
   simp only [World.cell?,hg,Nat.zero_add]
   rw [Array.getElem?_eq_getElem (by omega)]
   rfl) (fun j hj=>by
   obtain ⟨lo,hi'⟩:=fz
   simp only [World.frozen?,hg,Nat.zero_add,Bool.and_eq_false_iff,decide_eq_false_iff_not]
   simp only at hfz
   rw [hsize]
   omega)
  rw [Nat.zero_add,hsize] at hr
  rw [hsize] at hfit
  have hh:=jE g e fz news (n*1) cur w hg hfit
  refine ⟨_,_,hr,⟨hlen,.inr ⟨g,cap,_,fz,rfl,hbg,hh,by omega,hroom,hcm,?_,?_⟩⟩,iu g news (n*1) w,.inl rfl⟩
  ·simp only [List.size_toArray,List.length_append,List.length_take,List.length_drop,Array.length_toList]
   omega
  ·rw [htake,←hlen]
   exact List.take_left
 focus
  have holds:=hown.cells (g:=g) rfl
  have hr:=run_append_grow_src (P:=P) w t tx ty e i z ht hi hz (some ⟨g,0,none⟩) n cap xs (run_firstCells_some w.drew i.size n ⟨g,0,none⟩ n cap xs (by rw [hsize];exact hown.1) (by simpa using holds)) x m news hs' (by omega) hsmall (growslice_fits (by omega) (by rw [hby];omega))
  have hg2:=grownCap_ge w (n+m) cap e
  have hm2:grownCap w (n+m) cap e≤maxLen:=grownCap_le_maxLen w (n+m) cap e hml
 rotate_left
 all_goals
  refine ⟨_,_,hr,⟨hlen,.inr ⟨w.heap.size,_,_,(0,0),rfl,Nat.zero_le _,heap_alloc_new w.drew _,Nat.zero_le _,hg2,hm2,?_,?_⟩⟩,⟨rfl,rfl,rfl,by simp,fun k hk _=>Below.heap_alloc w.drew _ k hk⟩,.inr rfl⟩
  ·simp only [Array.size_append,List.size_toArray,size_zeroCells,hzs,hlen]
   omega
  ·simp only [Array.toList_append,List.append_assoc]
   rw [←List.append_assoc,←hlen]
   exact List.take_left
theorem jM {ops:Array Oper} {rest:List Oper} {o:Oper} {a:Act} {Q:Exit→Act→World→Prop} (hgd:o.guard=none) (sl x:Operand) (t tx:TypeId) (ho:o.op= .call {callee:= .builtin .append,args:=#[sl,x],argTypes:=#[t,tx]}) (e:TypeId) (i:TypeInfo) (z:Value) (ht:P.underlying t=some (.slice e)) (hi:P.info? e=some i) (hz:i.zero=some z) (hsize:i.size=1) (hby:i.bytes=1) (hzs:z.cells.size=1) (v:Value) (n:Nat) (xs:List Value) (hv:a.eval sl=v) (hown:w.ownsRowF 0 e 1 v n xs) (xv:Value) (m:Nat) (news:List Value) (hx:a.eval x=xv) (hs:Src P 1 tx xv m news w) (h63:n+m≤140737488355328) (h:∀v' w',w'.ownsRowF 0 e 1 v' (n+m) (xs++news)→w.grownBy w' v.ownBlock→(v'.ownBlock=v.ownBlock∨v'.ownBlock=some w.heap.size)→wpList P ops Q rest (a.put o.dst v') w'):wpList P ops Q (o::rest) a w:=by
 refine wpList_plain hgd fun K hK=>?_
 obtain ⟨v',w',hr,h2,h3,h4⟩:=uE (P:=P) w t tx o.type e i z ht hi hz hsize hby hzs v n xs hown xv m news hs h63
 unfold Oper.wp execOp
 simp only [ho,resolve,invoke,builtin,Sem.run_bind,Sem.run_pure,Result.andThen_ok,List.map_toArray,List.map_cons,List.map_nil,hv,hx,hr]
 exact hK _ _ (h v' w' h2 h3 h4)
end
end Go.Proofs.YtpmdcppnlggckaaGreatDoor
namespace Go.Proofs.YtpmdcppnlggckaaGreatDoor
open Go.RowKit Go.Lib
theorem mU : (Tryz.prog.info? 72).map (·.size) = some 2 := by kernel_rfl
theorem uF:liesAt Tryz.prog Tryz.prog.depth 113 (4/Tryz.prog.cellsOf 113) 0 72 1=true:=by kernel_rfl
theorem k5:(Tryz.prog.info? 5).map (fun i=>(i.zero,i.size,i.bytes))=some (some (.int .u8 0),1,1):=by kernel_rfl
theorem zi:Tryz.prog.cellsOf 5=1:=by kernel_rfl
theorem k6 {w w':World} {base:Nat} {e:TypeId} {size:Nat} {v:Value} {n:Nat} {xs:List Value} (h:w.ownsRowF base e size v n xs) (hk:∀k,v.ownBlock=some k→w'.heap[k]? =w.heap[k]?):w'.ownsRowF base e size v n xs:=by
 refine ⟨h.1,?_⟩
 rcases h.2 with hn|⟨g,cap,cur,fz,rfl,hb,hg,rest⟩
 ·exact .inl hn
 ·exact .inr ⟨g,cap,cur,fz,rfl,hb,(hk g rfl).trans hg,rest⟩
theorem kt {w w':World} {base:Nat} {e:TypeId} {size:Nat} {v:Value} {n:Nat} {xs:List Value} (h:w.ownsRow base e size v n xs) (hk:∀k,v.ownBlock=some k→w'.heap[k]? =w.heap[k]?):w'.ownsRow base e size v n xs:=by
 refine ⟨h.1,?_⟩
 rcases h.2 with hn|⟨g,cap,cur,rfl,hb,hg,rest⟩
 ·exact .inl hn
 ·exact .inr ⟨g,cap,cur,rfl,hb,(hk g rfl).trans hg,rest⟩
theorem uG {w:World} {base:Nat} {e:TypeId} {size:Nat} {v:Value} {n:Nat} {xs:List Value} (h:w.ownsRowF base e size v n xs) (k:Nat) (hk:v.ownBlock=some k):k<w.heap.size:=(h.lt k hk).2
theorem zj {w:World} {base:Nat} {e:TypeId} {size:Nat} {v:Value} {n:Nat} {xs:List Value} (h:w.ownsRow base e size v n xs) (k:Nat) (hk:v.ownBlock=some k):k<w.heap.size:=(h.lt k hk).2
structure bf (w:World) (b:Nat) (p v1:Value) (n:Nat) (v2:Value) (t l:ab):Prop where
 blk:w.heap[b]? =some (.cells #[p,v1,.int .i64 (n:Int),v2] 113 (0,0))
 ptr:p= .pointer none∨p= .pointer (some ⟨b,0,none⟩)
 told:w.ownsRowF 0 5 1 v1 t.length (Lib.byteCells t)
 blanks:w.ownsRow 0 5 1 v2 l.length (Lib.byteCells l)
 apart:∀k,v1.ownBlock=some k→v2.ownBlock≠some k
 bare:t=[]→v1= .slice none 0 0
def dt (b:Nat) (v1 v2:Value):dY:=fun k=>k=b∨v1.ownBlock=some k∨v2.ownBlock=some k
def ku (g:Addr) (f:aH):dw:=fun w F=>∃b p v1 v2,g=⟨b,0,none⟩∧bf w b p v1 f.ends v2 f.told f.blanks∧∀k,F k↔dt b v1 v2 k
section
variable {w w':World} {b:Nat} {p v1:Value} {n:Nat} {v2:Value} {t l:ab}
theorem bf.ltb (h:bf w b p v1 n v2 t l):b<w.heap.size:=(Array.getElem?_eq_some_iff.1 h.blk).1
theorem bf.ne1 (h:bf w b p v1 n v2 t l):v1.ownBlock≠some b:=Lib.ownBlock_neF h.told h.blk (by decide)
theorem bf.ne2 (h:bf w b p v1 n v2 t l):v2.ownBlock≠some b:=Lib.ownBlock_ne h.blanks h.blk (by decide)
theorem bf.lt (h:bf w b p v1 n v2 t l):∀k,dt b v1 v2 k→k<w.heap.size:=by
 rintro k (rfl|hk|hk)
 ·exact h.ltb
 ·exact uG h.told k hk
 ·exact zj h.blanks k hk
theorem bf.same (h:bf w b p v1 n v2 t l) (hk:∀k,dt b v1 v2 k→w'.heap[k]? =w.heap[k]?):bf w' b p v1 n v2 t l:=
 ⟨(hk b (.inl rfl)).trans h.blk,h.ptr,k6 h.told (fun k e=>hk k (.inr (.inl e))),kt h.blanks (fun k e=>hk k (.inr (.inr e))),h.apart,h.bare⟩
theorem bf.cells (h:bf w b p v1 n v2 t l):w.cell? ⟨b,0,none⟩=some p∧w.cell? ⟨b,1,none⟩=some v1∧w.cell? ⟨b,2,none⟩=some (.int .i64 (n:Int))∧w.cell? ⟨b,3,none⟩=some v2:=by
 refine ⟨?_,?_,?_,?_⟩<;>(rw [Lib.cell_of_heap h.blk];rfl)
theorem bf.thawed (h:bf w b p v1 n v2 t l) (i:Nat):w.frozen? ⟨b,i,none⟩=false:=Lib.frozen_of_heap h.blk i
theorem bf.shape (h:bf w b p v1 n v2 t l):w.shape? b=some (113,4):=by simp [World.shape?,h.blk]
theorem bf.form1 (h:bf w b p v1 n v2 t l):∃a cap,v1= .slice a t.length cap:=by
 rcases h.told.2 with ⟨e,e0⟩|⟨g,cap,cur,fz,e,_⟩
 ·exact ⟨none,0,by rw [e,e0]⟩
 ·exact ⟨_,cap,e⟩
theorem bf.form2 (h:bf w b p v1 n v2 t l):(v2= .slice none 0 0∧l.length=0)∨∃g cap,v2= .slice (some ⟨g,0,none⟩) l.length cap∧l.length≤cap∧cap≤maxLen:=by
 rcases h.blanks.2 with ⟨e,e0⟩|⟨g,cap,cur,e,_,_,hc,hm,_⟩
 ·exact .inl ⟨e,e0⟩
 ·exact .inr ⟨g,cap,e,hc,hm⟩
theorem nZ {w w2:World} {b:Nat} {v1 v2 v1' v2':Value} {row:Option Nat} (hg:w.grownBy w2 row) (hrow:∀k,row=some k→dt b v1 v2 k) (hf:∀k,dt b v1' v2' k→dt b v1 v2 k∨w.heap.size≤k) (i:Nat) (u:Value):bn (dt b v1 v2) (dt b v1' v2') w (w2.setCell ⟨b,i,none⟩ u):=by
 refine ⟨hg.os,hg.tape,hg.output,by simpa [World.setCell] using hg.size,fun k hk hF=>?_,hf⟩
 rw [Below.heap_setCell w2 ⟨b,i,none⟩ u k (fun e=>hF (.inl e))]
 exact hg.block k hk (fun e=>hF (hrow k e.symm))
theorem k8 {w:World} {b:Nat} {v1 v2:Value} (i:Nat) (u:Value):bn (dt b v1 v2) (dt b v1 v2) w (w.setCell ⟨b,i,none⟩ u):=
 nZ (World.grownBy.refl w none) (fun _ e=>by cases e) (fun _ h=> .inl h) i u
theorem bf.other (h:bf w b p v1 n v2 t l) (i:Nat) (u:Value):(w.setCell ⟨b,i,none⟩ u).ownsRowF 0 5 1 v1 t.length (Lib.byteCells t)∧(w.setCell ⟨b,i,none⟩ u).ownsRow 0 5 1 v2 l.length (Lib.byteCells l):=
 ⟨k6 h.told (fun k e=>Below.heap_setCell w ⟨b,i,none⟩ u k (fun e2=>h.ne1 (by rw [e,e2]))),kt h.blanks (fun k e=>Below.heap_setCell w ⟨b,i,none⟩ u k (fun e2=>h.ne2 (by rw [e,e2])))⟩
theorem bf.used (h:bf w b p v1 n v2 t l):bf (w.setCell ⟨b,0,none⟩ (.pointer (some ⟨b,0,none⟩))) b (.pointer (some ⟨b,0,none⟩)) v1 n v2 t l:=
 ⟨Go.heap_setCell_same w b 0 _ _ _ h.blk,.inr rfl,(h.other 0 _).1,(h.other 0 _).2,h.apart,h.bare⟩
theorem bf.waits (h:bf w b p v1 n v2 t l) (m:Nat):bf (w.setCell ⟨b,2,none⟩ (.int .i64 (m:Int))) b p v1 m v2 t l:=
 ⟨Go.heap_setCell_same w b 2 _ _ _ h.blk,h.ptr,(h.other 2 _).1,(h.other 2 _).2,h.apart,h.bare⟩
theorem bf.grow1 {w2:World} {v1':Value} {t':ab} (h:bf w b p v1 n v2 t l) (hg:w.grownBy w2 v1.ownBlock) (ho:w2.ownsRowF 0 5 1 v1' t'.length (Lib.byteCells t')) (hl:∀k,v1'.ownBlock=some k→v1.ownBlock=some k∨w.heap.size≤k) (hb:t'=[]→v1'= .slice none 0 0):bf (w2.setCell ⟨b,1,none⟩ v1') b p v1' n v2 t' l∧bn (dt b v1 v2) (dt b v1' v2) w (w2.setCell ⟨b,1,none⟩ v1'):=by
 have hb2:w2.heap[b]? =some (.cells #[p,v1,.int .i64 (n:Int),v2] 113 (0,0)):=(hg.block b h.ltb (fun e=>h.ne1 e.symm)).trans h.blk
 have hne:∀k,v1'.ownBlock=some k→k≠b:=fun k e e2=>by
  rcases hl k e with h1|h1
  ·exact h.ne1 (by rw [h1,e2])
  ·have:=h.ltb;omega
 refine ⟨⟨Go.heap_setCell_same w2 b 1 _ _ _ hb2,h.ptr,k6 ho (fun k e=>Below.heap_setCell w2 ⟨b,1,none⟩ _ k (hne k e)),?_,fun k e=>?_,hb⟩,nZ hg (fun k e=> .inr (.inl e)) ?_ 1 _⟩
 ·refine kt h.blanks (fun k e=>?_)
  rw [Below.heap_setCell w2 ⟨b,1,none⟩ _ k (fun e2=>h.ne2 (by rw [e,e2]))]
  exact hg.block k (zj h.blanks k e) (fun e2=>h.apart k e2.symm e)
 ·rcases hl k e with h1|h1
  ·exact h.apart k h1
  ·intro e2
   have:=zj h.blanks k e2
   omega
 ·rintro k (e|e|e)
  ·exact .inl (.inl e)
  ·exact (hl k e).elim (fun x=> .inl (.inr (.inl x))) .inr
  ·exact .inl (.inr (.inr e))
theorem bf.grow2 {w2:World} {v2':Value} {l':ab} (h:bf w b p v1 n v2 t l) (hg:w.grownBy w2 v2.ownBlock) (ho:w2.ownsRow 0 5 1 v2' l'.length (Lib.byteCells l')) (hl:∀k,v2'.ownBlock=some k→v2.ownBlock=some k∨w.heap.size≤k):bf (w2.setCell ⟨b,3,none⟩ v2') b p v1 n v2' t l'∧bn (dt b v1 v2) (dt b v1 v2') w (w2.setCell ⟨b,3,none⟩ v2'):=by
 have hb2:w2.heap[b]? =some (.cells #[p,v1,.int .i64 (n:Int),v2] 113 (0,0)):=(hg.block b h.ltb (fun e=>h.ne2 e.symm)).trans h.blk
 have hne:∀k,v2'.ownBlock=some k→k≠b:=fun k e e2=>by
  rcases hl k e with h1|h1
  ·exact h.ne2 (by rw [h1,e2])
  ·have:=h.ltb;omega
 refine ⟨⟨Go.heap_setCell_same w2 b 3 _ _ _ hb2,h.ptr,?_,kt ho (fun k e=>Below.heap_setCell w2 ⟨b,3,none⟩ _ k (hne k e)),fun k e=>?_,h.bare⟩,nZ hg (fun k e=> .inr (.inr e)) ?_ 3 _⟩
 ·refine k6 h.told (fun k e=>?_)
  rw [Below.heap_setCell w2 ⟨b,3,none⟩ _ k (fun e2=>h.ne1 (by rw [e,e2]))]
  exact hg.block k (uG h.told k e) (fun e2=>h.apart k e e2.symm)
 ·intro e2
  rcases hl k e2 with h1|h1
  ·exact h.apart k e h1
  ·have:=uG h.told k e
   omega
 ·rintro k (e|e|e)
  ·exact .inl (.inl e)
  ·exact .inl (.inr (.inl e))
  ·exact (hl k e).elim (fun x=> .inl (.inr (.inr x))) .inr
end
theorem cx (g:Addr) (f:aH):bv (ku g f):=by
 refine ⟨?_,?_⟩
 ·rintro w F ⟨b,p,v1,v2,rfl,h,hF⟩ k hk
  exact h.lt k ((hF k).1 hk)
 ·rintro w w' F ⟨b,p,v1,v2,rfl,h,hF⟩ hk
  exact ⟨b,p,v1,v2,rfl,h.same (fun k e=>hk k ((hF k).2 e)),hF⟩
theorem pz {g:Addr} {f:aH} {w:World} {F:dY} (h:ku g f w F):∃b p v1 v2,g=⟨b,0,none⟩∧bf w b p v1 f.ends v2 f.told f.blanks∧F=dt b v1 v2:=by
 obtain ⟨b,p,v1,v2,e,h1,hF⟩:=h
 exact ⟨b,p,v1,v2,e,h1,funext fun k=>propext (hF k)⟩
theorem Fi (b:Nat) (w:World) (h0:w.cell? ⟨b,0,none⟩=some (.pointer (some ⟨b,0,none⟩))):Calls Tryz.prog 76 #[.pointer (some ⟨b,0,none⟩)] w fun e w'=>e= .returned (.tuple #[])∧w=w':=by
 obtain ⟨j,hj,_⟩:=Option.map_eq_some_iff.1 mU
 go_enter Tryz.func76,Tryz.ntmps76
 go_wp2
 rw [Lib.run_neq_ptr_same w _ Tryz.underlying70 hj]
 go_wp2
 go_end0
 exact ⟨rfl,rfl⟩
theorem Cr (b:Nat) (w:World) (h0:w.cell? ⟨b,0,none⟩=some (.pointer none)) (hsh:w.shape? b=some (113,4)) (hfz:w.frozen? ⟨b,0,none⟩=false):Calls Tryz.prog 76 #[.pointer (some ⟨b,0,none⟩)] w fun e w'=>e= .returned (.tuple #[])∧w'=w.setCell ⟨b,0,none⟩ (.pointer (some ⟨b,0,none⟩)):=by
 obtain ⟨j,hj,hjs⟩:=Option.map_eq_some_iff.1 mU
 go_enter Tryz.func76,Tryz.ntmps76
 go_wp2
 rw [Lib.run_to_unsafe w ⟨b,0,none⟩ Tryz.underlying70 Tryz.underlying121 hj (by rw [hjs];decide) hsh (Nat.zero_lt_succ 3)]
 simp only [Result.andThen]
 rw [Oper.upon_value]
 go_wp2
 rw [run_callFunc_extern Tryz.func119 (by kernel_rfl) (by kernel_rfl) (by kernel_rfl) (e:=Extern.AbiNoEscape.same) (by kernel_rfl)]
 rw [Lib.run_noEscape]
 simp only [Result.andThen]
 rw [Oper.upon_value]
 go_wp2
 rw [Lib.run_from_unsafe w ⟨b,0,none⟩ Tryz.underlying121 Tryz.underlying70 hj hsh uF]
 simp only [Result.andThen]
 rw [Oper.upon_value]
 go_wp2
 go_end0
 exact ⟨rfl,rfl⟩
theorem LU {w:World} {b:Nat} {p v1:Value} {n:Nat} {v2:Value} {t l:ab} (h:bf w b p v1 n v2 t l):Calls Tryz.prog 76 #[.pointer (some ⟨b,0,none⟩)] w fun e w'=>e= .returned (.tuple #[])∧bf w' b (.pointer (some ⟨b,0,none⟩)) v1 n v2 t l∧bn (dt b v1 v2) (dt b v1 v2) w w':=by
 rcases h.ptr with e|e
 ·refine (Cr b w (by rw [h.cells.1,e]) h.shape (h.thawed 0)).mono ?_
  rintro x w' ⟨rfl,rfl⟩
  exact ⟨rfl,h.used,k8 0 _⟩
 ·refine (Fi b w (by rw [h.cells.1,e])).mono ?_
  rintro x w' ⟨rfl,rfl⟩
  exact ⟨rfl,by rw [←e];exact h,bn.refl _ _⟩
theorem s8 (c:UInt8) (q:Int) (hq:(c.toNat:Int)=q):Lib.byteCells [c]=[Value.int .u8 q]:=by rw [←hq];rfl
theorem Iv {w:World} {tx:TypeId} (ht:Tryz.prog.underlying tx=some (.slice 5)) (a:Addr) (q:Int) (h:w.cell? a=some (.int .u8 q)):Src Tryz.prog 1 tx (.slice (some a) 1 1) 1 [.int .u8 q] w:=by
 refine Src.ofSlice w ht a 1 1 _ rfl (fun j u hj=>?_) (fun u hu=>?_)
 ·match j,hj with
  |0,hj=>simp at hj;subst hj;simpa [Addr.add] using h
 ·simp at hu;subst hu;rfl
theorem qF {w:World} {b:Nat} {p v1:Value} {n:Nat} {v2:Value} {t l:ab} (h:bf w b p v1 n v2 t l) (c:UInt8) (q:Int) (hq:(c.toNat:Int)=q) (ht:t.length≤2147483648):Calls Tryz.prog 48 #[.pointer (some ⟨b,0,none⟩),.int .u8 q] w fun e w'=>e= .returned .nilIface∧∃p' v1',bf w' b p' v1' n v2 (t++[c]) l∧bn (dt b v1 v2) (dt b v1' v2) w w':=by
 obtain ⟨i0,hi,hz0,hz1,hz2⟩:=info_parts k5
 have HQ:=Lib.hid (s8 c q hq)
 have CC:=Lib.hid (LU h)
 clear h hq
 go_enter Tryz.func48,Tryz.ntmps48
 go_wp2_with (go_at_call 76;refine CC.out.mono ?_)
 rintro e w1 ⟨rfl,h1,m1⟩
 have H1:=Lib.hid h1
 have M1:=Lib.hid m1
 obtain ⟨c0,c1,c2,c3⟩:=h1.cells
 have s1:=Iv (w:=w1.alloc (.cells #[.int .u8 q] 5)) (tx:=22) Tryz.underlying22 ⟨w1.heap.size,0,none⟩ q (by rw [Lib.cell_of_heap (heap_alloc_new w1 _)];rfl)
 have S1:=Lib.hid s1
 clear h1 m1 c0 c2 c3 s1
 go_wp2_with (at_builtin;refine jM _ rfl _ _ 22 22 rfl 5 i0 (.int .u8 0) Tryz.underlying22 hi hz0 hz1 hz2 rfl _ _ _ rfl (World.ownsRowF.alloc H1.out.told _) _ _ _ rfl S1.out (by omega) ?_)
 intro v' w2 hown hgrow hloc
 have hG:w1.grownBy w2 v1.ownBlock:=(World.grownBy_alloc w1 _ _).trans hgrow
 have hL:∀k,v'.ownBlock=some k→v1.ownBlock=some k∨w1.heap.size≤k:=fun k e=>by
  rcases hloc with x|x
  ·exact .inl (by rw [←x,e])
  ·rw [e] at x;injection x with x;exact .inr (by rw [x];simp)
 have hO:w2.ownsRowF 0 5 1 v' (t++[c]).length (Lib.byteCells (t++[c])):=by
  rw [List.length_append,Lib.byteCells_append,HQ.out];exact hown
 obtain ⟨x1,x2⟩:=H1.out.grow1 (t':=t++[c]) hG hO hL (fun e=>by simp at e)
 have X1:=Lib.hid x1
 have X2:=Lib.hid (M1.out.trans x2)
 have hb2:w2.heap[b]? =w1.heap[b]? :=hG.block b H1.out.ltb (fun e=>H1.out.ne1 e.symm)
 have d1:w2.cell? ⟨b,1,none⟩=some v1:=by rw [Lib.cell_of_heap (hb2.trans H1.out.blk)];rfl
 have f1:w2.frozen? ⟨b,1,none⟩=false:=Lib.frozen_of_heap (hb2.trans H1.out.blk) 1
 clear hown hgrow hloc hG hL hO x1 x2 hb2
 obtain ⟨a,m,cap,e⟩:∃a m cap,v'= .slice a m cap:=by
  obtain ⟨a,cap,e⟩:=X1.out.form1
  exact ⟨a,_,cap,e⟩
 subst e
 go_wp2
 go_ret
 exact ⟨rfl,_,_,X1.out,X2.out⟩
theorem zl {w:World} {b:Nat} {p v1:Value} {n:Nat} {v2:Value} {t l:ab} (h:bf w b p v1 n v2 t l):Src Tryz.prog 1 22 v2 l.length (Lib.byteCells l) w:=by
 rcases h.blanks.2 with ⟨rfl,e0⟩|⟨g,cap,cur,rfl,_,_⟩
 ·have:l=[]:=List.eq_nil_of_length_eq_zero e0
  subst this
  exact Src.ofNil w Tryz.underlying22 0
 ·refine Src.ofSlice w Tryz.underlying22 ⟨g,0,none⟩ l.length cap _ (by simp [Lib.byteCells]) (h.blanks.cells (g:=g) rfl) (fun u hu=>?_)
  obtain ⟨c,_,rfl⟩:=List.mem_map.1 hu
  rfl
theorem Ko {w:World} {b:Nat} {p v1:Value} {n:Nat} {v2:Value} {t l:ab} (h:bf w b p v1 n v2 t l) (hne:t≠[]) (ht:t.length+l.length≤2147483648):Calls Tryz.prog 200 #[.pointer (some ⟨b,0,none⟩),v2] w fun e w'=>e= .returned (.tuple #[.int .i64 (l.length:Int),.nilIface])∧∃p' v1',bf w' b p' v1' n v2 (t++l) l∧bn (dt b v1 v2) (dt b v1' v2) w w':=by
 obtain ⟨i0,hi,hz0,hz1,hz2⟩:=info_parts k5
 have HN:=Lib.hid hne
 have CC:=Lib.hid (LU h)
 obtain ⟨a2,cap2,e2⟩:∃a cap,v2= .slice a l.length cap:=by
  rcases h.form2 with ⟨e,e0⟩|⟨g,cap,e,_⟩
  ·exact ⟨none,0,by rw [e,e0]⟩
  ·exact ⟨_,cap,e⟩
 subst e2
 clear h hne
 go_enter Tryz.func200,Tryz.ntmps200
 go_wp2_with (go_at_call 76;refine CC.out.mono ?_)
 rintro e w1 ⟨rfl,h1,m1⟩
 have H1:=Lib.hid h1
 have M1:=Lib.hid m1
 obtain ⟨c0,c1,c2,c3⟩:=h1.cells
 have S1:=Lib.hid (zl h1)
 clear h1 m1 c0 c2 c3
 go_wp2_with (at_builtin;refine jM _ rfl _ _ 22 22 rfl 5 i0 (.int .u8 0) Tryz.underlying22 hi hz0 hz1 hz2 rfl _ _ _ rfl H1.out.told _ _ _ rfl S1.out (by omega) ?_)
 intro v' w2 hown hG hloc
 have hL:∀k,v'.ownBlock=some k→v1.ownBlock=some k∨w1.heap.size≤k:=fun k e=>by
  rcases hloc with x|x
  ·exact .inl (by rw [←x,e])
  ·rw [e] at x;injection x with x;exact .inr (by rw [x];exact Nat.le_refl _)
 have hO:w2.ownsRowF 0 5 1 v' (t++l).length (Lib.byteCells (t++l)):=by
  rw [List.length_append,Lib.byteCells_append];exact hown
 obtain ⟨x1,x2⟩:=H1.out.grow1 (t':=t++l) hG hO hL (fun e=>absurd (List.append_eq_nil_iff.1 e).1 HN.out)
 have X1:=Lib.hid x1
 have X2:=Lib.hid (M1.out.trans x2)
 have hb2:w2.heap[b]? =w1.heap[b]? :=hG.block b H1.out.ltb (fun e=>H1.out.ne1 e.symm)
 have d1:w2.cell? ⟨b,1,none⟩=some v1:=by rw [Lib.cell_of_heap (hb2.trans H1.out.blk)];rfl
 have f1:w2.frozen? ⟨b,1,none⟩=false:=Lib.frozen_of_heap (hb2.trans H1.out.blk) 1
 clear hown hloc hG hL hO x1 x2 hb2
 obtain ⟨a,m,cap,e⟩:∃a m cap,v'= .slice a m cap:=by
  obtain ⟨a,cap,e⟩:=X1.out.form1
  exact ⟨a,_,cap,e⟩
 subst e
 go_wp2
 go_ret2
 exact ⟨rfl,_,_,X1.out,X2.out⟩
theorem LL {w:World} {b:Nat} {p v1:Value} {n:Nat} {v2:Value} {t l:ab} (h:bf w b p v1 n v2 t l):Calls Tryz.prog 199 #[.pointer (some ⟨b,0,none⟩)] w fun e w'=>e= .returned (.int .i64 (t.length:Int))∧w'=w:=by
 obtain ⟨a,cap,e⟩:=h.form1
 subst e
 obtain ⟨c0,c1,c2,c3⟩:=h.cells
 clear h
 go_enter Tryz.func199,Tryz.ntmps199
 go_wp2
 go_ret
 exact ⟨rfl,rfl⟩
theorem bf.froze {w:World} {b:Nat} {p:Value} {n:Nat} {v2:Value} {t l:ab} {g cap:Nat} (h:bf w b p (.slice (some ⟨g,0,none⟩) t.length cap) n v2 t l):bf (w.freeze ⟨g,0,none⟩ t.length) b p (.slice (some ⟨g,0,none⟩) t.length cap) n v2 t l∧bn (dt b (.slice (some ⟨g,0,none⟩) t.length cap) v2) (dt b (.slice (some ⟨g,0,none⟩) t.length cap) v2) w (w.freeze ⟨g,0,none⟩ t.length):=by
 have hgb:g≠b:=fun e=>h.ne1 (by simp [Value.ownBlock,e])
 have hoth:∀k,k≠g→(w.freeze ⟨g,0,none⟩ t.length).heap[k]? =w.heap[k]? :=fun k hk=>by
  unfold World.freeze
  split
  ·rfl
  ·simp only [Array.getElem?_modify]
   rw [if_neg (fun e=>hk e.symm)]
 refine ⟨⟨(hoth b (fun e=>hgb e.symm)).trans h.blk,h.ptr,?_,kt h.blanks (fun k e=>hoth k (fun e2=>h.apart g rfl (by rw [e,e2]))),h.apart,h.bare⟩,?_⟩
 ·refine ⟨h.told.1,?_⟩
  rcases h.told.2 with ⟨hv,_⟩|⟨g',cap',cur,fz,hv,hbg,hg,hfz,rest⟩
  ·cases hv
  ·injection hv with ha _ hcap
   injection ha with ha
   injection ha with hgg _ _
   subst hgg
   subst hcap
   unfold World.freeze
   split
   ·exact .inr ⟨g,_,cur,fz,rfl,hbg,hg,hfz,rest⟩
   ·obtain ⟨lo,hi⟩:=fz
    refine .inr ⟨g,_,cur,(if lo==hi then (0,0+t.length) else (min lo 0,max hi (0+t.length))),rfl,hbg,?_,?_,rest⟩
    ·simp [Array.getElem?_modify,hg]
    ·simp only at hfz
     split<;>simp<;>omega
 ·refine ⟨?_,?_,?_,?_,fun k hk hF=>hoth k (fun e=>hF (.inr (.inl (by rw [e];rfl)))),fun _ h=> .inl h⟩
  all_goals (unfold World.freeze;split<;>simp)
theorem bf.drew {w:World} {b:Nat} {p v1:Value} {n:Nat} {v2:Value} {t l:ab} (h:bf w b p v1 n v2 t l):bf w.drew b p v1 n v2 t l:=h.same (fun _ _=>rfl)
theorem l5 (F:dY) (w:World):bn F F w w.drew:=bn.of_below F (Below.refl _ w).drew
theorem Iw {w:World} {b:Nat} {p v1:Value} {n:Nat} {v2:Value} {t l:ab} (h:bf w b p v1 n v2 t l):Calls Tryz.prog 46 #[.pointer (some ⟨b,0,none⟩)] w fun e w'=>e= .returned (.string ⟨t.toArray⟩)∧bf w' b p v1 n v2 t l∧bn (dt b v1 v2) (dt b v1 v2) w w':=by
 by_cases h0:t=[]
 ·have e:=h.bare h0
  subst e;subst h0
  have hUS:∀(W:World),(Builtin.unsafeString_ #[107,3] 9 #[.pointer none,.int .i64 0]).run Tryz.prog W= .ok (.string .empty) W:=fun W=>Lib.run_unsafeString_none W _ _ _ none
  have hSD:(Builtin.unsafeSliceData_ #[22] 107 #[.slice none 0 0]).run Tryz.prog w.drew= .ok (.pointer none) w.drew:=rfl
  have H:=Lib.hid h
  obtain ⟨c0,c1,c2,c3⟩:=h.drew.cells
  clear h c0 c2 c3
  go_enter Tryz.func46,Tryz.ntmps46
  go_wp2
  go_region
  all_goals (go_wp2;go_ret;exact ⟨rfl,H.out.drew,l5 _ _⟩)
 ·obtain ⟨g,cap,e,hc⟩:∃g cap,v1= .slice (some ⟨g,0,none⟩) t.length cap∧t.length≤cap:=by
   rcases h.told.2 with ⟨_,e⟩|⟨g,cap,cur,fz,e,_,_,_,hc,_⟩
   ·exact absurd (List.eq_nil_of_length_eq_zero e) h0
   ·exact ⟨g,cap,e,hc⟩
  subst e
  have hl0:t.length≠0:=fun e=>h0 (List.eq_nil_of_length_eq_zero e)
  have hSD:(Builtin.unsafeSliceData_ #[22] 107 #[.slice (some ⟨g,0,none⟩) t.length cap]).run Tryz.prog w.drew= .ok (.pointer (some ⟨g,0,none⟩)) w.drew:=
   Lib.run_unsafeSliceData_row _ _ _ _ _ _ (by omega)
  have hUS:(Builtin.unsafeString_ #[107,3] 9 #[.pointer (some ⟨g,0,none⟩),.int .i64 t.length]).run Tryz.prog w.drew= .ok (.string ⟨t.toArray⟩) (w.drew.freeze ⟨g,0,none⟩ t.length):=by
   rcases h.told.2 with ⟨hv,_⟩|⟨g',cap',cur,fz,hv,hbg,hg,hfz,hnc,hcm,hcs,_⟩
   ·cases hv
   ·injection hv with ha _ hcap
    injection ha with ha
    injection ha with hgg _ _
    subst hgg
    refine Lib.run_unsafeString_row w.drew 107 3 9 5 Tryz.underlying107 zi g cur.size (by have hg':w.drew.heap[g]? =some (.cells cur 5 fz):=hg;simp [World.shape?,hg']) t h0 (by omega) (by unfold maxLen at hcm;omega) ?_
    intro j x hx
    exact h.drew.told.cells (g:=g) rfl j (.int .u8 x.toNat) (by simp [Lib.byteCells,hx])
  obtain ⟨x1,x2⟩:=h.drew.froze
  have X1:=Lib.hid x1
  have X2:=Lib.hid ((l5 _ _).trans x2)
  obtain ⟨c0,c1,c2,c3⟩:=h.drew.cells
  clear h c0 c2 c3 x1 x2 h0
  go_enter Tryz.func46,Tryz.ntmps46
  go_wp2
  go_region
  all_goals (go_wp2;go_ret;exact ⟨rfl,X1.out,X2.out⟩)
theorem Fj {w:World} {b:Nat} {p v1:Value} {n:Nat} {v2:Value} {t l:ab} (h:bf w b p v1 n v2 t l):Calls Tryz.prog 172 #[.pointer (some ⟨b,0,none⟩)] w fun e w'=>e= .returned (.tuple #[])∧∃v2',bf w' b p v1 n v2' t []∧bn (dt b v1 v2) (dt b v1 v2') w w':=by
 obtain ⟨c0,c1,c2,c3⟩:=h.cells
 have f3:=h.thawed 3
 rcases h.blanks.2 with ⟨rfl,e0⟩|⟨g,cap,cur,rfl,hb,hg,hn,hm,hs,ht⟩
 ·obtain ⟨x1,x2⟩:=h.grow2 (v2':= .slice none 0 0) (l':=[]) (World.grownBy.refl w _) (World.ownsRow_nil w 0 _ 1) (fun k e=> .inl e)
  have X1:=Lib.hid x1
  have X2:=Lib.hid x2
  clear h c0 c1 c2 x1 x2
  go_enter Tryz.func172,Tryz.ntmps172
  go_wp2
  refine bodyPost_end (results_none rfl _ _ _) rfl ?_
  exact ⟨rfl,_,X1.out,X2.out⟩
 ·obtain ⟨x1,x2⟩:=h.grow2 (v2':= .slice (some ⟨g,0,none⟩) 0 cap) (l':=[]) (World.grownBy.refl w _) ⟨rfl,.inr ⟨g,cap,cur,rfl,hb,hg,Nat.zero_le _,hm,hs,by simp [Lib.byteCells]⟩⟩ (fun k e=> .inl e)
  have X1:=Lib.hid x1
  have X2:=Lib.hid x2
  have hm2:(cap:Int)≤9223372036854775807:=by unfold maxLen at hm;omega
  have hn2:(0:Int)≤(cap:Int):=by omega
  clear h c0 c1 c2 x1 x2 hb hg hm hs ht hn
  go_enter Tryz.func172,Tryz.ntmps172
  go_wp2
  refine bodyPost_end (results_none rfl _ _ _) rfl ?_
  exact ⟨rfl,_,X1.out,X2.out⟩
theorem s9 {w:World} {b:Nat} {p v1:Value} {n:Nat} {v2:Value} {t l:ab} (h:bf w b p v1 n v2 t l) (hn:n≤2147483648):Calls Tryz.prog 146 #[.pointer (some ⟨b,0,none⟩)] w fun e w'=>e= .returned (.tuple #[])∧∃v2',bf w' b p v1 (n+1) v2' t []∧bn (dt b v1 v2) (dt b v1 v2') w w':=by
 obtain ⟨c0,c1,c2,c3⟩:=h.cells
 have f2:=h.thawed 2
 have C:=Lib.hid (Fj (h.waits (n+1)))
 have M:=Lib.hid (k8 (w:=w) (b:=b) (v1:=v1) (v2:=v2) 2 (.int .i64 ((n+1:Nat):Int)))
 clear h c0 c1 c3
 go_enter Tryz.func146,Tryz.ntmps146
 go_wp2_with (go_at_call 172;refine C.out.mono ?_;rintro e w' ⟨rfl,v2',x1,x2⟩;have X1:=Lib.hid x1;have X2:=Lib.hid (M.out.trans x2);clear x1 x2)
 refine bodyPost_end (results_none rfl _ _ _) rfl ?_
 exact ⟨rfl,v2',X1.out,X2.out⟩
theorem zm {w:World} {b:Nat} {p v1:Value} {n:Nat} {v2:Value} {t l:ab} (h:bf w b p v1 n v2 t l) (m:Int) (hn:n≤2147483648) (hm: -9223372036854775808≤m∧m≤9223372036854775807):Calls Tryz.prog 148 #[.pointer (some ⟨b,0,none⟩),.int .i64 m] w fun e w'=>e= .returned (.tuple #[])∧∃v2',bf w' b p v1 (max n (min m 100).toNat) v2' t []∧bn (dt b v1 v2) (dt b v1 v2') w w':=by
 obtain ⟨c0,c1,c2,c3⟩:=h.cells
 have f2:=h.thawed 2
 obtain ⟨r,hr⟩:∃r:Nat,max n (min m 100).toNat=r:=⟨_,rfl⟩
 rw [hr]
 have C:=Lib.hid (Fj (h.waits r))
 have M:=Lib.hid (k8 (w:=w) (b:=b) (v1:=v1) (v2:=v2) 2 (.int .i64 (r:Int)))
 clear h c0 c1 c3
 by_cases h1:m≤100<;>by_cases h2:(n:Int)<min m 100
 focus
  obtain rfl:m=(r:Int):=by omega
  have h2:(n:Int)<(r:Int):=by omega
  have e1:min (r:Int) 100=(r:Int):=by omega
  have e2:max (n:Int) (r:Int)=(r:Int):=by omega
 rotate_left
 focus
  obtain rfl:r=n:=by omega
  have h2:m≤(r:Int):=by omega
  have e1:min m 100=m:=by omega
  have e2:max (r:Int) m=(r:Int):=by omega
 rotate_left
 focus
  obtain rfl:r=100:=by omega
  have h2:(n:Int)<100:=by omega
  have h1:100<m:=by omega
  have e1:min m 100=100:=by omega
  have e2:max (n:Int) 100=100:=by omega
 rotate_left
 focus
  obtain rfl:r=n:=by omega
  have h2:(100:Int)≤(r:Int):=by omega
  have h1:100<m:=by omega
  have e1:min m 100=100:=by omega
  have e2:max (r:Int) 100=(r:Int):=by omega
 rotate_left
 all_goals
  clear hr
  go_enter Tryz.func148,Tryz.ntmps148
  go_wp2_with (go_at_call 172;refine C.out.mono ?_;rintro e w' ⟨rfl,v2',x1,x2⟩;have X1:=Lib.hid x1;have X2:=Lib.hid (M.out.trans x2);clear x1 x2)
  refine bodyPost_end (results_none rfl _ _ _) rfl ?_
  exact ⟨rfl,v2',X1.out,X2.out⟩
end Go.Proofs.YtpmdcppnlggckaaGreatDoor
namespace Go.Proofs.YtpmdcppnlggckaaGreatDoor
open Go.RowKit Go.Lib
def dB (keep:Bool) (c:UInt8):Nat:=
 if c=0 then 175
 else if c=10∨c=13 then (if keep=true then 176 else 177)
 else if c=9∨c=12∨c=32 then (if keep=true then 178 else 177)
 else 179
theorem n8 (c:UInt8) (q:Int) (hq:(c.toNat:Int)=q) (k:Nat) (hk:k<256) (h:c≠UInt8.ofNat k):(q==(k:Int))=false:=by
 rw [beq_eq_false_iff_ne]
 intro e
 exact h (aQ c k hk (by omega))
theorem Fk (keep:Bool) (c:UInt8) (q:Int) (w:World) (hq:(c.toNat:Int)=q):Calls Tryz.prog 150 #[.int .u8 q,.bool keep] w fun e w'=>e= .returned (.func (.func (dB keep c)) #[] #[])∧w'=w:=by
 by_cases h0:c=0
 ·subst h0
  obtain rfl:q=0:=by rw [←hq];rfl
  have e:dB keep 0=175:=rfl
  rw [e]
  clear hq e
  go_enter Tryz.func150,Tryz.ntmps150
  go_wp2
  go_ret
  exact ⟨rfl,rfl⟩
 by_cases h1:c=10∨c=13
 ·rcases h1 with rfl|rfl
  all_goals
   subst hq
   simp only [show (((10:UInt8).toNat:Nat):Int)=10 from rfl,show (((13:UInt8).toNat:Nat):Int)=13 from rfl]
   cases keep
   all_goals
    simp only [show dB false 10=177 from rfl,show dB false 13=177 from rfl,show dB true 10=176 from rfl,show dB true 13=176 from rfl]
    clear h0
    go_enter Tryz.func150,Tryz.ntmps150
    go_wp2
    go_ret
    exact ⟨rfl,rfl⟩
 by_cases h2:c=9∨c=12∨c=32
 ·rcases h2 with rfl|rfl|rfl
  all_goals
   subst hq
   simp only [show (((9:UInt8).toNat:Nat):Int)=9 from rfl,show (((12:UInt8).toNat:Nat):Int)=12 from rfl,show (((32:UInt8).toNat:Nat):Int)=32 from rfl]
   cases keep
   all_goals
    simp only [show dB false 9=177 from rfl,show dB false 12=177 from rfl,show dB false 32=177 from rfl,show dB true 9=178 from rfl,show dB true 12=178 from rfl,show dB true 32=178 from rfl]
    clear h0 h1
    go_enter Tryz.func150,Tryz.ntmps150
    go_wp2
    go_ret
    exact ⟨rfl,rfl⟩
 have e:dB keep c=179:=by unfold dB;rw [if_neg h0,if_neg h1,if_neg h2]
 rw [e]
 have b0:=n8 c q hq 0 (by decide) h0
 have b9:=n8 c q hq 9 (by decide) (fun x=>h2 (.inl x))
 have b10:=n8 c q hq 10 (by decide) (fun x=>h1 (.inl x))
 have b12:=n8 c q hq 12 (by decide) (fun x=>h2 (.inr (.inl x)))
 have b13:=n8 c q hq 13 (by decide) (fun x=>h1 (.inr x))
 have b32:=n8 c q hq 32 (by decide) (fun x=>h2 (.inr (.inr x)))
 clear hq e h0 h1 h2
 go_enter Tryz.func150,Tryz.ntmps150
 go_wp2
 go_ret
 exact ⟨rfl,rfl⟩
def Kp (w:World) (b:Nat) (v1 v2:Value) (f:aH) (e:Ending) (w':World):Prop:=
 e= .returned (.tuple #[])∧∃p' v1' v2',bf w' b p' v1' f.ends v2' f.told f.blanks∧bn (dt b v1 v2) (dt b v1' v2') w w'
theorem Lh {w:World} {b:Nat} {p v1:Value} {n:Nat} {v2:Value} {t l:ab} (h:bf w b p v1 n v2 t l) (q:Int):Calls Tryz.prog 175 #[.pointer (some ⟨b,0,none⟩),.int .u8 q] w (Kp w b v1 v2 ⟨t,n,l⟩):=by
 have H:=Lib.hid h
 clear h
 go_enter Tryz.func175,Tryz.ntmps175
 go_wp2
 refine bodyPost_end (results_none rfl _ _ _) rfl ?_
 exact ⟨rfl,_,_,_,H.out,bn.refl _ _⟩
theorem LM {w:World} {b:Nat} {p v1:Value} {n:Nat} {v2:Value} {t l:ab} (h:bf w b p v1 n v2 t l) (hn:n≤2147483648) (q:Int):Calls Tryz.prog 176 #[.pointer (some ⟨b,0,none⟩),.int .u8 q] w (Kp w b v1 v2 ⟨t,n+1,[]⟩):=by
 have C:=Lib.hid (s9 h hn)
 clear h
 go_enter Tryz.func176,Tryz.ntmps176
 go_wp2_with (go_at_call 146;refine C.out.mono ?_;rintro e w' ⟨rfl,v2',x1,x2⟩;have X1:=Lib.hid x1;have X2:=Lib.hid x2;clear x1 x2)
 refine bodyPost_end (results_none rfl _ _ _) rfl ?_
 exact ⟨rfl,_,_,_,X1.out,X2.out⟩
theorem Li {w:World} {b:Nat} {p v1:Value} {n:Nat} {v2:Value} {t l:ab} (h:bf w b p v1 n v2 t l) (hl:l.length≤2147483648) (c:UInt8) (q:Int) (hq:(c.toNat:Int)=q):Calls Tryz.prog 178 #[.pointer (some ⟨b,0,none⟩),.int .u8 q] w (Kp w b v1 v2 ⟨t,n,l++[c]⟩):=by
 obtain ⟨i0,hi,hz0,hz1,hz2⟩:=info_parts k5
 have HQ:=Lib.hid (s8 c q hq)
 have H:=Lib.hid h
 obtain ⟨c0,c1,c2,c3⟩:=h.cells
 clear h hq c0 c1 c2
 go_enter Tryz.func178,Tryz.ntmps178
 go_wp2_with (at_builtin;refine wpList_append_own_at _ rfl _ _ 22 rfl 0 5 i0 (.int .u8 0) 1 1 Tryz.underlying22 hi hz0 hz1 hz2 rfl (by decide) _ _ _ rfl (H.out.blanks.alloc _) ⟨w.heap.size,0,none⟩ 1 1 [.int .u8 q] rfl rfl (cell_one_new _ _ _) ?c2 ?c3 ?c4 (Nat.zero_le _) ?_)
 case c2=>intro u hu;simp at hu;subst hu;rfl
 case c3=>unfold maxLen;omega
 case c4=>omega
 intro v' w2 hown hgrow _ hloc
 have hG:w.grownBy w2 v2.ownBlock:=(World.grownBy_alloc w _ _).trans hgrow
 have hL:∀k,v'.ownBlock=some k→v2.ownBlock=some k∨w.heap.size≤k:=fun k e=>by
  rcases hloc with x|x
  ·exact .inl (by rw [←x,e])
  ·rw [e] at x;injection x with x;exact .inr (by rw [x];simp)
 have hO:w2.ownsRow 0 5 1 v' (l++[c]).length (Lib.byteCells (l++[c])):=by
  rw [List.length_append,Lib.byteCells_append,HQ.out];exact hown
 obtain ⟨x1,x2⟩:=H.out.grow2 (l':=l++[c]) hG hO hL
 have X1:=Lib.hid x1
 have X2:=Lib.hid x2
 have hb2:w2.heap[b]? =w.heap[b]? :=hG.block b H.out.ltb (fun e=>H.out.ne2 e.symm)
 have d1:w2.cell? ⟨b,3,none⟩=some v2:=by rw [Lib.cell_of_heap (hb2.trans H.out.blk)];rfl
 have f1:w2.frozen? ⟨b,3,none⟩=false:=Lib.frozen_of_heap (hb2.trans H.out.blk) 3
 clear hown hgrow hloc hG hL hO x1 x2 hb2
 obtain ⟨a,m,cap,e⟩:∃a m cap,v'= .slice a m cap:=by
  rcases X1.out.form2 with ⟨e,_⟩|⟨g,cap,e,_⟩<;>exact ⟨_,_,_,e⟩
 subst e
 go_wp2
 refine bodyPost_end (results_none rfl _ _ _) rfl ?_
 exact ⟨rfl,_,_,_,X1.out,X2.out⟩
theorem Lk {w:World} {b:Nat} {p v1:Value} {n:Nat} {v2:Value} {t l:ab} (h:bf w b p v1 n v2 t l) (q:Int):Calls Tryz.prog 177 #[.pointer (some ⟨b,0,none⟩),.int .u8 q] w (Kp w b v1 v2 (if n=0∧l=[] then ⟨t,0,[32]⟩ else ⟨t,n,l⟩)):=by
 obtain ⟨i0,hi,hz0,hz1,hz2⟩:=info_parts k5
 obtain ⟨c0,c1,c2,c3⟩:=h.cells
 obtain ⟨a2,cap2,e2⟩:∃a cap,v2= .slice a l.length cap:=by
  rcases h.form2 with ⟨e,e0⟩|⟨g,cap,e,_⟩
  ·exact ⟨none,0,by rw [e,e0]⟩
  ·exact ⟨_,cap,e⟩
 subst e2
 by_cases hn:n=0
 ·subst hn
  cases l with
  |nil=>
   rw [if_pos ⟨rfl,rfl⟩]
   have H:=Lib.hid h
   clear h c0 c1
   simp only [List.length_nil] at c3 H⊢
   go_enter Tryz.func177,Tryz.ntmps177
   go_wp2_with (at_builtin;refine wpList_append_own_at _ rfl _ _ 22 rfl 0 5 i0 (.int .u8 0) 1 1 Tryz.underlying22 hi hz0 hz1 hz2 rfl (by decide) _ _ _ rfl (H.out.blanks.alloc _) ⟨w.heap.size,0,none⟩ 1 1 [.int .u8 32] rfl rfl (cell_one_new _ _ _) ?c2 ?c3 ?c4 (Nat.zero_le _) ?_)
   case c2=>intro u hu;simp at hu;subst hu;rfl
   case c3=>unfold maxLen;simp
   case c4=>simp
   intro v' w2 hown hgrow _ hloc
   have hG:w.grownBy w2 (Value.slice a2 0 cap2).ownBlock:=(World.grownBy_alloc w _ _).trans hgrow
   have hL:∀k,v'.ownBlock=some k→(Value.slice a2 0 cap2).ownBlock=some k∨w.heap.size≤k:=fun k e=>by
    rcases hloc with x|x
    ·exact .inl (by rw [←x,e])
    ·rw [e] at x;injection x with x;exact .inr (by rw [x];simp)
   have hO:w2.ownsRow 0 5 1 v' ([32]:ab).length (Lib.byteCells [32]):=hown
   obtain ⟨x1,x2⟩:=H.out.grow2 (l':=[32]) hG hO hL
   have X1:=Lib.hid x1
   have X2:=Lib.hid x2
   have hb2:w2.heap[b]? =w.heap[b]? :=hG.block b H.out.ltb (fun e=>H.out.ne2 e.symm)
   have d1:w2.cell? ⟨b,3,none⟩=some (.slice a2 0 cap2):=by rw [Lib.cell_of_heap (hb2.trans H.out.blk)];rfl
   have f1:w2.frozen? ⟨b,3,none⟩=false:=Lib.frozen_of_heap (hb2.trans H.out.blk) 3
   clear hown hgrow hloc hG hL hO x1 x2 hb2
   obtain ⟨a,m,cap,e⟩:∃a m cap,v'= .slice a m cap:=by
    rcases X1.out.form2 with ⟨e,_⟩|⟨g,cap,e,_⟩<;>exact ⟨_,_,_,e⟩
   subst e
   go_wp2
   refine bodyPost_end (results_none rfl _ _ _) rfl ?_
   exact ⟨rfl,_,_,_,X1.out,X2.out⟩
  |cons d l=>
   rw [if_neg (fun e=>by cases e.2)]
   obtain ⟨k,hk⟩:∃k,(d::l).length=k:=⟨_,rfl⟩
   have hk0:((k:Int)==0)=false:=by rw [beq_eq_false_iff_ne];simp only [List.length_cons] at hk;omega
   rw [hk] at c3 h⊢
   have H:=Lib.hid h
   clear h c0 c1 hk
   go_enter Tryz.func177,Tryz.ntmps177
   go_wp2
   refine bodyPost_end (results_none rfl _ _ _) rfl ?_
   exact ⟨rfl,_,_,_,H.out,bn.refl _ _⟩
 ·rw [if_neg (fun e=>hn e.1)]
  have hn0:((n:Int)==0)=false:=by rw [beq_eq_false_iff_ne];omega
  have H:=Lib.hid h
  clear h c0 c1 hn
  go_enter Tryz.func177,Tryz.ntmps177
  go_wp2
  refine bodyPost_end (results_none rfl _ _ _) rfl ?_
  exact ⟨rfl,_,_,_,H.out,bn.refl _ _⟩
theorem Fl {w:World} {b:Nat} {p v1:Value} {n:Nat} {v2:Value} {t l:ab} (h:bf w b p v1 n v2 t l) (hs:t.length+n+l.length≤1073741824) (c:UInt8) (q:Int) (hq:(c.toNat:Int)=q):Calls Tryz.prog 179 #[.pointer (some ⟨b,0,none⟩),.int .u8 q] w (Kp w b v1 v2 ⟨lI ⟨t,n,l⟩ c,0,[]⟩):=by
 have CL:=Lib.hid (LL h)
 have CW:=fun {w':World} {p' v1':Value} (t':ab) (h':bf w' b p' v1' n v2 t' l) (ht:t'.length≤2147483648)=>Lib.hid (qF h' c q hq ht)
 have CD:=fun {w':World} {p' v1':Value} (t':ab) (h':bf w' b p' v1' n v2 t' l)=>Lib.hid (Fj (h'.waits 0))
 have CN:=fun {w':World} {p' v1':Value} (i:Nat) (hi:i≤n) (h':bf w' b p' v1' n v2 (t++List.replicate i 10) l)=>Lib.hid (qF h' 10 10 rfl (by rw [List.length_append,List.length_replicate];omega))
 have MZ:=fun (w':World) (v1':Value)=>Lib.hid (k8 (w:=w') (b:=b) (v1:=v1') (v2:=v2) 2 (.int .i64 ((0:Nat):Int)))
 have H:=Lib.hid h
 by_cases h0:t=[]
 ·subst h0
  have e:lI ⟨[],n,l⟩ c=[]++[c]:=by unfold lI;simp
  rw [e]
  have hw:=CW [] h (by simp)
  clear h CW CN hq e hs
  go_enter Tryz.func179,Tryz.ntmps179
  go_wp2_with (first
   |(go_at_call 199;refine CL.out.mono ?_;rintro e w' ⟨rfl,rfl⟩)
   |(go_at_call 48;refine hw.out.mono ?_;rintro e w1 ⟨rfl,p',v1',x1,x2⟩;have X1:=Lib.hid x1;have X2:=Lib.hid x2;have D:=CD _ x1;obtain ⟨y0,y1,y2,y3⟩:=x1.cells;have f2:=x1.thawed 2;clear x1 x2 y0 y1 y3)
   |(go_at_call 172;refine D.out.mono ?_;rintro e w2 ⟨rfl,v2',z1,z2⟩;have Z1:=Lib.hid z1;have Z2:=Lib.hid (X2.out.trans ((MZ _ _).out.trans z2));clear z1 z2))
  refine bodyPost_end (results_none rfl _ _ _) rfl ?_
  exact ⟨rfl,_,_,_,Z1.out,Z2.out⟩
 ·have e:lI ⟨t,n,l⟩ c=((t++List.replicate n 10)++l)++[c]:=by unfold lI;rw [if_neg h0]
  rw [e]
  have hpos:(0:Int)<(t.length:Int):=by
   have:=List.length_pos_iff.2 h0
   omega
  have hn:n≤1073741824:=by omega
  have hd1:decide ((0:Int)<(t.length:Int))=true:=by simpa using hpos
  have hd2:decide (0<t.length)=true:=by simpa using hpos
  have CR:=fun {w':World} {p' v1':Value} (h':bf w' b p' v1' n v2 (t++List.replicate n 10) l)=>Lib.hid (Ko h' (fun e=>h0 (List.append_eq_nil_iff.1 e).1) (by rw [List.length_append,List.length_replicate];omega))
  have CW:=fun {w':World} {p' v1':Value} (h':bf w' b p' v1' n v2 ((t++List.replicate n 10)++l) l)=>CW _ h' (by rw [List.length_append,List.length_append,List.length_replicate];omega)
  obtain ⟨c0,c1,c2,c3⟩:=h.cells
  clear h hq e hs c0 c1 c3
  have h0:=Lib.hid h0
  go_enter Tryz.func179,Tryz.ntmps179
  go_wp2_with (go_at_call 199;refine CL.out.mono ?_;rintro e w' ⟨rfl,rfl⟩)
  clear CL hpos hd1 hd2 c2
  go_loopw [13] (fun v wr=>∃i:Nat,v= .int .i64 (i:Int)∧i≤n∧∃p' v1',bf wr b p' v1' n v2 (t++List.replicate i 10) l∧bn (dt b v1 v2) (dt b v1' v2) w' wr) (fun v _=>n-(ae v).toNat)
  case atStart=>exact ⟨0,rfl,Nat.zero_le _,_,_,by rw [List.replicate_zero,List.append_nil];exact H.out,bn.refl _ _⟩
  case round=>
   obtain ⟨i,rfl,hi,p',v1',x1,x2⟩:=hrel
   by_cases hlt:i<n
   ·have C:=CN i hi x1
    have X2:=Lib.hid x2
    clear x1 x2
    go_wp2_with (go_at_call 48;refine C.out.mono ?_;rintro e w1 ⟨rfl,p2,v12,z1,z2⟩)
    go_roundw
    case rel=>
     refine ⟨i+1,by go_num,by omega,p2,v12,?_,X2.out.trans z2⟩
     rw [List.replicate_succ',←List.append_assoc];exact z1
    case measure=>simp [ae];omega
   ·obtain rfl:i=n:=by omega
    have C:=CR x1
    have X2:=Lib.hid x2
    obtain ⟨c0,c1,c2,c3⟩:=x1.drew.cells
    have C:=CR x1.drew
    clear x1 x2 c0 c1 c2 CN
    go_wp2
    go_still_tail 7,(by kernel_rfl)
    change wpList _ _ _ _ _ wr.drew
    obtain ⟨w2,hw2⟩:∃w2,wr.drew=w2:=⟨_,rfl⟩
    have X3:=Lib.hid (show bn _ _ _ w2 from X2.out.trans (hw2▸l5 _ _))
    rw [hw2] at C c3⊢
    clear hw2
    go_wp2_with (go_at_call 200;refine C.out.mono ?_;rintro e w3 ⟨rfl,p3,v13,x1,x2⟩;have HW:=CW x1;have X4:=Lib.hid (X3.out.trans x2);clear x1 x2)
    go_wp2_with (first
     |(go_at_call 48;refine HW.out.mono ?_;rintro e w4 ⟨rfl,p4,v14,x1,x2⟩;have X1:=Lib.hid x1;have X5:=Lib.hid (X4.out.trans x2);have D:=CD _ x1;obtain ⟨y0,y1,y2,y3⟩:=x1.cells;have f2:=x1.thawed 2;clear x1 x2 y0 y1 y3)
     |(go_at_call 172;refine D.out.mono ?_;rintro e w5 ⟨rfl,v2',z1,z2⟩;have Z1:=Lib.hid z1;have Z2:=Lib.hid (X5.out.trans ((MZ _ _).out.trans z2));clear z1 z2))
    refine bodyPost_end (results_none rfl _ _ _) rfl ?_
    exact ⟨rfl,_,_,_,Z1.out,Z2.out⟩
theorem Cs (keep:Bool) (f:aH) (s:ab) (i:Nat) (c:UInt8) (h:s[i]? =some c):eE keep f (s.take (i+1))=ir keep (eE keep f (s.take i)) c:=by
 rw [List.take_add_one,h,qC];rfl
theorem Ct (keep:Bool) (c:UInt8):(dB keep c=175∧∀f,ir keep f c=f)∨(dB keep c=176∧∀f,ir keep f c=⟨f.told,f.ends+1,[]⟩)∨(dB keep c=177∧∀f,ir keep f c=if f.ends=0∧f.blanks=[] then ⟨f.told,0,[32]⟩ else ⟨f.told,f.ends,f.blanks⟩)∨(dB keep c=178∧∀f,ir keep f c=⟨f.told,f.ends,f.blanks++[c]⟩)∨(dB keep c=179∧∀f,ir keep f c=⟨lI f c,0,[]⟩):=by
 by_cases h0:c=0
 ·exact .inl ⟨by unfold dB;rw [if_pos h0],fun f=>by unfold ir;rw [if_pos h0]⟩
 by_cases h1:c=10∨c=13
 ·have hb:lw c=true:=by rcases h1 with rfl|rfl<;>rfl
  cases keep with
  |true=>exact .inr (.inl ⟨by unfold dB;rw [if_neg h0,if_pos h1,if_pos rfl],fun f=>by unfold ir;rw [if_neg h0,if_pos hb,if_pos rfl,if_pos h1]⟩)
  |false=>exact .inr (.inr (.inl ⟨by unfold dB;rw [if_neg h0,if_pos h1,if_neg Bool.false_ne_true],fun f=>by unfold ir;rw [if_neg h0,if_pos hb,if_neg Bool.false_ne_true]⟩))
 by_cases h2:c=9∨c=12∨c=32
 ·have hb:lw c=true:=by rcases h2 with rfl|rfl|rfl<;>rfl
  cases keep with
  |true=>exact .inr (.inr (.inr (.inl ⟨by unfold dB;rw [if_neg h0,if_neg h1,if_pos h2,if_pos rfl],fun f=>by unfold ir;rw [if_neg h0,if_pos hb,if_pos rfl,if_neg h1]⟩)))
  |false=>exact .inr (.inr (.inl ⟨by unfold dB;rw [if_neg h0,if_neg h1,if_pos h2,if_neg Bool.false_ne_true],fun f=>by unfold ir;rw [if_neg h0,if_pos hb,if_neg Bool.false_ne_true]⟩))
 ·have hb:¬lw c=true:=fun e=>by
   rcases (E9 c).1 e with e|e|e|e|e
   ·exact h2 (.inl e)
   ·exact h1 (.inl e)
   ·exact h2 (.inr (.inl e))
   ·exact h1 (.inr e)
   ·exact h2 (.inr (.inr e))
  exact .inr (.inr (.inr (.inr ⟨by unfold dB;rw [if_neg h0,if_neg h1,if_neg h2],fun f=>by unfold ir;rw [if_neg h0,if_neg hb]⟩)))
theorem Fm {w : World} {b : Nat} {p v1 v2 : Value} (f : aH) (h : bf w b p v1 f.ends v2 f.told f.blanks) (s : ByteArray) (keep : Bool) (hs : f.size + s.size ≤ 1073741824) :
    Calls Tryz.prog 108 #[.pointer (some ⟨b, 0, none⟩), .string s, .bool keep] w (Kp w b v1 v2 (eE keep f s.data.toList)) := by
  have H := Lib.hid h
  have HS := Lib.hid hs
  have hsz : s.size ≤ 1073741824 := by omega
  clear h hs
  go_enter Tryz.func108, Tryz.ntmps108
  go_wp2
  go_loopw [10] (fun v wr => ∃ i : Nat, v = .int .i64 (i : Int) ∧ i ≤ s.size ∧ ∃ p' v1' v2', bf wr b p' v1' (eE keep f (s.data.toList.take i)).ends v2' (eE keep f (s.data.toList.take i)).told (eE keep f (s.data.toList.take i)).blanks ∧ bn (dt b v1 v2) (dt b v1' v2') w wr) (fun v _ => s.size - (ae v).toNat)
  case atStart => exact ⟨0, rfl, Nat.zero_le _, p, v1, v2, by rw [List.take_zero]; exact H.out, bn.refl _ _⟩
  case round =>
    obtain ⟨i, rfl, hi, p', v1', v2', x1, x2⟩ := hrel
    by_cases hlt : i < s.size
    · have SN := Lib.hid (Cs keep f s.data.toList i s.data[i] (by simp))
      have SZ := Lib.hid (show (eE keep f (s.data.toList.take i)).size ≤ 1073741824 by
        have := gC keep (s.data.toList.take i) f
        have h2 := HS.out
        rw [List.length_take] at this
        omega)
      generalize hG : eE keep f (s.data.toList.take i) = G at x1 SN SZ
      have X2 := Lib.hid x2
      obtain ⟨T, n, l⟩ := G
      simp only at x1
      have hz : T.length + n + l.length ≤ 1073741824 := SZ.out
      have CD := Fk keep s.data[i] ((s.data[i].toNat : Nat) : Int) wr rfl
      rcases Ct keep s.data[i] with ⟨e1, e2⟩ | ⟨e1, e2⟩ | ⟨e1, e2⟩ | ⟨e1, e2⟩ | ⟨e1, e2⟩
      focus
        rw [e1] at CD
        have C := Lib.hid (Lh x1 _ : Calls Tryz.prog 175 #[.pointer (some ⟨b, 0, none⟩), .int .u8 ((s.data[i].toNat : Nat) : Int)] wr _)
        have E := Lib.hid ((e2 _).symm.trans SN.out.symm)
        have CD := Lib.hid CD
        clear x1 x2 e1 e2 SN SZ hz hG
        go_wp2_with (first
          | (go_at_call 150; refine CD.out.mono ?_; rintro e w' ⟨rfl, rfl⟩)
          | (go_at_call 175; refine C.out.mono ?_; rintro e w3 ⟨rfl, p3, v13, v23, z1, z2⟩))
      rotate_left
      focus
        rw [e1] at CD
        have C := Lib.hid (LM x1 (by omega) _ : Calls Tryz.prog 176 #[.pointer (some ⟨b, 0, none⟩), .int .u8 ((s.data[i].toNat : Nat) : Int)] wr _)
        have E := Lib.hid ((e2 _).symm.trans SN.out.symm)
        have CD := Lib.hid CD
        clear x1 x2 e1 e2 SN SZ hz hG
        go_wp2_with (first
          | (go_at_call 150; refine CD.out.mono ?_; rintro e w' ⟨rfl, rfl⟩)
          | (go_at_call 176; refine C.out.mono ?_; rintro e w3 ⟨rfl, p3, v13, v23, z1, z2⟩))
      rotate_left
      focus
        rw [e1] at CD
        have C := Lib.hid (Lk x1 _ : Calls Tryz.prog 177 #[.pointer (some ⟨b, 0, none⟩), .int .u8 ((s.data[i].toNat : Nat) : Int)] wr _)
        have E := Lib.hid ((e2 _).symm.trans SN.out.symm)
        have CD := Lib.hid CD
        clear x1 x2 e1 e2 SN SZ hz hG
        go_wp2_with (first
          | (go_at_call 150; refine CD.out.mono ?_; rintro e w' ⟨rfl, rfl⟩)
          | (go_at_call 177; refine C.out.mono ?_; rintro e w3 ⟨rfl, p3, v13, v23, z1, z2⟩))
      rotate_left
      focus
        rw [e1] at CD
        have C := Lib.hid (Li x1 (by omega) s.data[i] _ rfl : Calls Tryz.prog 178 #[.pointer (some ⟨b, 0, none⟩), .int .u8 ((s.data[i].toNat : Nat) : Int)] wr _)
        have E := Lib.hid ((e2 _).symm.trans SN.out.symm)
        have CD := Lib.hid CD
        clear x1 x2 e1 e2 SN SZ hz hG
        go_wp2_with (first
          | (go_at_call 150; refine CD.out.mono ?_; rintro e w' ⟨rfl, rfl⟩)
          | (go_at_call 178; refine C.out.mono ?_; rintro e w3 ⟨rfl, p3, v13, v23, z1, z2⟩))
      rotate_left
      focus
        rw [e1] at CD
        have C := Lib.hid (Fl x1 hz s.data[i] _ rfl : Calls Tryz.prog 179 #[.pointer (some ⟨b, 0, none⟩), .int .u8 ((s.data[i].toNat : Nat) : Int)] wr _)
        have E := Lib.hid ((e2 _).symm.trans SN.out.symm)
        have CD := Lib.hid CD
        clear x1 x2 e1 e2 SN SZ hz hG
        go_wp2_with (first
          | (go_at_call 150; refine CD.out.mono ?_; rintro e w' ⟨rfl, rfl⟩)
          | (go_at_call 179; refine C.out.mono ?_; rintro e w3 ⟨rfl, p3, v13, v23, z1, z2⟩))
      rotate_left
      all_goals
        go_roundw
        case rel =>
          refine ⟨i + 1, by go_num, by omega, p3, v13, v23, ?_, X2.out.trans z2⟩
          rw [← E.out]; exact z1
        case measure => simp [ae]; omega
    · obtain rfl : i = s.size := by omega
      have e : s.data.toList.take s.size = s.data.toList := List.take_of_length_le (by rw [Lib.size_eq]; exact Nat.le_refl _)
      rw [e] at x1
      have X1 := Lib.hid x1
      have X2 := Lib.hid x2
      clear x1 x2 e
      go_wp2
      refine bodyPost_end (results_none rfl _ _ _) (by rfl) ?_
      exact ⟨rfl, _, _, _, X1.out, X2.out⟩
theorem Fo {w:World} {b:Nat} {v1 v2:Value} {f:aH} {e:Ending} {w':World} (h:Kp w b v1 v2 f e w'):e= .returned (.tuple #[])∧∃F',ku ⟨b,0,none⟩ f w' F'∧bn (dt b v1 v2) F' w w':=by
 obtain ⟨e1,p',v1',v2',h1,h2⟩:=h
 exact ⟨e1,_,⟨b,p',v1',v2',rfl,h1,fun _=>Iff.rfl⟩,h2⟩
theorem zn (g:Addr) (f:aH) (s:ByteArray) (keep:Bool) (w:World) (F:dY) (h:ku g f w F) (hs:f.size+s.size≤1073741824):Calls Tryz.prog 108 #[.pointer (some g),.string s,.bool keep] w fun e w'=>e= .returned (.tuple #[])∧∃F',ku g (eE keep f s.data.toList) w' F'∧bn F F' w w':=by
 obtain ⟨b,p,v1,v2,rfl,h1,rfl⟩:=pz h
 exact (Fm f h1 s keep hs).mono fun e w' hd=>Fo hd
theorem uH (g:Addr) (f:aH) (n:Int) (w:World) (F:dY) (h:ku g f w F) (hs:f.size≤1073741824) (hn: -9223372036854775808≤n∧n≤9223372036854775807):Calls Tryz.prog 148 #[.pointer (some g),.int .i64 n] w fun e w'=>e= .returned (.tuple #[])∧∃F',ku g (lY n f) w' F'∧bn F F' w w':=by
 obtain ⟨b,p,v1,v2,rfl,h1,rfl⟩:=pz h
 refine (zm h1 n (by unfold aH.size at hs;omega) hn).mono ?_
 rintro e w' ⟨rfl,v2',h2,h3⟩
 exact ⟨rfl,_,⟨b,p,v1,v2',rfl,h2,fun _=>Iff.rfl⟩,h3⟩
theorem xi (g:Addr) (f:aH) (w:World) (F:dY) (h:ku g f w F) (hs:f.size≤1073741824):Calls Tryz.prog 146 #[.pointer (some g)] w fun e w'=>e= .returned (.tuple #[])∧∃F',ku g (iT f) w' F'∧bn F F' w w':=by
 obtain ⟨b,p,v1,v2,rfl,h1,rfl⟩:=pz h
 refine (s9 h1 (by unfold aH.size at hs;omega)).mono ?_
 rintro e w' ⟨rfl,v2',h2,h3⟩
 exact ⟨rfl,_,⟨b,p,v1,v2',rfl,h2,fun _=>Iff.rfl⟩,h3⟩
theorem xj (g:Addr) (f:aH) (w:World) (F:dY) (h:ku g f w F) (_:f.size≤1073741824):Calls Tryz.prog 57 #[.pointer (some g)] w fun e w'=>e= .returned (.string ⟨f.told.toArray⟩)∧∃F',ku g f w' F'∧bn F F' w w':=by
 obtain ⟨b,p,v1,v2,rfl,h1,rfl⟩:=pz h
 have C:=Lib.hid (Iw h1)
 clear h h1
 go_enter Tryz.func57,Tryz.ntmps57
 go_wp2_with (go_at_call 46;refine C.out.mono ?_;rintro e w' ⟨rfl,x1,x2⟩;have X1:=Lib.hid x1;have X2:=Lib.hid x2;clear x1 x2)
 go_ret
 exact ⟨rfl,_,⟨b,p,v1,v2,rfl,X1.out,fun _=>Iff.rfl⟩,X2.out⟩
theorem zo (w:World):Calls Tryz.prog 55 #[] w fun e w'=>∃g F,e= .returned (.pointer (some g))∧ku g uD w' F∧(∀k,F k→w.heap.size≤k)∧Below w.heap.size w w':=by
 have hX:=Lib.hid (show bf (w.alloc (.cells #[.pointer none,.slice none 0 0,.int .i64 ((0:Nat):Int),.slice none 0 0] 113)) w.heap.size (.pointer none) (.slice none 0 0) 0 (.slice none 0 0) [] [] from
  ⟨heap_alloc_new w _,.inl rfl,World.ownsRowF_nil _ _ _ _,World.ownsRow_nil _ _ _ _,fun k e=>(by cases e),fun _=>rfl⟩)
 have hB:=Lib.hid ((Below.refl w.heap.size w).alloc (Nat.le_refl _) (.cells #[.pointer none,.slice none 0 0,.int .i64 ((0:Nat):Int),.slice none 0 0] 113))
 go_enter Tryz.func55,Tryz.ntmps55
 go_wp2
 go_ret
 refine ⟨⟨w.heap.size,0,none⟩,dt w.heap.size (.slice none 0 0) (.slice none 0 0),rfl,⟨w.heap.size,_,_,_,rfl,hX.out,fun _=>Iff.rfl⟩,?_,hB.out⟩
 rintro k (e|e|e)
 ·omega
 ·cases e
 ·cases e
end Go.Proofs.YtpmdcppnlggckaaGreatDoor
namespace Go.Proofs.YtpmdcppnlggckaaGreatDoor
open Go.RowKit Go.Lib
def br (l:List ab):List Value:=l.map fun x=> .string ⟨x.toArray⟩
theorem bK (l:List ab):(br l).length=l.length:=List.length_map _
theorem iY (l m:List ab):br l++br m=br (l++m):=by unfold br;rw [List.map_append]
theorem mV (l:List ab) (i:Nat) (h:i<l.length):(br l)[i]? =some (.string ⟨l[i].toArray⟩):=by
 unfold br
 rw [List.getElem?_map,List.getElem?_eq_getElem h];rfl
theorem ta (l:List ab):∀u∈br l,u.oneCell'=true:=by
 intro u hu
 obtain ⟨x,-,rfl⟩:=List.mem_map.1 hu
 rfl
def uI (w:World) (v:Value) (l:List ab):Prop:=
 ∃a cap,v= .slice a l.length cap∧l.length≤cap∧cap≤maxLen∧∀i (h:i<l.length),∃x,a=some x∧w.cell? (x.add i)=some (.string ⟨l[i].toArray⟩)
theorem zp {w:World} {base:Nat} {v:Value} {l:List ab} (h:w.ownsRow base 9 1 v l.length (br l)):uI w v l:=by
 have hc:=fun g hg=>h.cells (g:=g) hg
 rcases h.2 with ⟨rfl,h0⟩|⟨g,cap,cur,rfl,hb,hg,hn,hm,hs,htake⟩
 ·exact ⟨none,0,by rw [h0],by omega,by simp [maxLen],fun i hi=>by omega⟩
 ·exact ⟨_,cap,rfl,hn,hm,fun i hi=>⟨_,rfl,hc g rfl i _ (mV l i hi)⟩⟩
def fD (v:Value) (l:List ab):dw:=fun w F=>w.ownsRow 0 9 1 v l.length (br l)∧∀k,F k↔v.ownBlock=some k
theorem aP (v:Value) (l:List ab):bv (fD v l):=by
 refine ⟨?_,?_⟩
 ·rintro w F ⟨h,hF⟩ k hk
  exact (h.lt k ((hF k).1 hk)).2
 ·rintro w w' F ⟨h,hF⟩ hk
  refine ⟨⟨h.1,?_⟩,hF⟩
  rcases h.2 with h0|⟨g,cap,cur,rfl,hb,hg,h4⟩
  ·exact .inl h0
  ·exact .inr ⟨g,cap,cur,rfl,hb,(hk g ((hF g).2 rfl)).trans hg,h4⟩
theorem xk {w0 w:World} {R:dw} (h:au w0 w R) (hR:bv R):au w0 w (bB (fD (.slice none 0 0) []) R):=
 h.more hR (Below.refl _ w) (S:=fD (.slice none 0 0) []) (F:=fun _=>False) ⟨World.ownsRow_nil _ _ _ _,fun k=>⟨fun h=>h.elim,fun h=>by cases h⟩⟩ (fun k hk=>hk.elim)
theorem fe {w0 w:World} {v:Value} {l:List ab} {R:dw} (h:au w0 w (bB (fD v l) R)):uI w v l:=by
 obtain ⟨F,hF,-,-⟩:=h.first
 exact zp hF.1
theorem xl {w0 w:World} {v:Value} {l:List ab} {R:dw} (h:au w0 w (bB (fD v l) R)):w.ownsRow 0 9 1 v l.length (br l):=by
 obtain ⟨F,hF,-,-⟩:=h.first
 exact hF.1
theorem xm {w0 w w':World} {v:Value} {l:List ab} {R:dw} (h:au w0 w R) (hR:bv R) (hb:Below w.heap.size w w') (ho:w'.ownsRow w.heap.size 9 1 v l.length (br l)):au w0 w' (bB (fD v l) R):=
 h.more hR hb (S:=fD v l) (F:=fun k=>v.ownBlock=some k) ⟨⟨ho.1,ho.2.imp id (fun ⟨g,cap,cur,h1,_,h3⟩=>⟨g,cap,cur,h1,Nat.zero_le _,h3⟩)⟩,fun _=>Iff.rfl⟩ (fun k hk=>(ho.lt k hk).1)
theorem zq {w0 w:World} {R:dw} (h:au w0 w R) (hR:bv R):au w0 (w.alloc (.cells #[] 9)) (bB (fD (.slice (some ⟨w.heap.size,0,none⟩) 0 0) []) R):=
 xm h hR ((Below.refl w.heap.size w).alloc (Nat.le_refl _) _) ⟨rfl,.inr ⟨w.heap.size,0,#[],rfl,Nat.le_refl _,heap_alloc_new w _,Nat.le_refl _,by simp [maxLen],rfl,rfl⟩⟩
theorem tc:(Tryz.prog.info? 9).map (fun i=>(i.zero,i.size,i.bytes))=some (some (.string ⟨#[]⟩),1,16):=by kernel_rfl
theorem eF {ops:Array Oper} {rest:List Oper} {o:Oper} {a:Act} {w0 w:World} {P:Exit→Act→World→Prop} (hgd:o.guard=none) (s x:Operand) (ho:o.op= .call {callee:= .builtin .append,args:=#[s,x],argTypes:=#[28,28]}) (v:Value) (l m:List ab) (R:dw) (hR:bv R) (hs:a.eval s=v) (hM:au w0 w (bB (fD v l) R)) (ad:Addr) (c:Nat) (n:Nat) (hx:a.eval x= .slice (some ad) n c) (hn:n=m.length) (hnews:∀i (h:i<m.length),w.cell? (ad.add i)=some (.string ⟨m[i].toArray⟩)) (hlen:l.length+m.length≤1073741824) (h:∀v' w',au w0 w' (bB (fD v' (l++m)) R)→wpList Tryz.prog ops P rest (a.put o.dst v') w'):wpList Tryz.prog ops P (o::rest) a w:=by
 obtain ⟨i0,hi0,hz0,hz1,hz2⟩:=info_parts tc
 obtain ⟨F,hF,-,hk⟩:=hM.first
 subst hn
 refine wpList_append_own_at (w:=w) hgd s x 28 ho 0 9 i0 _ 1 16 Tryz.underlying28 hi0 hz0 hz1 hz2 rfl (by decide) v l.length (br l) hs hF.1 ad m.length c (br m) hx (by rw [bK,Nat.mul_one]) ?_ (ta m) (by unfold maxLen;omega) (by omega) (Nat.zero_le _) ?_
 ·intro j u hj
  have hjl:j<m.length:=by
   have:=(List.getElem?_eq_some_iff.1 hj).1
   rwa [bK] at this
  rw [mV m j hjl] at hj
  rw [hnews j hjl];exact hj
 ·intro v1 w1 hown hgr _ hat
  refine h v1 w1 (hk w1 (fD v1 (l++m)) (fun k=>v1.ownBlock=some k) hR ⟨by rw [List.length_append,←iY];exact hown,fun _=>Iff.rfl⟩ ⟨hgr.os,hgr.tape,hgr.output,hgr.size,fun k hkk hFk=>hgr.block k hkk (fun e=>hFk ((hF.2 k).2 e.symm)),fun k hkk=>?_⟩)
  rcases hat with e|e
  ·exact .inl ((hF.2 k).2 (by rw [←e];exact hkk))
  ·refine .inr ?_
   rw [e] at hkk
   have:=Option.some.inj hkk
   omega
end Go.Proofs.YtpmdcppnlggckaaGreatDoor
