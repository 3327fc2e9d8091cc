/-
  Texts laid together: RawMark, RawEnds, RawFind, RawCode, ScrStep, ScrGo.
-/
import Derived.Test.YtajpoodpbbbkfaaGreatDoorQA
import Derived.Lib.IndexMore
import Derived.Test.YtajpoodpbbbkfaaGreatDoorP1
import Derived.Test.YtajpoodpbbbkfaaGreatDoorP3
import Derived.RangeFuncNested
import Derived.RangeFuncBound
import Derived.RangeFuncCalls
import Derived.RangeFuncLeaves
import Derived.Shelf.Abstract
import Derived.Shelf.RegionOpen
import Derived.WalkKit
import Derived.OwnWalkIn
import Derived.TacticsInMore
import Derived.LoopNIn
import Derived.LoopIn
import Derived.Test.YtajpoodpbbbkfaaGreatDoorMaxLen
import Derived.Test.YtajpoodpbbbkfaaGreatDoorP6
import Derived.Test.YtajpoodpbbbkfaaGreatDoorP4
import Derived.Test.YtajpoodpbbbkfaaGreatDoorQD
set_option maxHeartbeats 4000000
set_option maxRecDepth 100000
namespace Go.Proofs.YtajpoodpbbbkfaaGreatDoor
open Go.RowKit Go.Lib
def CU (l:ab):Bool:=[60,47].isPrefixOf l
def bE (k:Nat):ab→List Nat
 |[]=>[]
 |c::t=>if CU (c::t)=true then k::bE (k+1) t else bE (k+1) t
theorem x7 (nm l:ab) (h:cb nm l=true):CU l=true:=by
 unfold cb at h
 rw [Bool.and_eq_true,Bool.and_eq_true] at h
 obtain ⟨-,h,-⟩:=h
 match l with
 |[]=>simp [aF] at h
 |[c]=>simp [aF,List.isPrefixOf] at h
 |c::d::t=>
  rw [aM,aM,List.isPrefixOf_cons_cons,List.isPrefixOf_cons_cons,Bool.and_eq_true,Bool.and_eq_true,beq_iff_eq,beq_iff_eq] at h
  have hlow:∀(x q:UInt8),q.toNat<65→q=ct x→x=q:=fun x q hq hx=>by
   have h1:=cU x
   rw [←hx] at h1
   unfold fY at h1
   rw [←UInt8.toNat_inj]
   split at h1
   ·omega
   ·omega
  unfold CU
  rw [hlow c 60 (by decide) h.1,hlow d 47 (by decide) h.2.1]
  simp [List.isPrefixOf]
theorem tD (k:Nat):∀(l:ab),(∀j,j<l.length→CU (l.drop j)=false)→bE k l=[]
 |[],_=>rfl
 |c::t,h=>by
  have h0:=h 0 (by simp)
  rw [List.drop_zero] at h0
  rw [bE,h0,if_neg Bool.false_ne_true]
  exact tD (k+1) t fun j hj=>by have:=h (j+1) (by simp;omega);rwa [List.drop_succ_cons] at this
theorem wk:∀(n k:Nat) (l:ab),n<l.length→(∀j,j<n→CU (l.drop j)=false)→CU (l.drop n)=true→bE k l=(k+n)::bE (k+n+2) (l.drop (n+2))
 |0,k,c::t,_,_,h=>by
  rw [List.drop_zero] at h
  rw [bE,h,if_pos rfl]
  match t,h with
  |[],h=>simp [CU,List.isPrefixOf] at h
  |d::r,h=>
   have hd:d=47:=by simp [CU,List.isPrefixOf] at h;exact h.2.symm
   subst hd
   have hf:CU (47::r)=false:=by simp [CU,List.isPrefixOf]
   rw [bE,hf,if_neg Bool.false_ne_true]
   rfl
 |n+1,k,c::t,hl,hn,h=>by
  have h0:=hn 0 (by omega)
  rw [List.drop_zero] at h0
  rw [bE,h0,if_neg Bool.false_ne_true,wk n (k+1) t (by simpa using hl) (fun j hj=>by have:=hn (j+1) (by omega);rwa [List.drop_succ_cons] at this) (by rwa [List.drop_succ_cons] at h)]
  rw [show n+1+2=(n+2)+1 by omega,List.drop_succ_cons,show k+1+n=k+(n+1) by omega]
theorem qn (k:Nat) (l:ab) (h:Lib.index l [60,47]= -1):bE k l=[]:=by
 rcases Lib.index_spec l [60,47] with ⟨_,h2⟩|⟨i,h1,_⟩
 ·exact tD k l fun j hj=>h2 j (by omega)
 ·omega
theorem qo (k:Nat) (l:ab) (n:Nat) (h:Lib.index l [60,47]=n):n+2≤l.length∧bE k l=(k+n)::bE (k+n+2) (l.drop (n+2)):=by
 have hr:=Lib.index_room l [60,47] (by omega)
 rw [h] at hr
 have hr:n+2≤l.length:=by simp at hr;omega
 refine ⟨hr,?_⟩
 rcases Lib.index_spec l [60,47] with ⟨h1,_⟩|⟨i,h1,_,h3,h4⟩
 ·omega
 ·obtain rfl:i=n:=by omega
  exact wk i k l (by omega) (fun j hj=>h4 j hj) h3
theorem kf:∀(l:ab) (k x:Nat),x∈bE k l↔∃j,x=k+j∧j<l.length∧CU (l.drop j)=true
 |[],k,x=>by simp [bE]
 |c::t,k,x=>by
  have ih:=kf t (k+1) x
  rw [bE]
  constructor
  ·intro h
   by_cases h0:CU (c::t)=true
   ·rw [if_pos h0,List.mem_cons] at h
    rcases h with rfl|h
    ·exact ⟨0,rfl,by simp,by rwa [List.drop_zero]⟩
    ·obtain ⟨j,h1,h2,h3⟩:=ih.1 h
     exact ⟨j+1,by omega,by simp;omega,by rwa [List.drop_succ_cons]⟩
   ·rw [if_neg h0] at h
    obtain ⟨j,h1,h2,h3⟩:=ih.1 h
    exact ⟨j+1,by omega,by simp;omega,by rwa [List.drop_succ_cons]⟩
  ·rintro ⟨j,h1,h2,h3⟩
   cases j with
   |zero=>
    rw [List.drop_zero] at h3
    rw [if_pos h3,List.mem_cons];exact .inl h1
   |succ j=>
    rw [List.drop_succ_cons] at h3
    have:=ih.2 ⟨j,by omega,by simpa using h2,h3⟩
    by_cases h0:CU (c::t)=true
    ·rw [if_pos h0];exact List.mem_cons_of_mem _ this
    ·rwa [if_neg h0]
theorem kN:∀(l:ab) (k:Nat) (p:List Nat) (x:Nat) (r:List Nat),bE k l=p++x::r→∀y∈bE k l,y<x→y∈p
 |[],k,p,x,r,h=>by simp [bE] at h
 |c::t,k,p,x,r,h=>by
  intro y hy hlt
  rw [bE] at h hy
  by_cases h0:CU (c::t)=true
  ·rw [if_pos h0] at h hy
   cases p with
   |nil=>
    simp only [List.nil_append,List.cons.injEq] at h
    obtain ⟨rfl,h⟩:=h
    rcases List.mem_cons.1 hy with rfl|hy
    ·omega
    ·obtain ⟨j,h1,_⟩:=(kf t (k+1) y).1 hy;omega
   |cons a p=>
    simp only [List.cons_append,List.cons.injEq] at h
    obtain ⟨rfl,h⟩:=h
    rcases List.mem_cons.1 hy with rfl|hy
    ·exact List.mem_cons_self
    ·exact List.mem_cons_of_mem _ (kN t (k+1) p x r h y hy hlt)
  ·rw [if_neg h0] at h hy
   exact kN t (k+1) p x r h y hy hlt
theorem rj (nm s:ab) (k:Nat) (hk:k≤s.length) (h:∀y∈bE k (s.drop k),cb nm (s.drop y)=false):eZ nm s (k:Int)=s.length:=by
 rw [fa nm s k hk,sw nm (s.drop k) (s.length-k) (by rw [List.length_drop];exact Nat.le_refl _) (fun i hi=>?_) (.inl (by rw [List.length_drop]))]
 ·omega
 ·rw [Bool.eq_false_iff]
  intro e
  have:=h (k+i) ((kf _ _ _).2 ⟨i,rfl,by rw [List.length_drop];omega,x7 nm _ e⟩)
  rw [List.drop_drop] at e
  rw [e] at this;cases this
theorem tF (nm s:ab) (k x:Nat) (p:List Nat) (hk:k≤s.length) (hp:(p++[x])<+:bE k (s.drop k)) (h:∀y∈p,cb nm (s.drop y)=false) (hx:cb nm (s.drop x)=true):eZ nm s (k:Int)=x:=by
 obtain ⟨r,hr⟩:=hp
 rw [List.append_assoc,List.singleton_append] at hr
 have hm:x∈bE k (s.drop k):=by rw [←hr];simp
 obtain ⟨j,h1,h2,h3⟩:=(kf _ _ _).1 hm
 rw [List.length_drop] at h2
 rw [fa nm s k hk,sw nm (s.drop k) j (by rw [List.length_drop];omega) (fun i hi=>?_) (.inr (by rw [List.drop_drop,←h1];exact hx)),h1]
 rw [Bool.eq_false_iff]
 intro e
 have hy:=kN _ _ p x r hr.symm (k+i) ((kf _ _ _).2 ⟨i,rfl,by rw [List.length_drop];omega,x7 nm _ e⟩) (by omega)
 rw [List.drop_drop] at e
 have:=h _ hy
 rw [e] at this;cases this
end Go.Proofs.YtajpoodpbbbkfaaGreatDoor
namespace Go.Proofs.YtajpoodpbbbkfaaGreatDoor
open Go.RowKit Go.Lib
theorem wl (b:ByteArray) (h:b.size=0):b=⟨#[]⟩:=bl (by
 have:b.data.toList=[]:=List.length_eq_zero_iff.1 (by rw [←Lib.size_eq];exact h)
 rw [this])
theorem A7 (s:ByteArray) (k:Nat):(s.extract k s.size).data.toList=s.data.toList.drop k:=by
 rw [ByteArray.data_extract,Array.toList_extract,List.extract_eq_take_drop,List.take_of_length_le]
 rw [List.length_drop,←Lib.size_eq];exact Nat.le_refl _
theorem wn (b:ByteArray) (h:0<b.size):¬b.toList=[]∧b.toList.isEmpty=false:=by
 have:b.toList≠[]:=fun e=>by
  rw [ByteArray.toList_eq] at e
  rw [Lib.size_eq,e] at h;exact absurd h (by decide)
 exact ⟨this,List.isEmpty_eq_false_iff.2 this⟩
theorem CV (b:ByteArray) (w:World) (hb:b.size≤1048576):Calls Tryz.prog 161 #[.string b] w fun e w'=>e= .returned (.bool (b.data.toList.head?.any eX))∧w'=w:=by
 by_cases h0:b.size=0
 ·obtain rfl:=wl b h0
  clear h0 hb
  go_enter Tryz.func161,Tryz.ntmps161
  go_wp2
  go_ret
  exact ⟨rfl,rfl⟩
 obtain ⟨n0,n1⟩:=wn b (by omega)
 have hp:0<b.size:=by omega
 have hd:b.data.toList.head?.any eX=eX b[0]:=by
  have:=aj b 0 hp
  rw [List.drop_zero] at this
  rw [this];rfl
 rw [hd,mq]
 have hlt:=b[0].toNat_lt
 have HS:=fun w=>Lib.hid (yv ((b[0].toNat:Nat):Int) w (by omega) (by omega))
 obtain ⟨S,hS⟩:∃S,cG ((b[0].toNat:Nat):Int)=S:=⟨_,rfl⟩
 obtain ⟨T,hT⟩:∃S,(((b[0].toNat:Nat):Int)==47)=S:=⟨_,rfl⟩
 obtain ⟨U,hU⟩:∃S,(((b[0].toNat:Nat):Int)==62)=S:=⟨_,rfl⟩
 rw [hS] at HS
 rw [hS,hT,hU]
 clear hS hd h0 hlt
 cases T
 ·cases U
  ·go_enter Tryz.func161,Tryz.ntmps161
   go_wp2_with (go_at_call 150;refine (HS _).out.mono ?_;rintro e w' ⟨rfl,rfl⟩)
   go_ret
   exact ⟨au (by simp),rfl⟩
  ·go_enter Tryz.func161,Tryz.ntmps161
   go_wp2_with (go_at_call 150;refine (HS _).out.mono ?_;rintro e w' ⟨rfl,rfl⟩)
   go_ret
   exact ⟨au (by simp),rfl⟩
 ·go_enter Tryz.func161,Tryz.ntmps161
  go_wp2_with (go_at_call 150;refine (HS _).out.mono ?_;rintro e w' ⟨rfl,rfl⟩)
  go_ret
  exact ⟨au (by simp),rfl⟩
theorem CX (nm s:ByteArray) (k:Nat) (hk:k+2≤s.size) (h0:0<nm.size) (h1:bf s (k:Int) ⟨#[60,47]⟩=true):oB nm.data.toList s.data.toList (k:Int)=(bf s ((k+2:Nat):Int) nm&&(s.data.toList.drop (k+2+nm.size)).head?.any eX):=by
 rw [kE]
 unfold bf at h1⊢
 rw [decide_eq_true (by omega),Bool.true_and,show ((k:Nat):Int).toNat=k by omega] at h1
 rw [decide_eq_true (by omega),Bool.true_and,show ((k+2:Nat):Int).toNat=k+2 by omega]
 unfold cb
 rw [show nm.data.toList.isEmpty=false by
  cases hh:nm.data.toList with
  |nil=>rw [Lib.size_eq,hh] at h0;exact absurd h0 (by decide)
  |cons=>rfl,List.drop_drop,←Lib.size_eq,show k+(2+nm.size)=k+2+nm.size by omega]
 rw [Bool.not_false,Bool.true_and]
 congr 1
 obtain ⟨r,hr⟩:=List.isPrefixOf_iff_prefix.1 h1
 have hr2:aF (s.data.toList.drop k)=60::47::r:=hr.symm
 have hr3:aF (s.data.toList.drop (k+2))=r:=by
  rw [←List.drop_drop,Eu,hr2];rfl
 rw [hr2,hr3]
 simp [List.isPrefixOf]
theorem MT (nm s:ByteArray) (a:Int) (h1:bf s a ⟨#[60,47]⟩=false):oB nm.data.toList s.data.toList a=false:=by
 by_cases h:0≤a∧a<(s.size:Int)
 ·obtain ⟨k,rfl⟩:∃k:Nat,a=k:=⟨a.toNat,by omega⟩
  rw [kE,Bool.eq_false_iff]
  intro e
  have hm:=x7 _ _ e
  unfold bf at h1
  rw [decide_eq_true (by omega),Bool.true_and,show ((k:Nat):Int).toNat=k by omega] at h1
  rw [Bool.eq_false_iff] at h1
  refine h1 ?_
  unfold CU at hm
  obtain ⟨r,hr⟩:=List.isPrefixOf_iff_prefix.1 hm
  rw [←hr]
  simp [aF,List.isPrefixOf]
  decide
 ·exact zE _ _ _ (by rw [←Lib.size_eq];omega)
theorem tG (s nm:ByteArray) (k:Nat) (h:bf s (k:Int) nm=true):k+nm.size≤s.size:=by
 unfold bf at h
 rw [Bool.and_eq_true,decide_eq_true_iff,show ((k:Nat):Int).toNat=k by omega] at h
 have:=(List.isPrefixOf_iff_prefix.1 h.2).length_le
 rw [ej,List.length_drop,←Lib.size_eq,←Lib.size_eq] at this
 omega
theorem A8 (s:ByteArray) (a:Int) (nm:ByteArray) (w:World) (hs:s.size≤1048576) (hn:nm.size≤1048576) (ha: -9223372036854775808≤a∧a≤9223372036854775807):Calls Tryz.prog 112 #[.string s,.int .i64 a,.string nm] w fun e w'=>e= .returned (.bool (oB nm.data.toList s.data.toList a))∧Below w.heap.size w w':=by
 by_cases h0:nm.size=0
 ·have hv:oB nm.data.toList s.data.toList a=false:=by
   have:nm.data.toList=[]:=List.length_eq_zero_iff.1 (by rw [←Lib.size_eq];exact h0)
   unfold oB cb;rw [this];simp
  rw [hv]
  obtain rfl:=wl nm h0
  clear hv h0 hn ha
  go_enter Tryz.func112,Tryz.ntmps112
  go_wp2
  go_ret
  exact ⟨rfl,Below.refl _ _⟩
 obtain ⟨n0,n1⟩:=wn nm (by omega)
 have HB:=fun w=>Lib.hid (cB s a ⟨#[60,47]⟩ w (by omega) (by decide) ha.1 ha.2)
 obtain ⟨B,hB⟩:∃B,bf s a ⟨#[60,47]⟩=B:=⟨_,rfl⟩
 rw [hB] at HB
 cases B
 ·rw [MT nm s a hB]
  clear hB ha h0
  go_enter Tryz.func112,Tryz.ntmps112
  go_wp2_with (fail)
  refine (HB _).out.mono ?_
  rintro e w1 ⟨rfl,m1,rfl⟩
  go_wp2
  go_ret
  exact ⟨rfl,ai _ _ _⟩
 obtain ⟨k,rfl⟩:∃k:Nat,a=k:=⟨a.toNat,by
  unfold bf at hB
  rw [Bool.and_eq_true,decide_eq_true_iff] at hB;omega⟩
 have hr:=tG s ⟨#[60,47]⟩ k hB
 have hr:k+2≤s.size:=hr
 rw [CX nm s k hr (by omega) hB]
 have HN:=fun w=>Lib.hid (cB s ((k+2:Nat):Int) nm w (by omega) (by omega) (by omega) (by omega))
 obtain ⟨C,hC⟩:∃C,bf s ((k+2:Nat):Int) nm=C:=⟨_,rfl⟩
 rw [hC] at HN⊢
 obtain ⟨j,hj⟩:∃j,k+2=j:=⟨_,rfl⟩
 have hjj:(k:Int)+2=(j:Int):=by omega
 rw [hj] at HN hC hr
 have hkk:k≤1048576:=by omega
 have hj2:j≤1048576:=by omega
 cases C
 ·rw [Bool.false_and]
  clear hB ha h0 hC hj
  go_enter Tryz.func112,Tryz.ntmps112
  go_wp2_with (fail)
  refine (HB _).out.mono ?_
  rintro e w1 ⟨rfl,m1,rfl⟩
  go_wp2_with (fail)
  refine (HN _).out.mono ?_
  rintro e w2 ⟨rfl,m2,rfl⟩
  go_wp2
  go_ret
  exact ⟨rfl,ai _ _ _⟩
 ·rw [Bool.true_and]
  have hm:=tG s nm j hC
  obtain ⟨m,hmm⟩:∃m,j+nm.size=m:=⟨_,rfl⟩
  have hmi:(j:Int)+(nm.size:Int)=(m:Int):=by omega
  rw [hj,hmm]
  rw [hmm] at hm
  have hm2:m≤1048576:=by omega
  have HC:=fun w=>Lib.hid (CV (s.extract m s.size) w (by rw [ByteArray.size_extract];omega))
  rw [A7] at HC
  obtain ⟨D,hD⟩:∃D,(s.data.toList.drop m).head?.any eX=D:=⟨_,rfl⟩
  rw [hD] at HC⊢
  clear hB ha h0 hC hj hmm hD
  go_enter Tryz.func112,Tryz.ntmps112
  go_wp2_with (fail)
  refine (HB _).out.mono ?_
  rintro e w1 ⟨rfl,m1,rfl⟩
  go_wp2_with (fail)
  refine (HN _).out.mono ?_
  rintro e w2 ⟨rfl,m2,rfl⟩
  go_wp2_with (fail)
  refine (HC _).out.mono ?_
  rintro e w3 ⟨rfl,rfl⟩
  go_wp2
  go_ret
  exact ⟨rfl,ai _ _ _⟩
end Go.Proofs.YtajpoodpbbbkfaaGreatDoor
namespace Go.Proofs.YtajpoodpbbbkfaaGreatDoor
open Go.RowKit Go.Lib Go.Shelf
attribute [local go_sem] Oper.semAt_some
theorem Ko {W:World} {B:Nat} {v:Value} {t:TypeId} (h:W.heap[B]? =some (.cells #[v] t (0,0))):W.cell? ⟨B,0,none⟩=some v∧W.frozen? ⟨B,0,none⟩=false:=by
 constructor<;>simp [World.cell?,World.frozen?,h]
theorem pf (W:World) (v:Value) (t:TypeId):(W.alloc (.cells #[v] t)).cell? ⟨W.heap.size,0,none⟩=some v∧(W.alloc (.cells #[v] t)).frozen? ⟨W.heap.size,0,none⟩=false:=
 Ko (World.alloc_heap_new W _)
theorem dG {W:World} {a:Addr} {v:Value} (o:Obj) (h:W.cell? a=some v):(W.alloc o).cell? a=some v:=cell_kept h (World.grownBy_alloc W o none) (fun r e=>by cases e)
theorem tH {W:World} {a:Addr} {v:Value} (o:Obj) (h:W.cell? a=some v) (hf:W.frozen? a=false):(W.alloc o).frozen? a=false:=(frozen_kept h (World.grownBy_alloc W o none) (fun r e=>by cases e)).trans hf
theorem qO {W W':World} (h:Below W.heap.size W W'):KeepsOthers W W':=
 ⟨h.size,fun k _ hk _=>(h.block k (Array.getElem?_eq_some_iff.1 hk).1).trans hk⟩
abbrev MV:Type:={x:Nat//x≤1048576}
def qp (l : List MV) : List Nat := l.map (·.1)
theorem ph (l:List MV) (x:MV):qp (l++[x])=qp l++[x.1]:=by simp [qp]
theorem Kp (l:List MV):(qp l).length=l.length:=List.length_map _
theorem Kq (F:Fence) (n:Nat) (hf:F.fn 111) (hro:F.round=none) (s:ByteArray) (k:Int) (w:World):CallsIn F n Tryz.prog 111 #[.string s,.int .i64 k] w fun e w'=>e= .returned (.func (.func 159) #[] #[.pointer (some ⟨w.heap.size+1,0,none⟩),.pointer (some ⟨w.heap.size,0,none⟩)])∧w'=(w.alloc (.cells #[.string s] 9)).alloc (.cells #[.int .i64 k] 3):=by
 refine callsIn_of_wp Tryz.func111 rfl hf ?_ hro
 simp only [Tryz.ntmps111,List.size_toArray,List.length_cons,List.length_nil,Nat.reduceAdd,Nat.reduceSub,Array.replicate_succ,Array.replicate_zero,List.push_toArray,List.append_toArray,List.nil_append,List.cons_append]
 gi_wp2
 go_ret
 exact ⟨rfl,rfl⟩
theorem Gq (n:Nat) (hn:1≤n) (l Bs Bk n0:Nat) (s:ByteArray) (k:Nat) (hs:s.size≤1048576) (hk:k≤s.size) (J Jx:List MV→World→Prop) (hY:∀pre (x:MV) W,J pre W→pre.length<(bE k (s.data.toList.drop k)).length→YieldAt Fence.wide (n-1) Tryz.prog l #[.int .i64 (x.1:Int)] W fun e W'=>
 (e= .returned (.bool true)∧J (pre++[x]) W'∧Below n0 W W')∨(e= .returned (.bool false)∧Jx (pre++[x]) W')) (W:World) (hBs:W.cell? ⟨Bs,0,none⟩=some (.string s)) (hBk:W.cell? ⟨Bk,0,none⟩=some (.int .i64 (k:Int))) (hBn:Bs<n0) (hM:∃m,W.cell? ⟨0,0,none⟩=some (.int .i64 m)) (hMn:0<n0) (h0:J [] W):CallsIn Fence.wide n Tryz.prog 159 #[.func (.yield l) #[] #[],.pointer (some ⟨Bk,0,none⟩),.pointer (some ⟨Bs,0,none⟩)] W fun e W'=>(∃v,e= .returned v)∧((∃ys,qp ys=bE k (s.data.toList.drop k)∧J ys W')∨(∃pre,qp pre<+:bE k (s.data.toList.drop k)∧Jx pre W')):=by
 refine callsIn_of_wp Tryz.func159 rfl trivial ?_ rfl
 simp only [Tryz.ntmps159,List.size_toArray,List.length_cons,List.length_nil,Nat.reduceAdd,Nat.reduceSub,Array.replicate_succ,Array.replicate_zero,List.push_toArray,List.append_toArray,List.nil_append,List.cons_append]
 obtain ⟨L,hL⟩:∃L,bE k (s.data.toList.drop k)=L:=⟨_,rfl⟩
 rw [hL] at hY⊢
 have HL:=Lib.hid hL
 have HY:=Lib.hid hY
 clear hL hY
 gi_wp2
 gi_loopw [4] (fun p wr=>∃(j:Nat) (pre:List MV),p= .int .i64 (j:Int)∧j≤s.size∧Hid (qp pre++bE j (s.data.toList.drop j)=L)∧wr.cell? ⟨Bs,0,none⟩=some (.string s)∧(∃m,wr.cell? ⟨0,0,none⟩=some (.int .i64 m))∧J pre wr) (fun p wr=>s.size-(ae p).toNat)
 case atStart=>
  exact ⟨k,[],rfl,hk,HL,hBs,hM,h0⟩
 case round=>
  obtain ⟨j,pre,rfl,hj,HI,hBs',⟨m,hm⟩,hJ⟩:=hrel
  have HC:=Lib.hid ((callsIn_wide (n:=n-1)).2 (Tryz.strings_Index (s.extract j s.size) ⟨#[60,47]⟩ m wr (by rw [ByteArray.size_extract];omega) hm))
  rw [A7] at HC
  have hje:j≤1048576:=by omega
  have h1:1≤n-1+1:=by omega
  by_cases hneg:Lib.index (s.data.toList.drop j) [60,47]= -1
  ·have HE:=Lib.hid (qn j _ hneg)
   rw [show Lib.index (s.data.toList.drop j) (⟨#[60,47]⟩:ByteArray).data.toList= -1 from hneg] at HC
   clear hneg
   gi_wp2_with (refine ⟨trivial,?_⟩;gi_at_call 160;refine HC.out.mono ?_;rintro e w' ⟨rfl,rfl⟩)
   refine ⟨fun _ h=>(by cases h),?_⟩
   gi_wp2
   refine bodyPost_ret (results_none rfl _ _ _) rfl ?_
   exact ⟨⟨_,rfl⟩,.inl ⟨pre,by rw [←HI.out,HE.out,List.append_nil],hJ⟩⟩
  ·obtain ⟨i,hi⟩:∃i:Nat,Lib.index (s.data.toList.drop j) [60,47]=i:=⟨(Lib.index (s.data.toList.drop j) [60,47]).toNat,by have:=Lib.index_ge (s.data.toList.drop j) [60,47];omega⟩
   obtain ⟨hr,HE⟩:=qo j _ i hi
   rw [List.length_drop,←Lib.size_eq] at hr
   rw [List.drop_drop] at HE
   rw [show Lib.index (s.data.toList.drop j) (⟨#[60,47]⟩:ByteArray).data.toList=(i:Int) from hi] at HC
   obtain ⟨x,hx⟩:∃x,j+i=x:=⟨_,rfl⟩
   rw [show j+(i+2)=x+2 by omega,hx] at HE
   have hxi:(j:Int)+(i:Int)=(x:Int):=by omega
   have hlen:pre.length<L.length:=by
    rw [←HI.out,HE,List.length_append,List.length_cons,Kp];omega
   obtain ⟨fn,tmps,assign,body,hy,hR⟩:=HY.out pre ⟨x,by omega⟩ wr hJ hlen
   dsimp only at hy
   have HE:=Lib.hid HE
   have di:decide ((i:Int)<0)=false:=decide_eq_false (by omega)
   clear hneg hi hlen
   gi_wp2_with (refine ⟨trivial,?_⟩;gi_at_call 160;refine HC.out.mono ?_;rintro e w' ⟨rfl,rfl⟩)
   refine hR.mono ?_
   rintro e W3 (⟨rfl,hJ3,hk3⟩|⟨rfl,hJx3⟩)
   ·have hs3:W3.cell? ⟨Bs,0,none⟩=some (.string s):=(hk3.cell (p:=⟨Bs,0,none⟩) hBn).trans hBs'
    have hm3:W3.cell? ⟨0,0,none⟩=some (.int .i64 m):=(hk3.cell (p:=⟨0,0,none⟩) hMn).trans hm
    gi_wp2
    go_roundw
    case rel=>exact ⟨x+2,pre++[⟨x,_⟩],by congr 1;omega,by omega,Lib.hid (by rw [ph,List.append_assoc,List.singleton_append,←HE.out];exact HI.out),hs3,⟨m,hm3⟩,hJ3⟩
    case measure=>simp [ae];omega
   ·gi_wp2
    refine bodyPost_ret (results_none rfl _ _ _) rfl ?_
    exact ⟨⟨_,rfl⟩,.inr ⟨pre++[⟨x,_⟩],⟨bE (x+2) (s.data.toList.drop (x+2)),by rw [ph,List.append_assoc,List.singleton_append,←HE.out];exact HI.out⟩,hJx3⟩⟩
theorem A9 (n:Nat) (hn:1≤n) (Bs Bk n0:Nat) (s:ByteArray) (k:Nat) (hs:s.size≤1048576) (hk:k≤s.size) (w:World) (hBs:Bs<w.heap.size) (hBk:Bk<w.heap.size) (cs:w.cell? ⟨Bs,0,none⟩=some (.string s)) (ck:w.cell? ⟨Bk,0,none⟩=some (.int .i64 (k:Int))) (hBn:Bs<n0) (hM:qA w) (hMn:0<n0):SeqStopsK Fence.wide n Tryz.prog 159 #[.pointer (some ⟨Bk,0,none⟩),.pointer (some ⟨Bs,0,none⟩)] (fun x:MV=>#[Value.int .i64 (x.1:Int)]) (Below n0) (fun ys=>qp ys=bE k (s.data.toList.drop k)) (fun pre=>qp pre<+:bE k (s.data.toList.drop k)) (bE k (s.data.toList.drop k)).length w:=fun l J Jx W hW _ _ hY h0=>
 Gq n hn l Bs Bk n0 s k hs hk J Jx hY W ((hW.cell (p:=⟨Bs,0,none⟩) hBs).trans cs) ((hW.cell (p:=⟨Bk,0,none⟩) hBk).trans ck) hBn (hM.below hW).cell hMn h0
theorem Kr (s:ByteArray) (a:Int) (nm:ByteArray) (w:World) (hs:s.size≤1048576) (hn:nm.size≤1048576) (ha: -9223372036854775808≤a∧a≤9223372036854775807) (hM:qA w):Calls Tryz.prog 60 #[.string s,.int .i64 a,.string nm] w fun e W'=>e= .returned (.int .i64 (eZ nm.data.toList s.data.toList a:Int))∧Below w.heap.size w W':=by
 obtain ⟨k,hk⟩:∃k,yp s.size a=k:=⟨_,rfl⟩
 have hks:k≤s.size:=by unfold yp at hk;omega
 have hfv:eZ nm.data.toList s.data.toList a=eZ nm.data.toList s.data.toList (k:Int):=by
  rw [fa _ _ k (by rw [←Lib.size_eq];exact hks)]
  unfold eZ;rw [←Lib.size_eq,hk]
 rw [hfv]
 have hmn:max (0:Int) (min a (s.size:Int))=(k:Int):=by unfold yp at hk;omega
 clear hfv hk
 obtain ⟨L,hL⟩:∃L,bE k (s.data.toList.drop k)=L:=⟨_,rfl⟩
 have HL:=Lib.hid hL
 refine (callsIn_wide (n:=3)).1 ?_
 refine callsIn_of_wp_marks Tryz.func60 rfl trivial ?_ rfl
 simp only [Tryz.ntmps60,List.size_toArray,List.length_cons,List.length_nil,Nat.reduceAdd,Nat.reduceSub,Array.replicate_succ,Array.replicate_zero,List.push_toArray,List.append_toArray,List.nil_append,List.cons_append]
 gi_wp2_with (refine ⟨trivial,?_⟩;gi_at_call 111;refine (Kq Fence.wide _ trivial rfl s (k:Int) _).mono ?_;rintro e w' ⟨rfl,rfl⟩)
 obtain ⟨W0,hW0⟩:∃W0,(((((w.alloc (.cells #[.string s] 9)).alloc (.cells #[.string nm] 9)).alloc (.cells #[.int .i64 0] 3)).alloc (.cells #[.string s] 9)).alloc (.cells #[.int .i64 (k:Int)] 3))=W0:=⟨_,rfl⟩
 have c0:=pf w (.string s) 9
 have c1:=pf (w.alloc (.cells #[.string s] 9)) (.string nm) 9
 have c2:=pf ((w.alloc (.cells #[.string s] 9)).alloc (.cells #[.string nm] 9)) (.int .i64 0) 3
 have c3:=pf (((w.alloc (.cells #[.string s] 9)).alloc (.cells #[.string nm] 9)).alloc (.cells #[.int .i64 0] 3)) (.string s) 9
 have c4:=pf ((((w.alloc (.cells #[.string s] 9)).alloc (.cells #[.string nm] 9)).alloc (.cells #[.int .i64 0] 3)).alloc (.cells #[.string s] 9)) (.int .i64 (k:Int)) 3
 simp only [World.size_alloc] at c1 c2 c3 c4
 have d0:W0.cell? ⟨w.heap.size,0,none⟩=some (.string s):=by rw [←hW0];exact dG _ (dG _ (dG _ (dG _ c0.1)))
 have d1:W0.cell? ⟨w.heap.size+1,0,none⟩=some (.string nm):=by rw [←hW0];exact dG _ (dG _ (dG _ c1.1))
 have d2:W0.cell? ⟨w.heap.size+1+1,0,none⟩=some (.int .i64 0):=by rw [←hW0];exact dG _ (dG _ c2.1)
 have e2:W0.frozen? ⟨w.heap.size+1+1,0,none⟩=false:=by rw [←hW0];exact tH _ (dG _ c2.1) (tH _ c2.1 c2.2)
 have d3:W0.cell? ⟨w.heap.size+1+1+1,0,none⟩=some (.string s):=by rw [←hW0];exact dG _ c3.1
 have d4:W0.cell? ⟨w.heap.size+1+1+1+1,0,none⟩=some (.int .i64 (k:Int)):=by rw [←hW0];exact c4.1
 have hz:W0.heap.size=w.heap.size+5:=by rw [←hW0];simp
 have hB0:Below w.heap.size w W0:=by
  rw [←hW0]
  exact (((((Below.refl _ w).alloc (Nat.le_refl _) _).alloc (by simp) _).alloc (by simp;omega) _).alloc (by simp;omega) _).alloc (by simp;omega) _
 have hM0:qA W0:=hM.below hB0
 have hlt:=hM.lt
 rw [hW0]
 clear c0 c1 c2 c3 c4
 have HE:=fun (x:MV) w=>Lib.hid ((callsIn_wide (n:=3-1-1-1)).2 (A8 s (x.1:Int) nm w hs hn (by have:=x.2;omega)))
 clear ha hmn
 refine wpIn_rangeFunc_ownF rfl (by omega) (gf:=159) (lb:=#[.pointer (some ⟨w.heap.size+1+1+1+1,0,none⟩),.pointer (some ⟨w.heap.size+1+1+1,0,none⟩)]) rfl trivial (enters_of Tryz.func159 (by kernel_rfl) rfl) (A9 (3-1) (by omega) (w.heap.size+1+1+1) (w.heap.size+1+1+1+1) (w.heap.size+5) s k hs hks W0 (by omega) (by omega) d3 d4 (by omega) hM0 (by omega)) belowK_t (belowK_b (by omega)) (Below.refl _ _) (fun _=>rfl) (fun pre W=>((∀y∈qp pre,cb nm.data.toList (s.data.toList.drop y)=false)∧W.cell? ⟨w.heap.size,0,none⟩=some (.string s)∧W.cell? ⟨w.heap.size+1,0,none⟩=some (.string nm)∧W.cell? ⟨w.heap.size+1+1,0,none⟩=some (.int .i64 0)∧W.frozen? ⟨w.heap.size+1+1,0,none⟩=false)∧w.heap.size+5≤W.heap.size∧Below w.heap.size w W) (fun c pre W=>(c= .ret∧∃p x,pre=p++[x]∧(∀y∈qp p,cb nm.data.toList (s.data.toList.drop y)=false)∧cb nm.data.toList (s.data.toList.drop x.1)=true∧W.cell? ⟨w.heap.size+1+1,0,none⟩=some (.int .i64 (x.1:Int)))∧Below w.heap.size w W) (OwnFrom.and (Own.from (fun _ _ _ _ hs hg hr=>⟨hs.1,cell_kept hs.2.1 hg hr,cell_kept hs.2.2.1 hg hr,cell_kept hs.2.2.2.1 hg hr,(frozen_kept hs.2.2.2.1 hg hr).trans hs.2.2.2.2⟩) _) (OwnFrom.and (fun _ _ _ _ hs hg _=>Nat.le_trans hs hg.size) (ownFrom_below (Nat.le_refl _) (by omega)))) (fun c=>OwnFrom.and (Own.from (fun s A B row hs hg hr=>by
  obtain ⟨h1,p,x,h2,h3,h4,h5⟩:=hs
  exact ⟨h1,p,x,h2,h3,h4,cell_kept h5 hg hr⟩) _) (ownFrom_below (Nat.le_refl _) (by omega))) ⟨⟨by simp [qp],d0,d1,d2,e2⟩,by omega,hB0⟩ (fun x=>{tmps:=#[.string s,.int .i64 a,.string nm,.pointer (some ⟨w.heap.size,0,none⟩),undef,.pointer (some ⟨w.heap.size+1,0,none⟩),.pointer (some ⟨w.heap.size+1+1,0,none⟩),.int .i64 (k:Int),.int .i64 (x.1:Int),.int .i64 a,.string s,.int .i64 (s.size:Int),.int .i64 (min a (s.size:Int)),.int .i64 (k:Int),.string s,.int .i64 (k:Int),.func (.func 159) #[] #[.pointer (some ⟨w.heap.size+1+1+1+1,0,none⟩),.pointer (some ⟨w.heap.size+1+1+1,0,none⟩)],.int .i64 (x.1:Int),undef,undef,undef,undef,undef,undef,undef],defers:=[]}) ?assign ?body ?done ?stop
 case assign=>
  intro l x W K hK
  gi_wp2
  exact hK
 case body=>
  rintro l pre x W ⟨⟨hp,hcs,hcn,hcr,hfr⟩,hsz,hB⟩ _
  have HX:=HE x W
  rw [kE] at HX
  obtain ⟨E,hE⟩:∃E,cb nm.data.toList (s.data.toList.drop x.1)=E:=⟨_,rfl⟩
  rw [hE] at HX
  have HN:=Lib.hid hE
  have HP:=Lib.hid hp
  clear hE hp HE
  cases E
  ·gi_wp2_with (refine ⟨trivial,?_⟩;gi_at_call 112;refine (CallsIn.inRound l HX.out).mono ?_;rintro e w' ⟨rfl,b1⟩)
   exact ⟨qO b1,b1.mono hsz,⟨⟨fun y hy=>by
    rw [ph,List.mem_append,List.mem_singleton] at hy
    exact hy.elim (HP.out y) (fun e=>e▸HN.out),(b1.cell (p:=⟨w.heap.size,0,none⟩) (by simp;omega)).trans hcs,(b1.cell (p:=⟨w.heap.size+1,0,none⟩) (by simp;omega)).trans hcn,(b1.cell (p:=⟨w.heap.size+1+1,0,none⟩) (by simp;omega)).trans hcr,(b1.frozen (p:=⟨w.heap.size+1+1,0,none⟩) (by simp;omega)).trans hfr⟩,Nat.le_trans hsz b1.size,hB.trans (b1.mono (by omega))⟩⟩
  ·gi_wp2_with (refine ⟨trivial,?_⟩;gi_at_call 112;refine (CallsIn.inRound l HX.out).mono ?_;rintro e w' ⟨rfl,b1⟩;have hcr':=(b1.cell (p:=⟨w.heap.size+1+1,0,none⟩) (by simp;omega)).trans hcr;have hfr':=(b1.frozen (p:=⟨w.heap.size+1+1,0,none⟩) (by simp;omega)).trans hfr)
   exact ⟨(qO b1).trans (KeepsOthers.setCell _ _ _),⟨rfl,pre,x,rfl,HP.out,HN.out,World.cell?_setCell_same' _ _ _ (by rw [hcr'];rfl)⟩,(hB.trans (b1.mono (by omega))).setCell (p:=⟨w.heap.size+1+1,0,none⟩) (by simp;omega) _⟩
 case done=>
  rintro D ys W hD hys ⟨⟨hp,hcs,hcn,hcr,hfr⟩,hsz,hB⟩ hK
  have HF:=Lib.hid (rj nm.data.toList s.data.toList k (by rw [←Lib.size_eq];exact hks) (by rw [←hys];exact hp))
  rw [←Lib.size_eq] at HF
  clear hp hys
  gi_wp2
  have hK':=(KeepsOthers.setCell W ⟨w.heap.size+1+1,0,none⟩ (.int .i64 (s.size:Int))).same D _ hK rfl
  refine ⟨by simp,.inl ⟨_,_,rfl,run_takeDeferred hK',?_⟩⟩
  have hc5:=cell_kept (World.cell?_setCell_same' W ⟨w.heap.size+1+1,0,none⟩ (.int .i64 (s.size:Int)) (by rw [hcr];rfl)) (grownBy_putObj' _ D (.deferred none)) (fun r e=>by cases e;exact ⟨_,hK',rfl⟩)
  refine ⟨.int .i64 (s.size:Int),?_,az (by rw [HF.out]),(hB.setCell (p:=⟨w.heap.size+1+1,0,none⟩) (by simp;omega) _).trans (belowK_b (w:=w) (Nat.le_refl _) _ D _ _ (by omega) hK' rfl rfl)⟩
  simp [results,Tryz.f60,go_sem,hc5]
 case stop=>
  rintro D c pre W hD hpre ⟨⟨rfl,p,x,rfl,hp,hx,hcr⟩,hB⟩ hK
  rw [ph] at hpre
  have HF:=Lib.hid (tF nm.data.toList s.data.toList k x.1 (qp p) (by rw [←Lib.size_eq];exact hks) hpre hp hx)
  clear hp hpre hx
  gi_wp2
  refine ⟨by simp,.inl ⟨_,_,rfl,run_takeDeferred hK,?_⟩⟩
  have hc5:=cell_kept hcr (grownBy_putObj' _ D (.deferred none)) (fun r e=>by cases e;exact ⟨_,hK,rfl⟩)
  refine ⟨.int .i64 (x.1:Int),?_,az (by rw [HF.out]),hB.trans (belowK_b (w:=w) (Nat.le_refl _) W D _ _ (by omega) hK rfl rfl)⟩
  simp [results,Tryz.f60,go_sem,hc5]
end Go.Proofs.YtajpoodpbbbkfaaGreatDoor
namespace Go.Proofs.YtajpoodpbbbkfaaGreatDoor
open Go.RowKit Go.Lib
theorem qQ (s:ByteArray) (a:Int) (nm:ByteArray) (w:World) (hs:s.size≤1048576) (hn:nm.size≤1048576) (ha: -9223372036854775808≤a∧a≤9223372036854775807) (h:bn w):Calls Tryz.prog 60 #[.string s,.int .i64 a,.string nm] w fun e w'=>e= .returned (.int .i64 (eZ nm.data.toList s.data.toList a:Int))∧Below w.heap.size w w':=Kr s a nm w hs hn ha h.max
theorem Ba (s:ByteArray) (refs:Bool) (w:World) (hs:s.size≤1048576) (h:bn w):Calls Tryz.prog 62 #[.string s,.bool refs] w fun e w'=>e= .returned (.string ⟨(kF refs s.data.toList).toArray⟩)∧Below w.heap.size w w':=by
 have HT:=Lib.hid h.tab
 have HE:=Lib.hid h.err
 unfold kF
 cases refs
 ·rw [if_neg Bool.false_ne_true]
  have HC:=fun w=>Lib.hid (gm s w (by omega))
  clear h
  go_enter Tryz.func62,Tryz.ntmps62
  go_wp2_with (fail)
  refine (HC _).out.mono ?_
  rintro e w1 ⟨rfl,b1⟩
  go_wp2
  go_ret
  exact ⟨rfl,b1⟩
 ·rw [if_pos rfl]
  have HD:=fun w h1 h2=>Lib.hid (ns s false w (by omega) h1 h2)
  have hl:=lx false s.data.toList.length s.data.toList (Nat.le_refl _)
  rw [←Lib.size_eq] at hl
  have HC:=fun w=>Lib.hid (gm ⟨(dQ false s.data.toList).toArray⟩ w (by rw [Lib.size_eq,List.toList_toArray];omega))
  obtain ⟨X,hX⟩:∃X:ByteArray,(⟨(dQ false s.data.toList).toArray⟩:ByteArray)=X:=⟨_,rfl⟩
  obtain ⟨Y,hY⟩:∃X:ByteArray,(⟨(ap (dQ false s.data.toList)).toArray⟩:ByteArray)=X:=⟨_,rfl⟩
  have hXl:X.data.toList=dQ false s.data.toList:=by rw [←hX,List.toList_toArray]
  rw [hX] at HC HD
  rw [hXl,hY] at HC
  rw [hY]
  clear hX hXl hY hl h
  go_enter Tryz.func62,Tryz.ntmps62
  go_wp2_with (fail)
  refine (HD _ HT.out HE.out).out.mono ?_
  rintro e w1 ⟨rfl,b1⟩
  go_wp2_with (fail)
  refine (HC _).out.mono ?_
  rintro e w2 ⟨rfl,b2⟩
  go_wp2
  go_ret
  exact ⟨rfl,b1.trans (b2.mono b1.size)⟩
end Go.Proofs.YtajpoodpbbbkfaaGreatDoor
namespace Go.Proofs.YtajpoodpbbbkfaaGreatDoor
open Go.RowKit Go.Lib
theorem CY (c:UInt8) (w:World):Calls Tryz.prog 224 #[.int .u8 ((c.toNat:Nat):Int)] w fun e w'=>e= .returned (.bool (eX c))∧w'=w:=by
 rw [mq]
 have hlt:=c.toNat_lt
 have HS:=fun w=>Lib.hid (yv ((c.toNat:Nat):Int) w (by omega) (by omega))
 obtain ⟨S,hS⟩:∃S,cG ((c.toNat:Nat):Int)=S:=⟨_,rfl⟩
 obtain ⟨T,hT⟩:∃S,(((c.toNat:Nat):Int)==47)=S:=⟨_,rfl⟩
 obtain ⟨U,hU⟩:∃S,(((c.toNat:Nat):Int)==62)=S:=⟨_,rfl⟩
 rw [hS] at HS
 rw [hS,hT,hU]
 clear hS hlt
 cases T
 ·cases U
  ·go_enter Tryz.func224,Tryz.ntmps224
   go_wp2_with (go_at_call 150;refine (HS _).out.mono ?_;rintro e w' ⟨rfl,rfl⟩)
   go_ret
   exact ⟨au (by simp),rfl⟩
  ·go_enter Tryz.func224,Tryz.ntmps224
   go_wp2_with (go_at_call 150;refine (HS _).out.mono ?_;rintro e w' ⟨rfl,rfl⟩)
   go_ret
   exact ⟨au (by simp),rfl⟩
 ·go_enter Tryz.func224,Tryz.ntmps224
  go_wp2_with (go_at_call 150;refine (HS _).out.mono ?_;rintro e w' ⟨rfl,rfl⟩)
  go_ret
  exact ⟨au (by simp),rfl⟩
def lV (o l:ab):Nat:=if ef o l=true then o.length+7 else 0
theorem tI (s:ByteArray) (k:Nat) (tag:ByteArray) (o:ab) (w:World) (hs:s.size≤1048576) (hk:k<s.size) (ht:tag.data.toList=o++nz) (ho:o.length≤2):Calls Tryz.prog 195 #[.string s,.int .i64 (k:Int),.string tag] w fun e w'=>e= .returned (.int .i64 (lV o (s.data.toList.drop k):Int))∧Below w.heap.size w w':=by
 have hts:tag.size=o.length+6:=by rw [Lib.size_eq,ht,List.length_append];rfl
 have HB:=fun w=>Lib.hid (cB s (k:Int) tag w (by omega) (by omega) (by omega) (by omega))
 have hb:=mw s k tag (by omega)
 rw [ht] at hb
 have hv:ef o (s.data.toList.drop k)=(bf s (k:Int) tag&&(s.data.toList.drop (k+tag.size)).head?.any eX):=by
  rw [hb]
  unfold ef
  rw [List.drop_drop,hts]
 have hr:bf s (k:Int) tag=true→k+tag.size≤s.size:=tG s tag k
 have hn:lV o (s.data.toList.drop k)=if (bf s (k:Int) tag&&(s.data.toList.drop (k+tag.size)).head?.any eX)=true then tag.size+1 else 0:=by
  unfold lV
  rw [hv,hts]
 rw [hn]
 obtain ⟨B,hB⟩:∃B,bf s (k:Int) tag=B:=⟨_,rfl⟩
 rw [hB] at HB hr⊢
 obtain ⟨j,hj⟩:∃j,k+tag.size=j:=⟨_,rfl⟩
 have hjj:(k:Int)+(tag.size:Int)=(j:Int):=by omega
 have hk20:k≤1048576:=by omega
 have hj20:j≤1048584:=by omega
 have ht20:tag.size≤8:=by omega
 rw [hj] at hr⊢
 obtain ⟨E,hE⟩:∃E,(s.data.toList.drop j).head?.any eX=E:=⟨_,rfl⟩
 simp only [hE]
 clear hB hb hv hn hj hts ht ho
 cases B
 ·clear hr hE
  simp only [Bool.false_and,Bool.false_eq_true,if_false]
  go_enter Tryz.func195,Tryz.ntmps195
  go_wp2_with (fail)
  refine (HB _).out.mono ?_
  rintro e w1 ⟨rfl,m1,rfl⟩
  go_wp2
  go_ret
  exact ⟨rfl,ai _ _ _⟩
 ·have hr:=hr rfl
  simp only [Bool.true_and]
  by_cases hlt:j<s.size
  ·rw [aj s j hlt] at hE
   have hE:eX s[j]=E:=by simpa using hE
   have HC:=fun w=>Lib.hid (CY s[j] w)
   rw [hE] at HC
   clear hE hr
   cases E
   ·simp only [Bool.false_eq_true,if_false]
    go_enter Tryz.func195,Tryz.ntmps195
    go_wp2_with (fail)
    refine (HB _).out.mono ?_
    rintro e w1 ⟨rfl,m1,rfl⟩
    go_wp2_with (go_at_call 224;refine (HC _).out.mono ?_;rintro e w' ⟨rfl,rfl⟩)
    go_ret
    exact ⟨rfl,ai _ _ _⟩
   ·simp only [if_true]
    go_enter Tryz.func195,Tryz.ntmps195
    go_wp2_with (fail)
    refine (HB _).out.mono ?_
    rintro e w1 ⟨rfl,m1,rfl⟩
    go_wp2_with (go_at_call 224;refine (HC _).out.mono ?_;rintro e w' ⟨rfl,rfl⟩)
    go_ret
    exact ⟨az (by omega),ai _ _ _⟩
  ·have hje:j=s.size:=by omega
   rw [List.drop_eq_nil_of_le (by rw [←Lib.size_eq];omega)] at hE
   obtain rfl:E=false:=hE.symm
   simp only [Bool.false_eq_true,if_false]
   have bj:((j:Int)==(s.size:Int))=true:=by rw [beq_iff_eq];omega
   have HJ:=Lib.hid hje
   clear hje hlt hr hE
   go_enter Tryz.func195,Tryz.ntmps195
   go_wp2_with (fail)
   refine (HB _).out.mono ?_
   rintro e w1 ⟨rfl,m1,rfl⟩
   go_wp2
   go_ret
   exact ⟨rfl,ai _ _ _⟩
def Bb (i st k:Int):Array Value:=#[.int .i64 i,.int .i64 st,.int .i64 k]
theorem eJ : (Tryz.prog.info? 130).map (·.size) = some 3 := by kernel_rfl
theorem cN {w:World} {g:Nat} {a b c:Value} {T:TypeId} (h:w.heap[g]? =some (.cells #[a,b,c] T (0,0))):w.cell? ⟨g,0,none⟩=some a∧w.cell? ⟨g,1,none⟩=some b∧w.cell? ⟨g,2,none⟩=some c∧w.frozen? ⟨g,0,none⟩=false:=by
 simp [World.cell?,World.frozen?,h]
section
variable {P:Program} {ops:Array Oper} {rest:List Oper} {o:Oper} {a:Act} {w:World} {Q:Exit→Act→World→Prop}
theorem bY (T : TypeId) (hg : o.guard = none) (x y : Operand) (ho : o.op = .store T x y) (g : Nat) (i st k : Int)
    (hx : a.eval x = .pointer (some ⟨g, 0, none⟩)) (hy : a.eval y = .agg (Bb i st k)) (i' st' k' : Int) (hb : w.heap[g]? = some (.cells (Bb i' st' k') T (0, 0))) (hs : (P.info? T).map (·.size) = some 3)
    (hK : ∀ w', w'.heap[g]? = some (.cells (Bb i st k) T (0, 0)) → w.grownBy w' (some g) → wpList P ops Q rest (a.put o.dst undef) w') :
    wpList P ops Q (o :: rest) a w :=
  pV hg T x y ho g (Bb i st k) T hx hy (Bb i' st' k') hb hs rfl (by simp [Bb, Value.oneCell']) hK
end
theorem lW {a b c a' b' c':Int} (h1:a=a') (h2:b=b') (h3:c=c'):Ending.returned (.agg (Bb a b c))= .returned (.agg #[.int .i64 a',.int .i64 b',.int .i64 c']):=by rw [h1,h2,h3];rfl
theorem MW (s:ByteArray) (i st k:Nat) (w:World) (hs:s.size≤1048576) (hi:i<s.size) (hk:k≤1048580) (b45:(((s[i].toNat:Nat):Int)==45)=true):Calls Tryz.prog 162 #[.agg #[.int .i64 (i:Int),.int .i64 (st:Int),.int .i64 (k:Int)],.string s] w fun e w'=>e= .returned (.agg #[.int .i64 ((i+1:Nat):Int),.int .i64 (st:Int),.int .i64 ((k+1:Nat):Int)])∧Below w.heap.size w w':=by
 go_enter Tryz.func162,Tryz.ntmps162
 go_wp2
 refine bodyPost_ret (results_cell_row rfl _ _ (w.heap.size+1) 130 (Bb ((i:Int)+1) ((st:Int)) ((k:Int)+1)) (0,0) _ rfl (heap_alloc2_new w _ _) Tryz.underlying130 rfl eJ) rfl ?_
 exact ⟨lW (by omega) (by omega) (by omega),((Below.refl _ w).alloc (Nat.le_refl _) _).alloc (by simp) _⟩
theorem MX (s:ByteArray) (i st k:Nat) (w:World) (hs:s.size≤1048576) (hi:i<s.size) (b45:(((s[i].toNat:Nat):Int)==45)=false) (b62:(((s[i].toNat:Nat):Int)==62)=true) (bk:decide ((2:Int)≤(k:Int))=true):Calls Tryz.prog 162 #[.agg #[.int .i64 (i:Int),.int .i64 (st:Int),.int .i64 (k:Int)],.string s] w fun e w'=>e= .returned (.agg #[.int .i64 ((i+1:Nat):Int),.int .i64 ((0:Nat):Int),.int .i64 ((0:Nat):Int)])∧Below w.heap.size w w':=by
 go_enter Tryz.func162,Tryz.ntmps162
 go_wp2
 refine bodyPost_ret (results_cell_row rfl _ _ (w.heap.size+1) 130 (Bb ((i:Int)+1) (0) (0)) (0,0) _ rfl (heap_alloc2_new w _ _) Tryz.underlying130 rfl eJ) rfl ?_
 exact ⟨lW (by omega) (by omega) (by omega),((Below.refl _ w).alloc (Nat.le_refl _) _).alloc (by simp) _⟩
theorem MY (s:ByteArray) (i k:Nat) (w:World) (hs:s.size≤1048576) (hi:i<s.size) (b45:(((s[i].toNat:Nat):Int)==45)=false) (hb:(((s[i].toNat:Nat):Int)==62)=false∨(((s[i].toNat:Nat):Int)==62)=true∧decide ((2:Int)≤(k:Int))=false):Calls Tryz.prog 162 #[.agg #[.int .i64 (i:Int),.int .i64 ((1:Nat):Int),.int .i64 (k:Int)],.string s] w fun e w'=>e= .returned (.agg #[.int .i64 ((i+(if 0<lV [60] (s.data.toList.drop i) then lV [60] (s.data.toList.drop i) else 1):Nat):Int),.int .i64 ((if 0<lV [60] (s.data.toList.drop i) then 2 else 1:Nat):Int),.int .i64 ((0:Nat):Int)])∧Below w.heap.size w w':=by
 have hb2:(((s[i].toNat:Nat):Int)==62)=false∨(((s[i].toNat:Nat):Int)==62)=true∧decide ((2:Int)≤(k:Int))=false:=hb
 have HT:=fun w=>Lib.hid (tI s i ⟨#[60,115,99,114,105,112,116]⟩ [60] w hs hi rfl (by decide))
 obtain ⟨N,hN⟩:∃N,lV [60] (s.data.toList.drop i)=N:=⟨_,rfl⟩
 have hN9:N≤9:=by
  rw [←hN];unfold lV;split<;>simp
 rw [hN] at HT⊢
 have h0:N=0∨0<N:=by omega
 clear hN hb
 rcases h0 with rfl|h0
 ·simp only [Nat.lt_irrefl,if_false]
  rcases hb2 with b62|⟨b62,bk⟩
  all_goals
   go_enter Tryz.func162,Tryz.ntmps162
   go_wp2_with (fail)
   refine (HT _).out.mono ?_
   rintro e w1 ⟨rfl,b1⟩
   have p1:=(b1.block w.heap.size (by simp;omega)).trans (heap_alloc2_old w _ _)
   have z1:=(b1.block (w.heap.size+1) (by simp)).trans (heap_alloc2_new w _ _)
   have B1:=Lib.hid ((((Below.refl _ w).alloc (Nat.le_refl _) (.cells #[.int .i64 (i:Int),.int .i64 (1:Nat),.int .i64 (k:Int)] 130)).alloc (by simp) (.cells #[.int .i64 0,.int .i64 0,.int .i64 0] 130)).trans (b1.mono (by simp;omega)))
   obtain ⟨x0,x1,x2,x3⟩:=cN p1
   clear b1
   go_wp2_with (first|(refine bY 130 rfl _ _ rfl (w.heap.size+1) ((i:Int)+1) 1 0 rfl rfl 0 0 0 z1 eJ ?_;intro wy ry gy))
   refine bodyPost_ret (results_cell_row rfl _ _ (w.heap.size+1) 130 (Bb ((i:Int)+1) 1 0) (0,0) _ rfl ry Tryz.underlying130 rfl eJ) rfl ?_
   exact ⟨lW (by omega) (by omega) (by omega),B1.out.grown gy B1.out.size (fun j hj=>by cases hj;omega)⟩
 ·simp only [if_pos h0]
  rcases hb2 with b62|⟨b62,bk⟩
  all_goals
   go_enter Tryz.func162,Tryz.ntmps162
   go_wp2_with (fail)
   refine (HT _).out.mono ?_
   rintro e w1 ⟨rfl,b1⟩
   have p1:=(b1.block w.heap.size (by simp;omega)).trans (heap_alloc2_old w _ _)
   have z1:=(b1.block (w.heap.size+1) (by simp)).trans (heap_alloc2_new w _ _)
   have B1:=Lib.hid ((((Below.refl _ w).alloc (Nat.le_refl _) (.cells #[.int .i64 (i:Int),.int .i64 (1:Nat),.int .i64 (k:Int)] 130)).alloc (by simp) (.cells #[.int .i64 0,.int .i64 0,.int .i64 0] 130)).trans (b1.mono (by simp;omega)))
   obtain ⟨x0,x1,x2,x3⟩:=cN p1
   clear b1
   go_wp2_with (first|(refine bY 130 rfl _ _ rfl (w.heap.size+1) ((i:Int)+(N:Int)) 2 0 rfl rfl 0 0 0 z1 eJ ?_;intro wy ry gy))
   refine bodyPost_ret (results_cell_row rfl _ _ (w.heap.size+1) 130 (Bb ((i:Int)+(N:Int)) 2 0) (0,0) _ rfl ry Tryz.underlying130 rfl eJ) rfl ?_
   exact ⟨lW (by omega) (by omega) (by omega),B1.out.grown gy B1.out.size (fun j hj=>by cases hj;omega)⟩
theorem M7 (s:ByteArray) (i k:Nat) (w:World) (hs:s.size≤1048576) (hi:i<s.size) (b45:(((s[i].toNat:Nat):Int)==45)=false) (hb:(((s[i].toNat:Nat):Int)==62)=false∨(((s[i].toNat:Nat):Int)==62)=true∧decide ((2:Int)≤(k:Int))=false):Calls Tryz.prog 162 #[.agg #[.int .i64 (i:Int),.int .i64 ((2:Nat):Int),.int .i64 (k:Int)],.string s] w fun e w'=>e= .returned (.agg #[.int .i64 ((i+(if 0<lV [60,47] (s.data.toList.drop i) then lV [60,47] (s.data.toList.drop i) else 1):Nat):Int),.int .i64 ((if 0<lV [60,47] (s.data.toList.drop i) then 1 else 2:Nat):Int),.int .i64 ((0:Nat):Int)])∧Below w.heap.size w w':=by
 have hb2:(((s[i].toNat:Nat):Int)==62)=false∨(((s[i].toNat:Nat):Int)==62)=true∧decide ((2:Int)≤(k:Int))=false:=hb
 have HT:=fun w=>Lib.hid (tI s i ⟨#[60,47,115,99,114,105,112,116]⟩ [60,47] w hs hi rfl (by decide))
 obtain ⟨N,hN⟩:∃N,lV [60,47] (s.data.toList.drop i)=N:=⟨_,rfl⟩
 have hN9:N≤9:=by
  rw [←hN];unfold lV;split<;>simp
 rw [hN] at HT⊢
 have h0:N=0∨0<N:=by omega
 clear hN hb
 rcases h0 with rfl|h0
 ·simp only [Nat.lt_irrefl,if_false]
  rcases hb2 with b62|⟨b62,bk⟩
  all_goals
   go_enter Tryz.func162,Tryz.ntmps162
   go_wp2_with (fail)
   refine (HT _).out.mono ?_
   rintro e w1 ⟨rfl,b1⟩
   have p1:=(b1.block w.heap.size (by simp;omega)).trans (heap_alloc2_old w _ _)
   have z1:=(b1.block (w.heap.size+1) (by simp)).trans (heap_alloc2_new w _ _)
   have B1:=Lib.hid ((((Below.refl _ w).alloc (Nat.le_refl _) (.cells #[.int .i64 (i:Int),.int .i64 (2:Nat),.int .i64 (k:Int)] 130)).alloc (by simp) (.cells #[.int .i64 0,.int .i64 0,.int .i64 0] 130)).trans (b1.mono (by simp;omega)))
   obtain ⟨x0,x1,x2,x3⟩:=cN p1
   clear b1
   go_wp2_with (first|(refine bY 130 rfl _ _ rfl (w.heap.size+1) ((i:Int)+1) 2 0 rfl rfl 0 0 0 z1 eJ ?_;intro wy ry gy))
   refine bodyPost_ret (results_cell_row rfl _ _ (w.heap.size+1) 130 (Bb ((i:Int)+1) 2 0) (0,0) _ rfl ry Tryz.underlying130 rfl eJ) rfl ?_
   exact ⟨lW (by omega) (by omega) (by omega),B1.out.grown gy B1.out.size (fun j hj=>by cases hj;omega)⟩
 ·simp only [if_pos h0]
  rcases hb2 with b62|⟨b62,bk⟩
  all_goals
   go_enter Tryz.func162,Tryz.ntmps162
   go_wp2_with (fail)
   refine (HT _).out.mono ?_
   rintro e w1 ⟨rfl,b1⟩
   have p1:=(b1.block w.heap.size (by simp;omega)).trans (heap_alloc2_old w _ _)
   have z1:=(b1.block (w.heap.size+1) (by simp)).trans (heap_alloc2_new w _ _)
   have B1:=Lib.hid ((((Below.refl _ w).alloc (Nat.le_refl _) (.cells #[.int .i64 (i:Int),.int .i64 (2:Nat),.int .i64 (k:Int)] 130)).alloc (by simp) (.cells #[.int .i64 0,.int .i64 0,.int .i64 0] 130)).trans (b1.mono (by simp;omega)))
   obtain ⟨x0,x1,x2,x3⟩:=cN p1
   clear b1
   go_wp2_with (first|(refine bY 130 rfl _ _ rfl (w.heap.size+1) ((i:Int)+(N:Int)) 1 0 rfl rfl 0 0 0 z1 eJ ?_;intro wy ry gy))
   refine bodyPost_ret (results_cell_row rfl _ _ (w.heap.size+1) 130 (Bb ((i:Int)+(N:Int)) 1 0) (0,0) _ rfl ry Tryz.underlying130 rfl eJ) rfl ?_
   exact ⟨lW (by omega) (by omega) (by omega),B1.out.grown gy B1.out.size (fun j hj=>by cases hj;omega)⟩
end Go.Proofs.YtajpoodpbbbkfaaGreatDoor
namespace Go.Proofs.YtajpoodpbbbkfaaGreatDoor
open Go.RowKit Go.Lib
theorem Ks (s:ByteArray) (i:Nat) (h:i<s.size) (c:UInt8):(((s[i].toNat:Nat):Int)==(c.toNat:Int))=decide ((s.data.toList.drop i).head?=some c):=by
 rw [Bool.eq_iff_iff,beq_iff_eq,decide_eq_true_iff,oM s i h c]
theorem Eq (o l:ab) (h:ef o l=true):lV o l=o.length+7:=by unfold lV;rw [if_pos h]
theorem Kt (o l:ab) (h:ef o l=false):lV o l=0:=by unfold lV;rw [if_neg (by rw [h];exact Bool.false_ne_true)]
theorem CZ (s:ByteArray) (i st k n st' k':Nat) (w:World) (hs:s.size≤1048576) (hi:i<s.size) (hst:st=1∨st=2) (hk:k≤1048580) (h:bO st k (s.data.toList.drop i)=some (n,st',k')):Calls Tryz.prog 162 #[.agg #[.int .i64 (i:Int),.int .i64 (st:Int),.int .i64 (k:Int)],.string s] w fun e w'=>e= .returned (.agg #[.int .i64 ((i+n:Nat):Int),.int .i64 (st':Int),.int .i64 (k':Int)])∧Below w.heap.size w w':=by
 have q45:(((s[i].toNat:Nat):Int)==45)=_:=Ks s i hi 45
 have q62:(((s[i].toNat:Nat):Int)==62)=_:=Ks s i hi 62
 have h0:st≠0:=by omega
 by_cases h45:(s.data.toList.drop i).head?=some 45
 ·rw [I2 st k _ h0 h45] at h
  obtain ⟨rfl,rfl,rfl⟩:1=n∧st=st'∧k+1=k':=by simpa using h
  exact MW s i st k w hs hi hk (by rw [q45,decide_eq_true h45])
 rw [decide_eq_false h45] at q45
 by_cases h62:(s.data.toList.drop i).head?=some 62∧2≤k
 ·rw [I4 st k _ h0 h45 h62] at h
  obtain ⟨rfl,rfl,rfl⟩:1=n∧0=st'∧0=k':=by simpa using h
  exact MX s i st k w hs hi q45 (by rw [q62,decide_eq_true h62.1]) (decide_eq_true (by have:=h62.2;omega))
 have hb:(((s[i].toNat:Nat):Int)==62)=false∨(((s[i].toNat:Nat):Int)==62)=true∧decide ((2:Int)≤(k:Int))=false:=by
  by_cases hh:(s.data.toList.drop i).head?=some 62
  ·exact .inr ⟨by rw [q62,decide_eq_true hh],decide_eq_false (fun h2=>h62 ⟨hh,by omega⟩)⟩
  ·exact .inl (by rw [q62,decide_eq_false hh])
 rcases hst with rfl|rfl
 ·cases hE:cb nz (s.data.toList.drop i)
  ·have:=MY s i k w hs hi q45 hb
   cases hI:ef [60] (s.data.toList.drop i)
   ·rw [Nz k _ h45 h62 hE hI] at h
    obtain ⟨rfl,rfl,rfl⟩:1=n∧1=st'∧0=k':=by simpa using h
    rw [Kt _ _ hI] at this
    exact this
   ·rw [Nx k _ h45 h62 hE hI] at h
    obtain ⟨rfl,rfl,rfl⟩:8=n∧2=st'∧0=k':=by simpa using h
    rw [Eq _ _ hI] at this
    exact this
  ·rw [I5 k _ h45 h62 hE] at h;cases h
 ·have:=M7 s i k w hs hi q45 hb
  cases hO:ef [60,47] (s.data.toList.drop i)
  ·rw [NC k _ h45 h62 hO] at h
   obtain ⟨rfl,rfl,rfl⟩:1=n∧2=st'∧0=k':=by simpa using h
   rw [Kt _ _ hO] at this
   exact this
  ·rw [NA k _ h45 h62 hO] at h
   obtain ⟨rfl,rfl,rfl⟩:9=n∧1=st'∧0=k':=by simpa using h
   rw [Eq _ _ hO] at this
   exact this
theorem Ku (s:ByteArray) (i st k n st' k':Nat) (w:World) (hs:s.size≤1048576) (hi:i<s.size) (hst:st≤2) (hk:k≤1048580) (h:bO st k (s.data.toList.drop i)=some (n,st',k')):Calls Tryz.prog 114 #[.agg #[.int .i64 (i:Int),.int .i64 (st:Int),.int .i64 (k:Int)],.string s] w fun e w'=>e= .returned (.agg #[.int .i64 ((i+n:Nat):Int),.int .i64 (st':Int),.int .i64 (k':Int)])∧Below w.heap.size w w':=by
 by_cases h0:st=0
 ·subst h0
  cases hE:cb nz (s.data.toList.drop i)
  ·have HB:=fun w=>Lib.hid (cB s (i:Int) ⟨#[60,33,45,45]⟩ w (by omega) (by decide) (by omega) (by omega))
   rw [mw s i _ (by omega)] at HB
   cases hC:zG.isPrefixOf (aF (s.data.toList.drop i))
   ·rw [Nw k _ hE hC] at h
    obtain ⟨rfl,rfl,rfl⟩:1=n∧0=st'∧0=k':=by simpa using h
    rw [show (⟨#[60,33,45,45]⟩:ByteArray).data.toList.isPrefixOf (aF (s.data.toList.drop i))=false from hC] at HB
    clear hC hE h
    go_enter Tryz.func114,Tryz.ntmps114
    go_wp2_with (fail)
    refine (HB _).out.mono ?_
    rintro e w1 ⟨rfl,m1,hw1⟩
    have b1:Below (((w.alloc (.cells #[.int .i64 (i:Int),.int .i64 0,.int .i64 (k:Int)] 130)).alloc (.cells #[.int .i64 0,.int .i64 0,.int .i64 0] 130))).heap.size ((w.alloc (.cells #[.int .i64 (i:Int),.int .i64 0,.int .i64 (k:Int)] 130)).alloc (.cells #[.int .i64 0,.int .i64 0,.int .i64 0] 130)) w1:=by rw [hw1];exact ai _ _ _
    have p1:=(b1.block w.heap.size (by simp;omega)).trans (heap_alloc2_old w _ _)
    have z1:=(b1.block (w.heap.size+1) (by simp)).trans (heap_alloc2_new w _ _)
    have B1:=Lib.hid ((((Below.refl _ w).alloc (Nat.le_refl _) (.cells #[.int .i64 (i:Int),.int .i64 0,.int .i64 (k:Int)] 130)).alloc (by simp) (.cells #[.int .i64 0,.int .i64 0,.int .i64 0] 130)).trans (b1.mono (by simp;omega)))
    obtain ⟨x0,x1,x2,x3⟩:=cN p1
    clear b1 hw1
    go_wp2_with (first|(refine bY 130 rfl _ _ rfl (w.heap.size+1) ((i:Int)+1) 0 0 rfl rfl 0 0 0 z1 eJ ?_;intro wy ry gy))
    refine bodyPost_ret (results_cell_row rfl _ _ (w.heap.size+1) 130 (Bb ((i:Int)+1) 0 0) (0,0) _ rfl ry Tryz.underlying130 rfl eJ) rfl ?_
    exact ⟨lW (by omega) (by omega) (by omega),B1.out.grown gy B1.out.size (fun j hj=>by cases hj;omega)⟩
   ·rw [Nv k _ hE hC] at h
    obtain ⟨rfl,rfl,rfl⟩:4=n∧1=st'∧2=k':=by simpa using h
    rw [show (⟨#[60,33,45,45]⟩:ByteArray).data.toList.isPrefixOf (aF (s.data.toList.drop i))=true from hC] at HB
    clear hC hE h
    go_enter Tryz.func114,Tryz.ntmps114
    go_wp2_with (fail)
    refine (HB _).out.mono ?_
    rintro e w1 ⟨rfl,m1,hw1⟩
    have b1:Below (((w.alloc (.cells #[.int .i64 (i:Int),.int .i64 0,.int .i64 (k:Int)] 130)).alloc (.cells #[.int .i64 0,.int .i64 0,.int .i64 0] 130))).heap.size ((w.alloc (.cells #[.int .i64 (i:Int),.int .i64 0,.int .i64 (k:Int)] 130)).alloc (.cells #[.int .i64 0,.int .i64 0,.int .i64 0] 130)) w1:=by rw [hw1];exact ai _ _ _
    have p1:=(b1.block w.heap.size (by simp;omega)).trans (heap_alloc2_old w _ _)
    have z1:=(b1.block (w.heap.size+1) (by simp)).trans (heap_alloc2_new w _ _)
    have B1:=Lib.hid ((((Below.refl _ w).alloc (Nat.le_refl _) (.cells #[.int .i64 (i:Int),.int .i64 0,.int .i64 (k:Int)] 130)).alloc (by simp) (.cells #[.int .i64 0,.int .i64 0,.int .i64 0] 130)).trans (b1.mono (by simp;omega)))
    obtain ⟨x0,x1,x2,x3⟩:=cN p1
    clear b1 hw1
    go_wp2_with (first|(refine bY 130 rfl _ _ rfl (w.heap.size+1) ((i:Int)+4) 1 2 rfl rfl 0 0 0 z1 eJ ?_;intro wy ry gy))
    refine bodyPost_ret (results_cell_row rfl _ _ (w.heap.size+1) 130 (Bb ((i:Int)+4) 1 2) (0,0) _ rfl ry Tryz.underlying130 rfl eJ) rfl ?_
    exact ⟨lW (by omega) (by omega) (by omega),B1.out.grown gy B1.out.size (fun j hj=>by cases hj;omega)⟩
  ·rw [I1 k _ hE] at h;cases h
 ·have hst':st=1∨st=2:=by omega
  have HP:=fun w=>Lib.hid (CZ s i st k n st' k' w hs hi hst' hk h)
  have b0:((st:Int) != 0)=true:=by rw [bne_iff_ne];omega
  obtain ⟨j,hj⟩:∃j,i+n=j:=⟨_,rfl⟩
  rw [hj] at HP⊢
  clear hst' h hj h0
  go_enter Tryz.func114,Tryz.ntmps114
  go_wp2_with (fail)
  refine (HP _).out.mono ?_
  rintro e w1 ⟨rfl,b1⟩
  have z1:=(b1.block (w.heap.size+1) (by simp)).trans (heap_alloc2_new w _ _)
  have B1:=Lib.hid ((((Below.refl _ w).alloc (Nat.le_refl _) (.cells #[.int .i64 (i:Int),.int .i64 (st:Int),.int .i64 (k:Int)] 130)).alloc (by simp) (.cells #[.int .i64 0,.int .i64 0,.int .i64 0] 130)).trans (b1.mono (by simp;omega)))
  clear b1
  go_wp2_with (first|(refine bY 130 rfl _ _ rfl (w.heap.size+1) (j:Int) (st':Int) (k':Int) rfl rfl 0 0 0 z1 eJ ?_;intro wy ry gy))
  refine bodyPost_ret (results_cell_row rfl _ _ (w.heap.size+1) 130 (Bb (j:Int) (st':Int) (k':Int)) (0,0) _ rfl ry Tryz.underlying130 rfl eJ) rfl ?_
  exact ⟨rfl,B1.out.grown gy B1.out.size (fun j hj=>by cases hj;omega)⟩
theorem C0 (s : ByteArray) (i st k : Nat) (w : World) (hs : s.size ≤ 1048576) (hi : i < s.size) :
    Calls Tryz.prog 113 #[.agg #[.int .i64 (i : Int), .int .i64 (st : Int), .int .i64 (k : Int)], .string s] w fun e w' => e = .returned (.bool (decide (st ≠ 2) && cb nz (s.data.toList.drop i))) ∧ Below w.heap.size w w' := by
  have HE := fun w => Lib.hid (show Calls Tryz.prog 112 #[.string s, .int .i64 (i : Int), .string ⟨#[115, 99, 114, 105, 112, 116]⟩] w fun e w' => e = .returned (.bool (cb nz (s.data.toList.drop i))) ∧ Below w.heap.size w w' from by
    have := A8 s (i : Int) ⟨#[115, 99, 114, 105, 112, 116]⟩ w hs (by decide) (by omega)
    rwa [kE] at this)
  by_cases h2 : st = 2
  · subst h2
    clear HE
    go_enter Tryz.func113, Tryz.ntmps113
    go_wp2
    go_ret
    exact ⟨rfl, (Below.refl _ w).alloc (Nat.le_refl _) _⟩
  · have b2 : ((st : Int) != 2) = true := by rw [bne_iff_ne]; omega
    rw [decide_eq_true (show st ≠ 2 from h2), Bool.true_and]
    obtain ⟨E, hE⟩ : ∃ E, cb nz (s.data.toList.drop i) = E := ⟨_, rfl⟩
    rw [hE] at HE ⊢
    clear hE h2
    go_enter Tryz.func113, Tryz.ntmps113
    go_wp2_with (go_at_call 112; refine (HE _).out.mono ?_; rintro e w' ⟨rfl, b1⟩)
    go_ret
    exact ⟨rfl, ((Below.refl _ w).alloc (Nat.le_refl _) _).trans (b1.mono (by simp))⟩
theorem wo (st k:Nat) (l:ab) (hst:st≤2):(decide (st≠2)&&cb nz l)=true↔bO st k l=none:=by
 constructor
 ·intro h
  rw [Bool.and_eq_true,decide_eq_true_iff] at h
  obtain ⟨h1,h2⟩:=h
  have hh:l.head?=some 60:=by
   cases l with
   |nil=>rw [zD] at h2;cases h2
   |cons c t=>rw [vA nz c t h2];rfl
  rcases (show st=0∨st=1 by omega) with rfl|rfl
  ·exact I1 k l h2
  ·exact I5 k l (by rw [hh];decide) (by rw [hh];intro h;exact absurd h.1 (by decide)) h2
 ·intro h
  obtain ⟨h1,h2⟩:=vB st k l h
  rw [h1,Bool.and_true,decide_eq_true_iff];omega
theorem Gr (st k:Nat) (l:ab) (n st' k' i:Nat) (h:bO st k l=some (n,st',k')) (hk:k≤i):(st'=0→k'=0)∧k'≤i+n:=by
 unfold bO at h
 repeat' split at h
 all_goals
  first
   |(simp only [Option.some.injEq,Prod.mk.injEq] at h;omega)
   |cases h
theorem C5 (s:ByteArray) (a:Int) (w:World) (hs:s.size≤1048576) (_ha: -9223372036854775808≤a∧a≤9223372036854775807):Calls Tryz.prog 61 #[.string s,.int .i64 a] w fun e w'=>e= .returned (.tuple #[.int .i64 ((ra s.data.toList a).1:Int),.int .i64 ((ra s.data.toList a).2:Int)])∧Below w.heap.size w w':=by
 obtain ⟨R1,hR1⟩:∃R,(ra s.data.toList a).1=R:=⟨_,rfl⟩
 obtain ⟨R2,hR2⟩:∃R,(ra s.data.toList a).2=R:=⟨_,rfl⟩
 obtain ⟨i0,hi0⟩:∃i,yp s.data.toList.length a=i:=⟨_,rfl⟩
 have hmx:max (0:Int) (min a (s.size:Int))=(i0:Int):=by
  rw [←hi0,←Lib.size_eq];unfold yp;omega
 have hi1:i0≤s.size:=by rw [←hi0,←Lib.size_eq];unfold yp;omega
 have H0:Hid (i0+(dg 0 0 (s.data.toList.drop i0)).1=R1∧(dg 0 0 (s.data.toList.drop i0)).2=R2):=Lib.hid (by
  unfold ra at hR1 hR2
  rw [hi0] at hR1 hR2
  exact ⟨hR1,hR2⟩)
 rw [hR1,hR2]
 clear hR1 hR2 hi0
 have HMX:=Lib.hid hmx
 have HEE:=fun (i st k:Nat) (h:i<s.size) w=>Lib.hid (C0 s i st k w hs h)
 have HPP:=fun (i st k n st' k':Nat) (h1:i<s.size) (h2:st≤2) (h3:k≤1048580) (h4:bO st k (s.data.toList.drop i)=some (n,st',k')) w=>Lib.hid (Ku s i st k n st' k' w hs h1 h2 h3 h4)
 go_enter Tryz.func61,Tryz.ntmps61
 go_wp2
 refine cV 0 (fun a' wr=>∃(i st k:Nat) (u1 u2 u3 u4 u5 u7 u8 u9 u10 u11 u12 u13 u14 u15 u16 u17 u18 u19 u20 u21 u22 u23 u24 u25 u26 u27 u28 u29:Value),a'={tmps:=#[.string s,u1,u2,u3,u4,u5,.pointer (some ⟨w.heap.size,0,none⟩),u7,u8,u9,u10,u11,u12,u13,u14,u15,u16,u17,u18,u19,u20,u21,u22,u23,u24,u25,u26,u27,u28,u29],defers:=[]}∧wr.heap[w.heap.size]? =some (.cells (Bb (i:Int) (st:Int) (k:Int)) 130 (0,0))∧w.heap.size<wr.heap.size∧Below w.heap.size w wr∧i≤s.size∧st≤2∧(st=0→k=0)∧k≤i∧(i+(dg st k (s.data.toList.drop i)).1=R1∧(dg st k (s.data.toList.drop i)).2=R2)) (fun _ wr=>s.size-(ae ((wr.cell? ⟨w.heap.size,0,none⟩).getD undef)).toNat) rfl ?_ ?_
 ·rintro a' wr ⟨i,st,k,u1,u2,u3,u4,u5,u7,u8,u9,u10,u11,u12,u13,u14,u15,u16,u17,u18,u19,u20,u21,u22,u23,u24,u25,u26,u27,u28,u29,rfl,hp,hsz,hbw,hle,hst,hz,hki,hR⟩
  clear hmx HMX H0 hi1
  obtain ⟨x0,x1,x2,x3⟩:=cN hp
  have X0:=Lib.hid x0
  have HP:=Lib.hid hp
  have HBW:=Lib.hid hbw
  have HR:=Lib.hid hR
  clear hp hbw hR
  by_cases hend:i=s.size
  ·have HN:=Lib.hid (zO s.data.toList i st k R1 R2 (by rw [←Lib.size_eq];exact hend) HR.out)
   have bi:((i:Int)==(s.size:Int))=true:=by rw [beq_iff_eq];omega
   have HI:=Lib.hid hend
   clear hend HEE HPP HR hle
   go_wp2
   go_quiet (fail)
   go_wp2
   simp only [Exit.jump]
   go_ret2
   exact ⟨oL (by rw [HN.out.1]) (by rw [HN.out.2]),HBW.out.trans (by first|exact ai _ _ _|exact (ai _ _ _).mono (by omega))⟩
  ·have hlt:i<s.size:=by omega
   have bi:((i:Int)==(s.size:Int))=false:=by rw [beq_eq_false_iff_ne];omega
   have hi20:i≤1048576:=by omega
   have hk20:k≤1048580:=by omega
   have HE:=fun w=>HEE i st k hlt w
   clear hend hle HEE
   cases hE:decide (st≠2)&&cb nz (s.data.toList.drop i)
   ·rw [hE] at HE
    cases hS:bO st k (s.data.toList.drop i) with
    |none=>rw [(wo st k _ hst).2 hS] at hE;cases hE
    |some r=>
     obtain ⟨n,st',k'⟩:=r
     have HPA:=fun w=>HPP i st k n st' k' hlt hst hk20 hS w
     have hln:s.data.toList.drop i≠[]:=xt _ _ (by rw [←Lib.size_eq];exact hlt)
     have hsl:=Gr st k _ n st' k' i hS hki
     have hss:=jN st k _ hln n st' k' hS
     rw [List.length_drop,←Lib.size_eq] at hss
     have HN:=Lib.hid (iR s.data.toList i st k n st' k' R1 R2 (by rw [←Lib.size_eq];exact hlt) hS HR.out)
     obtain ⟨j,hj⟩:∃j,i+n=j:=⟨_,rfl⟩
     rw [hj] at HPA HN hsl
     have hjn:i<j∧j≤s.size:=by omega
     have hs2:=hss.2.2 hst
     clear hE hS hln hss hj HPP HR
     go_wp2_with (first
      |(go_at_call 113;refine (HE _).out.mono ?_;rintro e w1 ⟨rfl,b1⟩;have p1:=(b1.block w.heap.size (by omega)).trans HP.out;have B1:=Lib.hid (HBW.out.trans (b1.mono (by omega)));have s1:w.heap.size<w1.heap.size:=Nat.lt_of_lt_of_le hsz b1.size;obtain ⟨y0,y1,y2,y3⟩:=cN p1;have P1:=Lib.hid p1;clear b1 p1 x0 x1 x2 x3)
      |(go_at_call 114;refine (HPA _).out.mono ?_;rintro e w2 ⟨rfl,b2⟩;have P2:=Lib.hid ((b2.block w.heap.size (by omega)).trans P1.out);have B2:=Lib.hid (B1.out.trans (b2.mono (by omega)));have s2:=Nat.lt_of_lt_of_le s1 b2.size;clear b2)
      |(refine bY 130 rfl _ _ rfl w.heap.size (j:Int) (st':Int) (k':Int) rfl rfl (i:Int) (st:Int) (k:Int) P2.out eJ ?_;intro wy ry gy))
     go_step3
     have s3:=Nat.lt_of_lt_of_le s2 gy.size
     refine ⟨rfl,⟨j,st',k',_,_,_,_,_,_,_,_,_,_,_,_,_,_,_,_,_,_,_,_,_,_,_,_,_,_,_,_,rfl,ry,s3,B2.out.grown gy (by omega) (fun q hq=>by cases hq;omega),hjn.2,hs2,hsl.1,hsl.2,HN.out⟩,?_⟩
     have z0:=(cN ry).1
     rw [z0,X0.out]
     simp [ae];omega
   ·rw [hE] at HE
    have HN:=Lib.hid (sI s.data.toList i st k R1 R2 (by rw [←Lib.size_eq];exact hlt) ((wo st k _ hst).1 hE) HR.out)
    clear hE HPP HR
    go_wp2_with (go_at_call 113;refine (HE _).out.mono ?_;rintro e w1 ⟨rfl,b1⟩;have p1:=(b1.block w.heap.size (by omega)).trans HP.out;have B1:=Lib.hid (HBW.out.trans (b1.mono (by omega)));obtain ⟨y0,y1,y2,y3⟩:=cN p1;clear b1 p1 x0 x1 x2 x3)
    go_quiet (fail)
    go_wp2
    simp only [Exit.jump]
    go_ret2
    exact ⟨oL (by rw [HN.out.1]) (by rw [HN.out.2]),B1.out.trans (by first|exact ai _ _ _|exact (ai _ _ _).mono (by omega))⟩
 ·intro hpass
  go_wp2
  go_step3
  rename_i K hK
  refine hK _ _ (hpass _ _ ?_)
  exact ⟨i0,0,0,_,_,_,_,_,_,_,_,_,_,_,_,_,_,_,_,_,_,_,_,_,_,_,_,_,_,_,_,rfl,heap_alloc_new w _,by simp,(Below.refl _ w).alloc (Nat.le_refl _) _,hi1,by omega,fun _=>rfl,by omega,H0.out⟩
end Go.Proofs.YtajpoodpbbbkfaaGreatDoor
