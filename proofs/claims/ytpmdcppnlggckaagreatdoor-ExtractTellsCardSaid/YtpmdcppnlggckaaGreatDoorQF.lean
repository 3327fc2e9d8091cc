/-
  Texts laid together: ComEnds, ComMark, ComCode, DtBeg, DtHelp, DtRead.
-/
import Derived.Test.YtpmdcppnlggckaaGreatDoorQC
import Derived.Test.YtpmdcppnlggckaaGreatDoorShelf
import Derived.Test.YtpmdcppnlggckaaGreatDoorP3
import Derived.Deep.RegionHeld3
import Derived.Test.YtpmdcppnlggckaaGreatDoorP1
import Derived.Test.YtpmdcppnlggckaaGreatDoorP4
import Derived.Test.YtpmdcppnlggckaaGreatDoorQA
import Derived.Test.YtpmdcppnlggckaaGreatDoorPT
set_option maxHeartbeats 4000000
set_option maxRecDepth 100000
namespace Go.Proofs.YtpmdcppnlggckaaGreatDoor
open Go.RowKit Go.Lib
def CZ (A B l:ab):Nat:=if A.isPrefixOf l=true then A.length else if B.isPrefixOf l=true then B.length else 0
theorem nd (A B s:ByteArray) (w:World):Calls Tryz.prog 161 #[.agg #[.string A,.string B],.string s] w fun e w'=>e= .returned (.int .i64 (CZ A.data.toList B.data.toList s.data.toList:Int))∧Below w.heap.size w w':=by
 have HA:=fun w=>Lib.hid (Tryz.strings_HasPrefix s A w)
 have HB:=fun w=>Lib.hid (Tryz.strings_HasPrefix s B w)
 unfold Lib.hasPrefix at HA HB
 obtain ⟨S,hS⟩:∃S,CZ A.data.toList B.data.toList s.data.toList=S:=⟨_,rfl⟩
 rw [hS]
 unfold CZ at hS
 rw [←Lib.size_eq,←Lib.size_eq] at hS
 obtain ⟨p,hp⟩:∃p,A.data.toList.isPrefixOf s.data.toList=p:=⟨_,rfl⟩
 obtain ⟨q,hq⟩:∃q,B.data.toList.isPrefixOf s.data.toList=q:=⟨_,rfl⟩
 rw [hp,hq] at hS
 rw [hp] at HA
 rw [hq] at HB
 have HS:=Lib.hid hS
 clear hS hp hq
 have i0:∀w:World,(Instr.index 153 (.agg #[.string A,.string B]) (.int .i64 0)).run Tryz.prog w= .ok (.string A) w:=fun _=>by kernel_rfl
 have i1:∀w:World,(Instr.index 153 (.agg #[.string A,.string B]) (.int .i64 1)).run Tryz.prog w= .ok (.string B) w:=fun _=>by kernel_rfl
 go_enter Tryz.func161,Tryz.ntmps161
 go_wp2
 go_loopw [8] (fun v wr=>∃j:Nat,v= .int .i64 (j:Int)∧w.alloc (.cells #[.string A,.string B] 153)=wr∧j≤2∧(1≤j→Hid (p=false))∧(2≤j→Hid (q=false))) (fun v _=>2-(ae v).toNat)
 case atStart=>exact ⟨0,rfl,rfl,by omega,by omega,by omega⟩
 case round=>
  obtain ⟨j,rfl,rfl,hj,h1,h2⟩:=hrel
  obtain rfl|rfl|rfl:j=0∨j=1∨j=2:=by omega
  ·clear h1 h2 hj
   cases p
   ·go_wp2_with (go_at_call 39;refine (HA _).out.mono ?_;rintro e w' ⟨rfl,rfl⟩)
    go_roundw
    case rel=>exact ⟨1,rfl,trivial,by omega,fun _=>Lib.hid trivial,by omega⟩
    case measure=>simp [ae]
   ·go_wp2_with (go_at_call 39;refine (HA _).out.mono ?_;rintro e w' ⟨rfl,rfl⟩)
    go_ret
    exact ⟨av (by rw [←HS.out];rfl),(Below.refl _ w).alloc (Nat.le_refl _) _⟩
  ·have H1:=h1 (by omega)
   clear h1 h2 hj
   cases q
   ·go_wp2_with (go_at_call 39;refine (HB _).out.mono ?_;rintro e w' ⟨rfl,rfl⟩)
    go_roundw
    case rel=>exact ⟨2,rfl,trivial,by omega,fun _=>H1,fun _=>Lib.hid trivial⟩
    case measure=>simp [ae]
   ·go_wp2_with (go_at_call 39;refine (HB _).out.mono ?_;rintro e w' ⟨rfl,rfl⟩)
    go_ret
    exact ⟨av (by rw [←HS.out,H1.out];rfl),(Below.refl _ w).alloc (Nat.le_refl _) _⟩
  ·have H1:=h1 (by omega)
   have H2:=h2 (by omega)
   clear h1 h2 hj
   go_wp2
   go_ret
   exact ⟨av (by rw [←HS.out,H1.out,H2.out];rfl),(Below.refl _ w).alloc (Nat.le_refl _) _⟩
def yl (s p:ByteArray):Value:= .tuple #[.string (if p.data.toList.isSuffixOf s.data.toList=true then s.extract 0 (s.size-p.size) else s),.bool (p.data.toList.isSuffixOf s.data.toList)]
theorem nf (s p:ByteArray) (w:World) (hs:s.size≤1099511627776):Calls Tryz.prog 207 #[.string s,.string p] w fun e w'=>e= .returned (yl s p)∧w'=w:=by
 have HP:=fun w=>Lib.hid (Tryz.stringslite_HasSuffix s p w (by omega))
 unfold Lib.hasSuffix at HP
 unfold yl
 cases h:p.data.toList.isSuffixOf s.data.toList
 ·rw [h] at HP
  clear h
  go_enter Tryz.func207,Tryz.ntmps207
  go_wp2_with (go_at_call 223;refine (HP _).out.mono ?_;rintro e w' ⟨rfl,rfl⟩)
  go_ret2
  exact ⟨rfl,rfl⟩
 ·rw [h] at HP
  have hle:p.size≤s.size:=by
   have:=(List.isSuffixOf_iff_suffix.1 h).length_le
   rw [←Lib.size_eq,←Lib.size_eq] at this;exact this
  clear h
  go_enter Tryz.func207,Tryz.ntmps207
  go_wp2_with (go_at_call 223;refine (HP _).out.mono ?_;rintro e w' ⟨rfl,rfl⟩)
  go_ret2
  exact ⟨rfl,rfl⟩
theorem iw (s p:ByteArray) (w:World) (hs:s.size≤1099511627776):Calls Tryz.prog 188 #[.string s,.string p] w fun e w'=>e= .returned (yl s p)∧w'=w:=by
 have HP:=fun w=>Lib.hid (nf s p w hs)
 unfold yl at*
 obtain ⟨B,hB⟩:∃B,p.data.toList.isSuffixOf s.data.toList=B:=⟨_,rfl⟩
 rw [hB] at HP⊢
 obtain ⟨X,hX⟩:∃X,(if B=true then s.extract 0 (s.size-p.size) else s)=X:=⟨_,rfl⟩
 rw [hX] at HP⊢
 clear hB hX
 go_enter Tryz.func188,Tryz.ntmps188
 go_wp2_with (go_at_call 207;refine (HP _).out.mono ?_;rintro e w' ⟨rfl,rfl⟩)
 go_ret2
 exact ⟨rfl,rfl⟩
theorem Gl (s:ByteArray) (n:Nat):s.extract 0 n=⟨(s.data.toList.take n).toArray⟩:=bu (by rw [gB,List.toList_toArray])
theorem ra (s:ByteArray) (w:World) (hs:s.size≤1099511627776):Calls Tryz.prog 162 #[.string s] w fun e w'=>e= .returned (.string ⟨(gh s.data.toList).toArray⟩)∧w'=w:=by
 have H0:=fun w=>Lib.hid (iw s ⟨#[45,45,33]⟩ w hs)
 have H1:=fun w=>Lib.hid (iw s ⟨#[45,45]⟩ w hs)
 have H2:=fun w=>Lib.hid (iw s ⟨#[45]⟩ w hs)
 unfold yl at H0 H1 H2
 simp only [Gl,show (⟨#[45,45,33]⟩:ByteArray).size=3 from rfl,show (⟨#[45,45]⟩:ByteArray).size=2 from rfl,show (⟨#[45]⟩:ByteArray).size=1 from rfl] at H0 H1 H2
 obtain ⟨T,hT⟩:∃T:ByteArray,⟨(gh s.data.toList).toArray⟩=T:=⟨_,rfl⟩
 rw [hT]
 unfold gh at hT
 obtain ⟨p,hp⟩:∃p,[45,45,33].isSuffixOf s.data.toList=p:=⟨_,rfl⟩
 obtain ⟨q,hq⟩:∃q,[45,45].isSuffixOf s.data.toList=q:=⟨_,rfl⟩
 obtain ⟨r,hr⟩:∃r,[45].isSuffixOf s.data.toList=r:=⟨_,rfl⟩
 rw [hp,hq,hr] at hT
 rw [hp] at H0
 rw [hq] at H1
 rw [hr] at H2
 rw [←Lib.size_eq] at hT
 obtain ⟨X,hX⟩:∃X:ByteArray,⟨(s.data.toList.take (s.size-3)).toArray⟩=X:=⟨_,rfl⟩
 obtain ⟨Y,hY⟩:∃X:ByteArray,⟨(s.data.toList.take (s.size-2)).toArray⟩=X:=⟨_,rfl⟩
 obtain ⟨Z,hZ⟩:∃X:ByteArray,⟨(s.data.toList.take (s.size-1)).toArray⟩=X:=⟨_,rfl⟩
 rw [hX] at H0
 rw [hY] at H1
 rw [hZ] at H2
 have HT:Hid ((if p=true then X else if q=true then Y else if r=true then Z else s)=T):=Lib.hid (by
  rw [←hT,←hX,←hY,←hZ]
  cases p<;>cases q<;>cases r<;>rfl)
 clear hT hp hq hr hX hY hZ
 have i0:∀w:World,(Instr.index 163 (.agg #[.string ⟨#[45,45,33]⟩,.string ⟨#[45,45]⟩,.string ⟨#[45]⟩]) (.int .i64 0)).run Tryz.prog w= .ok (.string ⟨#[45,45,33]⟩) w:=fun _=>by kernel_rfl
 have i1:∀w:World,(Instr.index 163 (.agg #[.string ⟨#[45,45,33]⟩,.string ⟨#[45,45]⟩,.string ⟨#[45]⟩]) (.int .i64 1)).run Tryz.prog w= .ok (.string ⟨#[45,45]⟩) w:=fun _=>by kernel_rfl
 have i2:∀w:World,(Instr.index 163 (.agg #[.string ⟨#[45,45,33]⟩,.string ⟨#[45,45]⟩,.string ⟨#[45]⟩]) (.int .i64 2)).run Tryz.prog w= .ok (.string ⟨#[45]⟩) w:=fun _=>by kernel_rfl
 go_enter Tryz.func162,Tryz.ntmps162
 go_wp2
 go_loopw [8] (fun v wr=>∃j:Nat,v= .int .i64 (j:Int)∧w=wr∧j≤3∧(1≤j→Hid (p=false))∧(2≤j→Hid (q=false))∧(3≤j→Hid (r=false))) (fun v _=>3-(ae v).toNat)
 case atStart=>exact ⟨0,rfl,rfl,by omega,by omega,by omega,by omega⟩
 case round=>
  obtain ⟨j,rfl,rfl,hj,h1,h2,h3⟩:=hrel
  obtain rfl|rfl|rfl|rfl:j=0∨j=1∨j=2∨j=3:=by omega
  ·clear h1 h2 h3 hj
   cases p
   ·go_wp2_with (go_at_call 188;refine (H0 _).out.mono ?_;rintro e w' ⟨rfl,rfl⟩)
    go_roundw
    case rel=>exact ⟨1,rfl,trivial,by omega,fun _=>Lib.hid trivial,by omega,by omega⟩
    case measure=>simp [ae]
   ·go_wp2_with (go_at_call 188;refine (H0 _).out.mono ?_;rintro e w' ⟨rfl,rfl⟩)
    go_ret
    exact ⟨aY (by rw [←HT.out];rfl),rfl⟩
  ·have H1':=h1 (by omega)
   clear h1 h2 h3 hj
   cases q
   ·go_wp2_with (go_at_call 188;refine (H1 _).out.mono ?_;rintro e w' ⟨rfl,rfl⟩)
    go_roundw
    case rel=>exact ⟨2,rfl,trivial,by omega,fun _=>H1',fun _=>Lib.hid trivial,by omega⟩
    case measure=>simp [ae]
   ·go_wp2_with (go_at_call 188;refine (H1 _).out.mono ?_;rintro e w' ⟨rfl,rfl⟩)
    go_ret
    exact ⟨aY (by rw [←HT.out,H1'.out];rfl),rfl⟩
  ·have H1':=h1 (by omega)
   have H2':=h2 (by omega)
   clear h1 h2 h3 hj
   cases r
   ·go_wp2_with (go_at_call 188;refine (H2 _).out.mono ?_;rintro e w' ⟨rfl,rfl⟩)
    go_roundw
    case rel=>exact ⟨3,rfl,trivial,by omega,fun _=>H1',fun _=>H2',fun _=>Lib.hid trivial⟩
    case measure=>simp [ae]
   ·go_wp2_with (go_at_call 188;refine (H2 _).out.mono ?_;rintro e w' ⟨rfl,rfl⟩)
    go_ret
    exact ⟨aY (by rw [←HT.out,H1'.out,H2'.out];rfl),rfl⟩
  ·have H1':=h1 (by omega)
   have H2':=h2 (by omega)
   have H3':=h3 (by omega)
   clear h1 h2 h3 hj
   go_wp2
   go_ret
   exact ⟨aY (by rw [←HT.out,H1'.out,H2'.out,H3'.out];rfl),rfl⟩
end Go.Proofs.YtpmdcppnlggckaaGreatDoor
namespace Go.Proofs.YtpmdcppnlggckaaGreatDoor
open Go.RowKit Go.Lib
theorem ym:∀(l x:ab) (n:Nat),bL l=some (x,n)→x=l.take x.length
 |[],x,n,h=>by cases h
 |c::t,x,n,h=>by
  rw [bL] at h
  split at h
  ·simp only [Option.some.injEq,Prod.mk.injEq] at h
   obtain ⟨rfl,-⟩:=h;rfl
  ·split at h
   ·simp only [Option.some.injEq,Prod.mk.injEq] at h
    obtain ⟨rfl,-⟩:=h;rfl
   ·cases hr:bL t with
    |none=>rw [hr] at h;cases h
    |some y=>
     obtain ⟨y,m⟩:=y
     rw [hr] at h
     simp only [Option.map_some,Option.some.injEq,Prod.mk.injEq] at h
     obtain ⟨rfl,-⟩:=h
     rw [List.length_cons,List.take_succ_cons,←ym t y m hr]
theorem Gm (l:ab):gh l=l.take (gh l).length:=by
 have key:∀k,l.take k=l.take (l.take k).length:=fun k=>List.prefix_iff_eq_take.1 (List.take_prefix k l)
 unfold gh
 split
 ·exact key _
 ·split
  ·exact key _
  ·split
   ·exact key _
   ·rw [List.take_length]
theorem C0 (l:ab):(aT l).1=l.take (aT l).1.length:=by
 unfold aT
 split
 ·rfl
 ·split
  ·rfl
  ·cases h:bL l with
   |none=>exact Gm l
   |some r=>exact ym l r.1 r.2 h
theorem Gn (l:ab):CZ [62] [45,62] l=1∧aT l=([],1)∨CZ [62] [45,62] l=2∧aT l=([],2)∨CZ [62] [45,62] l=0∧aT l=(match bL l with|some r=>r|none=>(gh l,l.length)):=by
 unfold CZ aT
 by_cases h1:[62].isPrefixOf l=true
 ·rw [if_pos h1,if_pos h1];exact .inl ⟨rfl,rfl⟩
 ·rw [if_neg h1,if_neg h1]
  by_cases h2:[45,62].isPrefixOf l=true
  ·rw [if_pos h2,if_pos h2];exact .inr (.inl ⟨rfl,rfl⟩)
  ·rw [if_neg h2,if_neg h2];exact .inr (.inr ⟨rfl,rfl⟩)
theorem I3 (l:ab):(CZ [45,45,62] [45,45,33,62] l=0∧[45,45,62].isPrefixOf l=false∧[45,45,33,62].isPrefixOf l=false)∨(1≤CZ [45,45,62] [45,45,33,62] l∧CZ [45,45,62] [45,45,33,62] l≤4∧bL l=some ([],CZ [45,45,62] [45,45,33,62] l)):=by
 obtain ⟨s1,s2⟩:=qz l
 unfold CZ
 cases h1:[45,45,62].isPrefixOf l
 ·cases h2:[45,45,33,62].isPrefixOf l
  ·exact .inl ⟨rfl,rfl,rfl⟩
  ·exact .inr ⟨by simp,by simp,s2 h1 h2⟩
 ·exact .inr ⟨by simp,by simp,s1 h1⟩
def jf (l:ab) (i:Nat):Option (Nat × Nat):=(bL (l.drop i)).map fun r=>(i+r.1.length,i+r.2)
theorem zL (s:ByteArray) (i:Nat) (h:i<s.size) (h1:[45,45,62].isPrefixOf (s.data.toList.drop i)=false) (h2:[45,45,33,62].isPrefixOf (s.data.toList.drop i)=false):jf s.data.toList i=jf s.data.toList (i+1):=by
 unfold jf
 rw [aj s i h] at h1 h2⊢
 rw [nX _ _ h1 h2]
 cases bL (s.data.toList.drop (i+1)) with
 |none=>rfl
 |some r=>simp;omega
theorem C5 (l:ab) (i n:Nat) (h:bL (l.drop i)=some ([],n)):jf l i=some (i,i+n):=by
 unfold jf;rw [h];rfl
theorem C6 (s:ByteArray):jf s.data.toList s.size=none:=by
 unfold jf
 rw [List.drop_eq_nil_of_le (by rw [←Lib.size_eq];exact Nat.le_refl _)];rfl
theorem rb {a b m n:Int} (h1:a=b) (h2:m=n):Ending.returned (.tuple #[.int .i64 a,.int .i64 m])= .returned (.tuple #[.int .i64 b,.int .i64 n]):=by rw [h1,h2]
theorem sm (s:ByteArray) (f:Nat) (a:Int) (w:World) (hs:s.size≤1048576) (ha:(f:Int)=a) (hf:f≤s.size):Calls Tryz.prog 131 #[.string s,.int .i64 a] w fun e w'=>e= .returned (.tuple #[.int .i64 ((f+(aT (s.data.toList.drop f)).1.length:Nat):Int),.int .i64 ((f+(aT (s.data.toList.drop f)).2:Nat):Int)])∧Below w.heap.size w w':=by
 subst ha
 have hf2:f≤1048576:=by omega
 have HS:=fun w=>Lib.hid (nd ⟨#[62]⟩ ⟨#[45,62]⟩ (s.extract f s.size) w)
 rw [eP,show (⟨#[62]⟩:ByteArray).data.toList=[62] from rfl,show (⟨#[45,62]⟩:ByteArray).data.toList=[45,62] from rfl] at HS
 rcases Gn (s.data.toList.drop f) with ⟨h1,h2⟩|⟨h1,h2⟩|⟨h1,h2⟩
 ·rw [h1] at HS
  rw [h2]
  clear h1 h2
  go_enter Tryz.func131,Tryz.ntmps131
  go_wp2_with (go_at_call 161;refine (HS _).out.mono ?_;rintro e w' ⟨rfl,b1⟩)
  go_ret2
  exact ⟨rfl,b1⟩
 ·rw [h1] at HS
  rw [h2]
  clear h1 h2
  go_enter Tryz.func131,Tryz.ntmps131
  go_wp2_with (go_at_call 161;refine (HS _).out.mono ?_;rintro e w' ⟨rfl,b1⟩)
  go_ret2
  exact ⟨rfl,b1⟩
 ·rw [h1] at HS
  have HW:=fun w=>Lib.hid (ra (s.extract f s.size) w (by rw [ByteArray.size_extract];omega))
  rw [eP] at HW
  obtain ⟨T,hT⟩:∃T:ByteArray,⟨(gh (s.data.toList.drop f)).toArray⟩=T:=⟨_,rfl⟩
  have hTs:T.size=(gh (s.data.toList.drop f)).length:=by rw [←hT,Lib.size_eq,List.toList_toArray]
  have hTl:T.size≤1048576:=by
   have:=AI (s.data.toList.drop f)
   rw [List.length_drop,←Lib.size_eq] at this;omega
  rw [hT] at HW
  obtain ⟨P,hP⟩:∃P,aT (s.data.toList.drop f)=P:=⟨_,rfl⟩
  rw [hP] at h2⊢
  have HNone:Hid (jf s.data.toList f=none→(f+P.1.length:Nat)=f+T.size∧(f+P.2:Nat)=s.size):=Lib.hid fun h=>by
   unfold jf at h
   rw [Option.map_eq_none_iff] at h
   rw [h] at h2
   rw [h2,hTs,List.length_drop,←Lib.size_eq]
   exact ⟨rfl,by show f+(s.size-f)=s.size;omega⟩
  have HSome:Hid (∀u v,jf s.data.toList f=some (u,v)→(f+P.1.length:Nat)=u∧(f+P.2:Nat)=v):=Lib.hid fun u v h=>by
   unfold jf at h
   obtain ⟨r,h3,h4⟩:=Option.map_eq_some_iff.1 h
   rw [h3] at h2
   rw [h2]
   simp only [Prod.mk.injEq] at h4
   exact h4
  obtain ⟨U,hU⟩:∃U,(f+P.1.length:Nat)=U:=⟨_,rfl⟩
  obtain ⟨V,hV⟩:∃V,(f+P.2:Nat)=V:=⟨_,rfl⟩
  rw [hU,hV] at HNone HSome⊢
  clear h1 h2 hT hP hTs hU hV P
  go_enter Tryz.func131,Tryz.ntmps131
  go_wp2_with (go_at_call 161;refine (HS _).out.mono ?_;rintro e w1 ⟨rfl,b1⟩)
  have B1:=Lib.hid b1
  have hS0:(w1.alloc (.cells #[.string ⟨#[45,45,62]⟩,.string ⟨#[45,45,33,62]⟩] 153)).cell? ⟨w1.heap.size,0,none⟩=some (.string ⟨#[45,45,62]⟩)∧(w1.alloc (.cells #[.string ⟨#[45,45,62]⟩,.string ⟨#[45,45,33,62]⟩] 153)).cell? ⟨w1.heap.size,1,none⟩=some (.string ⟨#[45,45,33,62]⟩)∧w1.heap.size<(w1.alloc (.cells #[.string ⟨#[45,45,62]⟩,.string ⟨#[45,45,33,62]⟩] 153)).heap.size∧Below w.heap.size w (w1.alloc (.cells #[.string ⟨#[45,45,62]⟩,.string ⟨#[45,45,33,62]⟩] 153)):=by
   refine ⟨?_,?_,by simp,b1.alloc b1.size _⟩<;>(rw [cell_of_row _ _ _ _ _ _ (heap_alloc_new w1 _)];rfl)
  have hk:∀u v:World,(u.cell? ⟨w1.heap.size,0,none⟩=some (.string ⟨#[45,45,62]⟩)∧u.cell? ⟨w1.heap.size,1,none⟩=some (.string ⟨#[45,45,33,62]⟩)∧w1.heap.size<u.heap.size∧Below w.heap.size w u)→Below u.heap.size u v→(v.cell? ⟨w1.heap.size,0,none⟩=some (.string ⟨#[45,45,62]⟩)∧v.cell? ⟨w1.heap.size,1,none⟩=some (.string ⟨#[45,45,33,62]⟩)∧w1.heap.size<v.heap.size∧Below w.heap.size w v):=fun u v h b=>by
   obtain ⟨x0,x1,hl,hb⟩:=h
   exact ⟨(b.cell (p:=⟨w1.heap.size,0,none⟩) hl).trans x0,(b.cell (p:=⟨w1.heap.size,1,none⟩) hl).trans x1,Nat.lt_of_lt_of_le hl b.size,hb.trans (b.mono hb.size)⟩
  have HK:=Lib.hid hk
  have FIN:Hid (∀u:World,(u.cell? ⟨w1.heap.size,0,none⟩=some (.string ⟨#[45,45,62]⟩)∧u.cell? ⟨w1.heap.size,1,none⟩=some (.string ⟨#[45,45,33,62]⟩)∧w1.heap.size<u.heap.size∧Below w.heap.size w u)→Below w.heap.size w u):=Lib.hid fun u h=>h.2.2.2
  have HS0:=Lib.hid hS0
  clear hk hS0 b1 HS
  go_wp2
  go_loopw [8] (fun v wr=>∃i:Nat,v= .int .i64 (i:Int)∧(wr.cell? ⟨w1.heap.size,0,none⟩=some (.string ⟨#[45,45,62]⟩)∧wr.cell? ⟨w1.heap.size,1,none⟩=some (.string ⟨#[45,45,33,62]⟩)∧w1.heap.size<wr.heap.size∧Below w.heap.size w wr)∧f≤i∧i≤s.size∧Hid (jf s.data.toList i=jf s.data.toList f)) (fun v _=>s.size-(ae v).toNat)
  case atStart=>exact ⟨f,rfl,HS0.out,Nat.le_refl _,hf,Lib.hid rfl⟩
  case round=>
   obtain ⟨i,rfl,hS,hfi,hi,HI⟩:=hrel
   by_cases hlt:i<s.size
   ·have HSt:=fun w=>Lib.hid (nd ⟨#[45,45,62]⟩ ⟨#[45,45,33,62]⟩ (s.extract i s.size) w)
    rw [eP,show (⟨#[45,45,62]⟩:ByteArray).data.toList=[45,45,62] from rfl,show (⟨#[45,45,33,62]⟩:ByteArray).data.toList=[45,45,33,62] from rfl] at HSt
    have hi2:i≤1048576:=by omega
    have hd:wr.drew.cell? ⟨w1.heap.size,0,none⟩=some (.string ⟨#[45,45,62]⟩)∧wr.drew.cell? ⟨w1.heap.size,1,none⟩=some (.string ⟨#[45,45,33,62]⟩)∧w1.heap.size<wr.drew.heap.size∧Below w.heap.size w wr.drew:=by
     obtain ⟨x0,x1,hl,hb⟩:=hS
     exact ⟨x0,x1,hl,hb.drew⟩
    rcases I3 (s.data.toList.drop i) with ⟨h1,h2,h3⟩|⟨h1,h2,h3⟩
    ·rw [h1] at HSt
     have HN:=Lib.hid ((zL s i hlt h2 h3).symm.trans HI.out)
     have cA:Hid (∀u:World,(u.cell? ⟨w1.heap.size,0,none⟩=some (.string ⟨#[45,45,62]⟩)∧u.cell? ⟨w1.heap.size,1,none⟩=some (.string ⟨#[45,45,33,62]⟩)∧w1.heap.size<u.heap.size∧Below w.heap.size w u)→Calls Tryz.prog 161 #[.agg #[.string ⟨#[45,45,62]⟩,.string ⟨#[45,45,33,62]⟩],.string (s.extract i s.size)] u fun e v=>e= .returned (.int .i64 ((0:Nat):Int))∧(v.cell? ⟨w1.heap.size,0,none⟩=some (.string ⟨#[45,45,62]⟩)∧v.cell? ⟨w1.heap.size,1,none⟩=some (.string ⟨#[45,45,33,62]⟩)∧w1.heap.size<v.heap.size∧Below w.heap.size w v)):=Lib.hid fun u h=>by
      refine (HSt u).out.mono ?_
      rintro e v ⟨rfl,b⟩
      exact ⟨rfl,HK.out u v h b⟩
     clear h1 h2 h3 HSt
     go_wp2
     go_region_held3 (fun u:World=>u.cell? ⟨w1.heap.size,0,none⟩=some (.string ⟨#[45,45,62]⟩)∧u.cell? ⟨w1.heap.size,1,none⟩=some (.string ⟨#[45,45,33,62]⟩)∧w1.heap.size<u.heap.size∧Below w.heap.size w u) (first|exact hd|assumption) (first|(go_at_call 161;(with_reducible refine (cA.out _ ‹_›).mono ?_);rintro e w' ⟨rfl,hb⟩))
     all_goals
      go_wp2
      go_roundw
      case rel=>exact ⟨i+1,by go_num,‹_›,by omega,by omega,HN⟩
      case measure=>simp [ae];omega
    ·obtain ⟨n,hn⟩:∃n,CZ [45,45,62] [45,45,33,62] (s.data.toList.drop i)=n:=⟨_,rfl⟩
     rw [hn] at HSt h1 h2 h3
     have HR:=Lib.hid (HSome.out i (i+n) (HI.out.symm.trans (C5 _ i n h3)))
     have cA:Hid (∀u:World,(u.cell? ⟨w1.heap.size,0,none⟩=some (.string ⟨#[45,45,62]⟩)∧u.cell? ⟨w1.heap.size,1,none⟩=some (.string ⟨#[45,45,33,62]⟩)∧w1.heap.size<u.heap.size∧Below w.heap.size w u)→Calls Tryz.prog 161 #[.agg #[.string ⟨#[45,45,62]⟩,.string ⟨#[45,45,33,62]⟩],.string (s.extract i s.size)] u fun e v=>e= .returned (.int .i64 (n:Int))∧(v.cell? ⟨w1.heap.size,0,none⟩=some (.string ⟨#[45,45,62]⟩)∧v.cell? ⟨w1.heap.size,1,none⟩=some (.string ⟨#[45,45,33,62]⟩)∧w1.heap.size<v.heap.size∧Below w.heap.size w v)):=Lib.hid fun u h=>by
      refine (HSt u).out.mono ?_
      rintro e v ⟨rfl,b⟩
      exact ⟨rfl,HK.out u v h b⟩
     clear h3 HSt hn
     go_wp2
     go_region_held3 (fun u:World=>u.cell? ⟨w1.heap.size,0,none⟩=some (.string ⟨#[45,45,62]⟩)∧u.cell? ⟨w1.heap.size,1,none⟩=some (.string ⟨#[45,45,33,62]⟩)∧w1.heap.size<u.heap.size∧Below w.heap.size w u) (first|exact hd|assumption) (first|(go_at_call 161;(with_reducible refine (cA.out _ ‹_›).mono ?_);rintro e w' ⟨rfl,hb⟩))
     all_goals
      go_wp2
      go_ret2
      exact ⟨rb (by rw [HR.out.1]) (by rw [HR.out.2];omega),FIN.out _ ‹_›⟩
   ·obtain rfl:i=s.size:=by omega
    have HR:=Lib.hid (HNone.out (HI.out.symm.trans (C6 s)))
    have HBW:=Lib.hid hS.2.2.2
    clear hS
    go_wp2_with (go_at_call 162;refine (HW _).out.mono ?_;rintro e w' ⟨rfl,rfl⟩)
    go_ret2
    exact ⟨rb (by rw [HR.out.1];omega) (by rw [HR.out.2]),HBW.out⟩
end Go.Proofs.YtpmdcppnlggckaaGreatDoor
namespace Go.Proofs.YtpmdcppnlggckaaGreatDoor
open Go.RowKit Go.Lib
def ng (_:World):Prop:=True
theorem ng.below {w w':World} (_:ng w) (_:Below w.heap.size w w'):ng w':=trivial
theorem uZ:∀(p l:ab),(∀c∈p,(c.toNat:Int)<97)→(∀c∈p,¬(65≤(c.toNat:Int)∧(c.toNat:Int)≤90))→p.isPrefixOf (aD l)=p.isPrefixOf l
 |[],l,_,_=>by simp
 |c::p,[],_,_=>rfl
 |c::p,d::l,h,h'=>by
  rw [aI,List.isPrefixOf_cons_cons,List.isPrefixOf_cons_cons,uZ p l (fun x hx=>h x (.tail _ hx)) (fun x hx=>h' x (.tail _ hx))]
  congr 1
  have h1:=h c (.head _)
  have h2:=h' c (.head _)
  have h3:=cz d
  unfold fm at h3
  rw [Bool.eq_iff_iff,beq_iff_eq,beq_iff_eq,←UInt8.toNat_inj,←UInt8.toNat_inj]
  split at h3<;>omega
theorem pE (c:UInt8) (l:ab) (hc:(c.toNat:Int)<65):[60,c].isPrefixOf (aD l)=[60,c].isPrefixOf l:=by
 refine uZ _ _ ?_ ?_
 ·intro x hx
  simp only [List.mem_cons,List.not_mem_nil,or_false] at hx
  rcases hx with rfl|rfl
  ·decide
  ·omega
 ·intro x hx
  simp only [List.mem_cons,List.not_mem_nil,or_false] at hx
  rcases hx with rfl|rfl
  ·decide
  ·omega
theorem yn (l:ab):[60,33,45,45].isPrefixOf (aD l)=[60,33,45,45].isPrefixOf l:=uZ _ _ (by decide) (by decide)
def Lv:ab→Bool
 |[]=>false
 |c::_=> !(c==62)&& !(bz (c.toNat:Int))
theorem Gp (l:ab):fq l=if [60,33].isPrefixOf l=true then !(([60,33]++vy).isPrefixOf (aD l)) else if [60,47].isPrefixOf l=true then Lv (l.drop 2) else [60,63].isPrefixOf l:=by
 match l with
 |[]=>rfl
 |[c]=>
  have h:∀x:UInt8,[60,x].isPrefixOf [c]=false:=fun x=>by simp [List.isPrefixOf]
  rw [gR [c] (by simp),h,h,h];rfl
 |c::d::t=>
  rw [qx]
  have hp:∀x:UInt8,[60,x].isPrefixOf (c::d::t)=(c==60&&d==x):=fun x=>by
   rw [List.isPrefixOf_cons_cons,List.isPrefixOf_cons_cons]
   simp [BEq.comm]
  rw [hp,hp,hp]
  cases hc:c==60
  ·rfl
  ·have h60:c=60:=beq_iff_eq.1 hc
   subst h60
   simp only [Bool.true_and]
   by_cases h1:d=33
   ·subst h1
    rw [if_pos rfl,aI,aI,List.cons_append,List.cons_append,List.nil_append,List.isPrefixOf_cons_cons,List.isPrefixOf_cons_cons,show ca 60=60 by decide,show ca 33=33 by decide];rfl
   ·rw [if_neg h1,show (d==33)=false from beq_eq_false_iff_ne.2 h1,if_neg Bool.false_ne_true]
    by_cases h2:d=47
    ·subst h2
     cases t<;>rfl
    ·rw [if_neg h2,show (d==47)=false from beq_eq_false_iff_ne.2 h2,if_neg Bool.false_ne_true]
     by_cases h3:d=63
     ·subst h3;rfl
     ·rw [if_neg h3,show (d==63)=false from beq_eq_false_iff_ne.2 h3]
theorem C7 (s:ByteArray) (w:World) (hs:s.size≤1048576):Calls Tryz.prog 128 #[.string s] w fun e w'=>e= .returned (.bool (Lv s.data.toList))∧w'=w:=by
 by_cases h0:s.size=0
 ·have hl:s.data.toList=[]:=by rw [←List.length_eq_zero_iff,←Lib.size_eq];exact h0
  obtain rfl:s=⟨#[]⟩:=bu (by rw [hl])
  clear h0 hl hs
  go_enter Tryz.func128,Tryz.ntmps128
  go_wp2
  go_ret
  exact ⟨rfl,rfl⟩
 ·have hlt:0<s.size:=by omega
  have hd:s.data.toList=s[0]::s.data.toList.drop 1:=by
   have:=aj s 0 hlt
   rw [List.drop_zero] at this;exact this
  have HL:=fun w=>Lib.hid (DC ((s[0].toNat:Nat):Int) w (by omega) (by have:=s[0].toNat_lt;omega))
  have hne:¬s.toList=[]:=fun h=>by
   have:=jk s ⟨#[]⟩
   rw [h,hd] at this
   simp at this
  have hem:s.toList.isEmpty=false:=by
   cases h:s.toList with
   |nil=>exact absurd h hne
   |cons a l=>rfl
  rw [hd,show Lv (s[0]::s.data.toList.drop 1)=(!(s[0]==62)&& !(bz ((s[0].toNat:Nat):Int))) from rfl]
  by_cases c62:s[0]=62
  ·have b62:(((s[0].toNat:Nat):Int) != 62)=false:=by rw [c62];rfl
   rw [show (s[0]==62)=true from beq_iff_eq.2 c62]
   clear c62 hd HL
   go_enter Tryz.func128,Tryz.ntmps128
   go_wp2
   go_ret
   exact ⟨rfl,rfl⟩
  ·have b62:(((s[0].toNat:Nat):Int) != 62)=true:=by
    rw [bne_iff_ne];exact fun h=>c62 (aQ _ 62 (by decide) h)
   rw [show (s[0]==62)=false from beq_eq_false_iff_ne.2 c62]
   obtain ⟨L,hL⟩:∃L,bz ((s[0].toNat:Nat):Int)=L:=⟨_,rfl⟩
   rw [hL] at HL⊢
   clear c62 hd hL
   go_enter Tryz.func128,Tryz.ntmps128
   go_wp2_with (go_at_call 156;refine (HL _).out.mono ?_;rintro e w1 ⟨rfl,rfl⟩)
   go_ret
   exact ⟨az (by simp),rfl⟩
theorem jH (s low:ByteArray) (k:Nat) (h:k≤s.size):bb s (k:Int) low=low.data.toList.isPrefixOf (aD (s.data.toList.drop k)):=by
 unfold bb
 rw [decide_eq_true (show 0≤(k:Int)∧(k:Int)≤(s.size:Int) by omega),Bool.true_and,show ((k:Nat):Int).toNat=k by omega]
theorem Gq (s low:ByteArray) (a:Int) (h:¬(0≤a∧a≤(s.size:Int))):bb s a low=false:=by
 unfold bb;rw [decide_eq_false h,Bool.false_and]
theorem lJ (s:ByteArray) (a:Int) (w:World) (hs:s.size≤1048576) (ha: -9223372036854775808≤a∧a≤9223372036854775807) (_h:ng w):Calls Tryz.prog 84 #[.string s,.int .i64 a] w fun e w'=>e= .returned (.bool (dJ s.data.toList a))∧Below w.heap.size w w':=by
 have HB:=fun low hl w=>Lib.hid (cg s a low w (by omega) hl ha.1 ha.2)
 have HB1:=fun w=>HB ⟨#[60,33]⟩ (by decide) w
 have HB2:=fun w=>HB ⟨#[60,33,100,111,99,116,121,112,101]⟩ (by decide) w
 have HB3:=fun w=>HB ⟨#[60,47]⟩ (by decide) w
 have HB4:=fun w=>HB ⟨#[60,63]⟩ (by decide) w
 clear HB
 by_cases hin:0≤a∧a≤(s.size:Int)
 ·obtain ⟨k,rfl⟩:∃k:Nat,a=k:=⟨a.toNat,by omega⟩
  have hk:k≤s.size:=by omega
  have hkk:k≤1048576:=by omega
  rw [jH s _ k hk,show (⟨#[60,33]⟩:ByteArray).data.toList=[60,33] from rfl,pE 33 _ (by decide)] at HB1
  rw [jH s _ k hk,show (⟨#[60,33,100,111,99,116,121,112,101]⟩:ByteArray).data.toList=[60,33]++vy from rfl] at HB2
  rw [jH s _ k hk,show (⟨#[60,47]⟩:ByteArray).data.toList=[60,47] from rfl,pE 47 _ (by decide)] at HB3
  rw [jH s _ k hk,show (⟨#[60,63]⟩:ByteArray).data.toList=[60,63] from rfl,pE 63 _ (by decide)] at HB4
  rw [kU,Gp]
  cases h1:[60,33].isPrefixOf (s.data.toList.drop k)
  ·rw [h1] at HB1
   rw [if_neg Bool.false_ne_true]
   clear h1 HB2
   cases h3:[60,47].isPrefixOf (s.data.toList.drop k)
   ·rw [h3] at HB3
    rw [if_neg Bool.false_ne_true]
    obtain ⟨B,hB⟩:∃B,[60,63].isPrefixOf (s.data.toList.drop k)=B:=⟨_,rfl⟩
    rw [hB] at HB4⊢
    clear hB h3 hin ha
    go_enter Tryz.func84,Tryz.ntmps84
    go_wp2_with (fail)
    refine (HB1 _).out.mono ?_
    rintro e w1 ⟨rfl,n1,rfl⟩
    go_wp2_with (fail)
    refine (HB3 _).out.mono ?_
    rintro e w1 ⟨rfl,n2,rfl⟩
    go_wp2_with (fail)
    refine (HB4 _).out.mono ?_
    rintro e w1 ⟨rfl,n3,rfl⟩
    go_wp2
    go_ret
    exact ⟨rfl,ai _ _ _⟩
   ·rw [h3] at HB3
    rw [if_pos rfl,List.drop_drop]
    have hk2:k+2≤s.size:=by
     have:=(List.isPrefixOf_iff_prefix.1 h3).length_le
     rw [List.length_drop,←Lib.size_eq] at this
     simp at this;omega
    have HN:=fun w=>Lib.hid (C7 (s.extract (k+2) s.size) w (by rw [ByteArray.size_extract];omega))
    rw [eP] at HN
    obtain ⟨B,hB⟩:∃B,Lv (s.data.toList.drop (k+2))=B:=⟨_,rfl⟩
    rw [hB] at HN⊢
    have hki:(k:Int)+2≤(s.size:Int):=by omega
    clear hB h3 HB4 hin ha
    go_enter Tryz.func84,Tryz.ntmps84
    go_wp2_with (fail)
    refine (HB1 _).out.mono ?_
    rintro e w1 ⟨rfl,n1,rfl⟩
    go_wp2_with (fail)
    refine (HB3 _).out.mono ?_
    rintro e w1 ⟨rfl,n2,rfl⟩
    go_wp2_with (fail)
    refine (HN _).out.mono ?_
    rintro e w1 ⟨rfl,rfl⟩
    go_wp2
    go_ret
    exact ⟨rfl,ai _ _ _⟩
  ·rw [h1] at HB1
   rw [if_pos rfl]
   obtain ⟨B,hB⟩:∃B,([60,33]++vy).isPrefixOf (aD (s.data.toList.drop k))=B:=⟨_,rfl⟩
   rw [hB] at HB2⊢
   clear hB h1 HB3 HB4 hin ha
   go_enter Tryz.func84,Tryz.ntmps84
   go_wp2_with (fail)
   refine (HB1 _).out.mono ?_
   rintro e w1 ⟨rfl,n1,rfl⟩
   go_wp2_with (fail)
   refine (HB2 _).out.mono ?_
   rintro e w1 ⟨rfl,n2,rfl⟩
   go_wp2
   go_ret
   exact ⟨az (by simp),ai _ _ _⟩
 ·rw [Gq s _ a hin] at HB1 HB3 HB4
  have hV:dJ s.data.toList a=false:=by
   unfold dJ
   by_cases h0:0≤a
   ·rw [gR _ (by rw [List.length_drop,←Lib.size_eq];omega),Bool.and_false]
   ·rw [decide_eq_false h0,Bool.false_and]
  rw [hV]
  clear hV HB2 hin ha
  go_enter Tryz.func84,Tryz.ntmps84
  go_wp2_with (fail)
  refine (HB1 _).out.mono ?_
  rintro e w1 ⟨rfl,n1,rfl⟩
  go_wp2_with (fail)
  refine (HB3 _).out.mono ?_
  rintro e w1 ⟨rfl,n2,rfl⟩
  go_wp2_with (fail)
  refine (HB4 _).out.mono ?_
  rintro e w1 ⟨rfl,n3,rfl⟩
  go_wp2
  go_ret
  exact ⟨rfl,ai _ _ _⟩
def LO (l:ab):Nat:=if [60,33,45,45].isPrefixOf l=true then 4 else if [60,63].isPrefixOf l=true then 1 else 2
theorem sn (s:ByteArray) (k:Nat) (w:World) (hs:s.size≤1048576) (hk:k≤s.size):Calls Tryz.prog 129 #[.string s,.int .i64 (k:Int)] w fun e w'=>e= .returned (.int .i64 ((k+LO (s.data.toList.drop k):Nat):Int))∧Below w.heap.size w w':=by
 have HB1:=fun w=>Lib.hid (cg s (k:Int) ⟨#[60,33,45,45]⟩ w (by omega) (by decide) (by omega) (by omega))
 have HB2:=fun w=>Lib.hid (cg s (k:Int) ⟨#[60,63]⟩ w (by omega) (by decide) (by omega) (by omega))
 have hkk:k≤1048576:=by omega
 rw [jH s _ k hk,show (⟨#[60,33,45,45]⟩:ByteArray).data.toList=[60,33,45,45] from rfl,yn] at HB1
 rw [jH s _ k hk,show (⟨#[60,63]⟩:ByteArray).data.toList=[60,63] from rfl,pE 63 _ (by decide)] at HB2
 unfold LO
 cases h1:[60,33,45,45].isPrefixOf (s.data.toList.drop k)
 ·rw [h1] at HB1
  rw [if_neg Bool.false_ne_true]
  clear h1
  cases h2:[60,63].isPrefixOf (s.data.toList.drop k)
  all_goals
   rw [h2] at HB2
   clear h2
   go_enter Tryz.func129,Tryz.ntmps129
   go_wp2_with (fail)
   refine (HB1 _).out.mono ?_
   rintro e w1 ⟨rfl,n1,rfl⟩
   go_wp2_with (fail)
   refine (HB2 _).out.mono ?_
   rintro e w1 ⟨rfl,n2,rfl⟩
   go_wp2
   go_ret
   exact ⟨rfl,ai _ _ _⟩
 ·rw [h1] at HB1
  clear h1 HB2
  go_enter Tryz.func129,Tryz.ntmps129
  go_wp2_with (fail)
  refine (HB1 _).out.mono ?_
  rintro e w1 ⟨rfl,n1,rfl⟩
  go_wp2
  go_ret
  exact ⟨rfl,ai _ _ _⟩
theorem Gr (l : ab) : Lib.indexByte l 62 = if (l.takeWhile (· != 62)).length < l.length then ((l.takeWhile (· != 62)).length : Int) else -1 := by
  by_cases h : 62 ∈ l
  · obtain ⟨p, r, rfl, hp⟩ := qt 62 l h
    have h1 : ∀ x ∈ p, (x != 62) = true := fun x hx => by
      rw [bne_iff_ne]; rintro rfl; exact hp hx
    have e1 : (p ++ 62 :: r).takeWhile (· != 62) = p := by
      rw [List.takeWhile_append_of_pos h1]; simp
    rw [e1, im p 62 r hp, if_pos (by simp)]
  · have h1 : ∀ x ∈ l, (x != 62) = true := fun x hx => by
      rw [bne_iff_ne]; rintro rfl; exact h hx
    have e1 : l.takeWhile (· != 62) = l := by
      have := List.takeWhile_append_of_pos (l₂ := []) h1
      rw [List.append_nil] at this
      rw [this]; simp
    rw [e1, gK l 62 h, if_neg (Nat.lt_irrefl _)]
theorem u0 (s : ByteArray) (f : Nat) (w : World) (hs : s.size ≤ 1048576) (hf : f ≤ s.size) :
    Calls Tryz.prog 130 #[.string s, .int .i64 (f : Int)] w fun e w' => e = .returned (.tuple #[.int .i64 (gp s.data.toList f : Int), .int .i64 ((f + (dM (s.data.toList.drop f)).2 : Nat) : Int)]) ∧ w' = w := by
  have HI := fun w => Lib.hid (Tryz.strings_IndexByte (s.extract f s.size) 62 w)
  have hb := zc s f hf
  obtain ⟨b1, b2, -, b4⟩ := hb
  rw [eP, show (62 : Int).toNat.toUInt8 = 62 from rfl, Gr, List.length_drop, ← Lib.size_eq, show (List.takeWhile (· != 62) (s.data.toList.drop f)).length = gp s.data.toList f - f by unfold gp; omega] at HI
  rw [b4]
  obtain ⟨E, hE⟩ : ∃ E, gp s.data.toList f = E := ⟨_, rfl⟩
  rw [hE] at HI b1 b2 ⊢
  clear hE b4
  have hff : f ≤ 1048576 := by omega
  by_cases h : E < s.size
  · rw [if_pos (by omega)] at HI
    rw [if_pos h]
    obtain ⟨d, rfl⟩ : ∃ d, E = f + d := ⟨E - f, by omega⟩
    rw [Nat.add_sub_cancel_left] at HI
    have hd : d ≤ 1048576 := by omega
    go_enter Tryz.func130, Tryz.ntmps130
    go_wp2_with (go_at_call 160; refine (HI _).out.mono ?_; rintro e w1 ⟨rfl, rfl⟩)
    go_ret2
    exact ⟨rb (by omega) (by omega), rfl⟩
  · rw [if_neg (by omega)] at HI
    rw [if_neg h]
    obtain rfl : E = s.size := by omega
    go_enter Tryz.func130, Tryz.ntmps130
    go_wp2_with (go_at_call 160; refine (HI _).out.mono ?_; rintro e w1 ⟨rfl, rfl⟩)
    go_ret2
    exact ⟨rfl, rfl⟩
theorem I4 (s:ByteArray) (a:Int) (w:World) (hs:s.size≤1048576) (ha: -9223372036854775808≤a∧a≤9223372036854775807) (_h:ng w):Calls Tryz.prog 85 #[.string s,.int .i64 a] w (lD (jV s.data.toList a) w):=by
 have HBg:=fun w=>Lib.hid (lJ s a w hs ha trivial)
 cases hb:dJ s.data.toList a
 ·rw [hb] at HBg
  have HV:=Lib.hid (EK s.data.toList a hb)
  clear hb ha
  go_enter Tryz.func85,Tryz.ntmps85
  go_wp2_with (fail)
  refine (HBg _).out.mono ?_
  rintro e w1 ⟨rfl,b1⟩
  have HB:=Lib.hid ((b1.block _ (by simp)).trans (heap_alloc_new w _))
  have B1:=Lib.hid (((Below.refl _ w).alloc (Nat.le_refl _) _).trans (b1.mono (by simp)))
  clear b1
  go_wp2_with (refine ak rfl _ _ rfl w.heap.size aG none 0 0 rfl rfl _ HB.out rfl ?_;intro w2 hb2 hg2)
  have B2:=B1.out.grown hg2 B1.out.size (fun j hj=>by cases hj;exact Nat.le_refl _)
  refine bodyPost_ret (ar rfl _ _ w.heap.size aG none 0 0 rfl (aJ hb2)) rfl ?_
  exact ⟨aG,none,0,0,_,false,rfl,aq _,HV.out,B2⟩
 obtain ⟨k,rfl⟩:∃k:Nat,a=k:=⟨a.toNat,by
  unfold dJ at hb
  rw [Bool.and_eq_true,decide_eq_true_iff] at hb;omega⟩
 rw [hb] at HBg
 rw [kU] at hb
 have hk1:k+1<s.size:=Nat.lt_of_not_le fun h=>by
  rw [gR _ (by rw [List.length_drop,←Lib.size_eq];omega)] at hb;cases hb
 have hk:k≤1048576:=by omega
 have hv:=y4 s.data.toList k hb
 have HX:=fun w=>Lib.hid (cg s (k:Int) ⟨#[60,33,45,45]⟩ w (by omega) (by decide) (by omega) (by omega))
 rw [jH s _ k (by omega),show (⟨#[60,33,45,45]⟩:ByteArray).data.toList=[60,33,45,45] from rfl,yn] at HX
 have HT:=fun w=>Lib.hid (sn s k w hs (by omega))
 unfold LO at HT
 unfold fb at hv
 have hk60:s[k]=60:=by
  rw [aj s k (by omega),aj s (k+1) hk1,qx,Bool.and_eq_true] at hb
  exact beq_iff_eq.1 hb.1
 clear ha hb
 obtain ⟨f,fn,E,V,hfs,hfE,hEs,hHT,hHX,hfn,hval⟩:∃(f:Nat) (fn:Nat) (E V:Nat),f≤s.size∧f≤E∧E≤s.size∧(∀w,Hid (Calls Tryz.prog 129 #[.string s,.int .i64 (k:Int)] w fun e w'=>e= .returned (.int .i64 (f:Int))∧Below w.heap.size w w'))∧(∀w,Hid (Calls Tryz.prog 88 #[.string s,.int .i64 (k:Int),.string ⟨#[60,33,45,45]⟩] w fun e w'=>e= .returned (.bool (decide (fn=1)))∧∃n,w'=w.drewN n))∧(fn=1∧(∀w,Hid (Calls Tryz.prog 131 #[.string s,.int .i64 (f:Int)] w fun e w'=>e= .returned (.tuple #[.int .i64 (E:Int),.int .i64 (V:Int)])∧Below w.heap.size w w'))∨fn=0∧(∀w,Hid (Calls Tryz.prog 130 #[.string s,.int .i64 (f:Int)] w fun e w'=>e= .returned (.tuple #[.int .i64 (E:Int),.int .i64 (V:Int)])∧Below w.heap.size w w')))∧jV s.data.toList (k:Int)=(gZ (s.extract f E).data.toList,(V:Int),true):=by
  cases hp:[60,33,45,45].isPrefixOf (s.data.toList.drop k)
  ·rw [hp,if_neg Bool.false_ne_true] at HT
   rw [hp,if_neg Bool.false_ne_true] at hv
   rw [hp] at HX
   have hh:((s.data.toList.drop k).drop 1).head?=some s[k+1]:=by rw [List.drop_drop,aj s (k+1) hk1];rfl
   rw [hh,List.drop_drop,List.drop_drop] at hv
   have h60:[60,63].isPrefixOf (s.data.toList.drop k)=true→s[k+1]=63:=fun h=>by
    rw [aj s k (by omega),aj s (k+1) hk1,List.isPrefixOf_cons_cons,List.isPrefixOf_cons_cons] at h
    simp at h
    exact h.2.symm
   have key:∀f:Nat,f≤s.size→jV s.data.toList (k:Int)=(gZ (dM (s.data.toList.drop f)).1,((f+(dM (s.data.toList.drop f)).2:Nat):Int),true)→f≤gp s.data.toList f∧gp s.data.toList f≤s.size∧jV s.data.toList (k:Int)=(gZ (s.extract f (gp s.data.toList f)).data.toList,((f+(dM (s.data.toList.drop f)).2:Nat):Int),true):=fun f hf hc=>by
    obtain ⟨b1,b2,b3,b4⟩:=zc s f hf
    exact ⟨b1,b2,by rw [hc,b3]⟩
   have fin:∀f:Nat,f≤s.size→∀w,Hid (Calls Tryz.prog 130 #[.string s,.int .i64 (f:Int)] w fun e w'=>e= .returned (.tuple #[.int .i64 (gp s.data.toList f:Int),.int .i64 ((f+(dM (s.data.toList.drop f)).2:Nat):Int)])∧Below w.heap.size w w'):=fun f hf w=>Lib.hid ((u0 s f w hs hf).mono (by rintro e w' ⟨rfl,rfl⟩;exact ⟨rfl,Below.refl _ _⟩))
   cases h6:[60,63].isPrefixOf (s.data.toList.drop k)
   ·rw [h6,if_neg Bool.false_ne_true] at HT
    have hne:s[k+1]≠63:=fun e=>by
     rw [aj s k (by omega),aj s (k+1) hk1,hk60,e] at h6
     simp [List.isPrefixOf] at h6
    rw [if_neg (fun e=>hne (Option.some.inj e))] at hv
    obtain ⟨c1,c2,c3⟩:=key (k+2) (by omega) (by
     rw [hv];simp only [Prod.mk.injEq,true_and,and_true];omega)
    exact ⟨k+2,0,_,_,by omega,c1,c2,HT,HX,.inr ⟨rfl,fin (k+2) (by omega)⟩,c3⟩
   ·rw [h6,if_pos rfl] at HT
    rw [if_pos (by rw [h60 h6])] at hv
    obtain ⟨c1,c2,c3⟩:=key (k+1) (by omega) (by
     rw [hv];simp only [Prod.mk.injEq,true_and,and_true];omega)
    exact ⟨k+1,0,_,_,by omega,c1,c2,HT,HX,.inr ⟨rfl,fin (k+1) (by omega)⟩,c3⟩
  ·rw [hp,if_pos rfl] at HT
   rw [hp,if_pos rfl,List.drop_drop] at hv
   rw [hp] at HX
   have hk4:k+4≤s.size:=by
    have:=(List.isPrefixOf_iff_prefix.1 hp).length_le
    rw [List.length_drop,←Lib.size_eq] at this
    simp at this;omega
   have hpre:=C0 (s.data.toList.drop (k+4))
   have hlen:(aT (s.data.toList.drop (k+4))).1.length≤s.size-(k+4):=by
    have:=(List.prefix_iff_eq_take.2 hpre).length_le
    rw [List.length_drop,←Lib.size_eq] at this;exact this
   have HM:=fun w=>Lib.hid (sm s (k+4) ((k+4:Nat):Int) w hs rfl hk4)
   refine ⟨k+4,1,_,_,hk4,?_,?_,HT,HX,.inl ⟨rfl,HM⟩,?_⟩
   ·omega
   ·omega
   ·rw [hv,Lib.extract_data,Nat.add_sub_cancel_left,←hpre]
    simp only [Prod.mk.injEq,true_and,and_true];omega
 have HC:=fun w=>Lib.hid (fy (s.extract f E) w (by rw [ByteArray.size_extract];omega))
 have ht:gZ (s.extract f E).data.toList=⟨3,[],ap (s.extract f E).data.toList,[],false⟩:=rfl
 rw [ht] at hval
 obtain ⟨X,hX⟩:∃X,ap (s.extract f E).data.toList=X:=⟨_,rfl⟩
 rw [hX] at HC hval
 have HV:=Lib.hid hval
 have hE2:E≤1048576:=by omega
 have hf2:f≤1048576:=by omega
 have HFN:=Lib.hid hfn
 have HHX:=fun w=>Lib.hid (hHX w)
 have HHT:=fun w=>Lib.hid (hHT w)
 clear hX ht hval hv HT HX hfn hHX hHT hk60
 rcases HFN.out with ⟨h1,HM⟩|⟨h1,HM⟩
 all_goals
  rw [h1] at HHX
  have HM2:=fun w=>Lib.hid (HM w)
  clear h1 HM HFN
  go_enter Tryz.func85,Tryz.ntmps85
  go_wp2_with (fail)
  refine (HBg _).out.mono ?_
  rintro e w1 ⟨rfl,b1⟩
  have HB:=Lib.hid ((b1.block _ (by simp)).trans (heap_alloc_new w _))
  have B1:=Lib.hid (((Below.refl _ w).alloc (Nat.le_refl _) _).trans (b1.mono (by simp)))
  have hlt1:w.heap.size<w1.heap.size:=(Array.getElem?_eq_some_iff.1 HB.out).1
  clear b1
  go_wp2_with (fail)
  refine (HHT _).out.out.mono ?_
  rintro e w2 ⟨rfl,b2⟩
  have HB2:=Lib.hid ((b2.block _ hlt1).trans HB.out)
  have B2:=Lib.hid (B1.out.trans (b2.mono B1.out.size))
  have hlt2:w.heap.size<w2.heap.size:=(Array.getElem?_eq_some_iff.1 HB2.out).1
  clear b2 HB B1 hlt1
  go_wp2_with (fail)
  refine (HHX _).out.out.mono ?_
  rintro e w3 ⟨rfl,n3,rfl⟩
  have HB3:=Lib.hid (((ai w2.heap.size w2 n3).block _ hlt2).trans HB2.out)
  have B3:=Lib.hid (B2.out.trans ((ai w2.heap.size w2 n3).mono B2.out.size))
  have hlt3:w.heap.size<(w2.drewN n3).heap.size:=(Array.getElem?_eq_some_iff.1 HB3.out).1
  go_wp2_with (fail)
  refine (HM2 _).out.out.mono ?_
  rintro e w4 ⟨rfl,b4⟩
  have HB4:=Lib.hid ((b4.block _ hlt3).trans HB3.out)
  have B4:=Lib.hid (B3.out.trans (b4.mono B3.out.size))
  have hlt4:w.heap.size<w4.heap.size:=(Array.getElem?_eq_some_iff.1 HB4.out).1
  clear b4 HB3 B3 hlt3 HB2 B2 hlt2
  go_wp2_with (fail)
  refine (HC _).out.mono ?_
  rintro e w5 ⟨rfl,b5⟩
  have HB5:=Lib.hid ((b5.block _ hlt4).trans HB4.out)
  have B5:=Lib.hid (B4.out.trans (b5.mono B4.out.size))
  clear b5
  go_wp2_with (refine ak rfl _ _ rfl w.heap.size ⟨3,[],X,[],false⟩ none 0 0 rfl rfl _ HB5.out rfl ?_;intro w6 hb6 hg6)
  have B6:=B5.out.grown hg6 B5.out.size (fun j hj=>by cases hj;exact Nat.le_refl _)
  refine bodyPost_ret (ar rfl _ _ w.heap.size ⟨3,[],X,[],false⟩ none 0 0 rfl (aJ hb6)) rfl ?_
  exact ⟨⟨3,[],X,[],false⟩,none,0,0,_,true,rfl,aq _,HV.out,B6⟩
end Go.Proofs.YtpmdcppnlggckaaGreatDoor
namespace Go.Proofs.YtpmdcppnlggckaaGreatDoor
open Go.RowKit Go.Lib
def rc (_:World):Prop:=True
theorem rc.below {w w':World} (_:rc w) (_:Below w.heap.size w w'):rc w':=trivial
theorem Gs (s:ByteArray) (a:Int):bb s a ⟨#[60,33,100,111,99,116,121,112,101]⟩=dz s.data.toList a:=by
 by_cases h:0≤a∧a≤(s.size:Int)
 ·unfold bb dz jW
  rw [decide_eq_true h,decide_eq_true h.1];rfl
 ·rw [mL s.data.toList a (by rw [←Lib.size_eq];omega)]
  unfold bb;rw [decide_eq_false h,Bool.false_and]
theorem lL (s:ByteArray) (a:Int) (w:World) (hs:s.size≤1048576) (ha: -9223372036854775808≤a∧a≤9223372036854775807) (_h:rc w):Calls Tryz.prog 86 #[.string s,.int .i64 a] w fun e w'=>e= .returned (.bool (dz s.data.toList a))∧Below w.heap.size w w':=by
 have HB:=fun w=>Lib.hid (cg s a ⟨#[60,33,100,111,99,116,121,112,101]⟩ w (by omega) (by decide) ha.1 ha.2)
 rw [Gs] at HB
 clear ha
 go_enter Tryz.func86,Tryz.ntmps86
 go_wp2_with (fail)
 refine (HB _).out.mono ?_
 rintro e w1 ⟨rfl,n1,rfl⟩
 go_wp2
 go_ret
 exact ⟨rfl,ai _ _ _⟩
end Go.Proofs.YtpmdcppnlggckaaGreatDoor
namespace Go.Proofs.YtpmdcppnlggckaaGreatDoor
open Go.RowKit Go.Lib
theorem Gt (s:ByteArray) (k:Nat):s.extract k s.size=⟨(s.data.toList.drop k).toArray⟩:=bu (by
 rw [Lib.extract_data,List.toList_toArray,List.take_of_length_le]
 rw [List.length_drop,←Lib.size_eq];exact Nat.le_refl _)
theorem Gu (p:UInt8→Bool):∀(l:ab) (x:UInt8),x∈l.takeWhile p→p x=true
 |[],x,h=>by simp at h
 |c::l,x,h=>by
  rw [List.takeWhile_cons] at h
  split at h
  ·next hc=>
   rw [List.mem_cons] at h
   rcases h with rfl|h
   ·exact hc
   ·exact Gu p l x h
  ·simp at h
end Go.Proofs.YtpmdcppnlggckaaGreatDoor
namespace Go.Proofs.YtpmdcppnlggckaaGreatDoor
open Go.RowKit Go.Lib
theorem I5 (s : ByteArray) (a : Int) (w : World) (hs : s.size ≤ 1048576) (ha : -9223372036854775808 ≤ a ∧ a ≤ 9223372036854775807) (_h : rc w) :
    Calls Tryz.prog 87 #[.string s, .int .i64 a] w (lD (o7 s.data.toList a) w) := by
  have HBg := fun w => Lib.hid (lL s a w hs ha trivial)
  cases hb : dz s.data.toList a
  · rw [hb] at HBg
    have HV := Lib.hid (EP s.data.toList a hb)
    clear hb ha
    go_enter Tryz.func87, Tryz.ntmps87
    go_wp2_with (fail)
    refine (HBg _).out.mono ?_
    rintro e w1 ⟨rfl, b1⟩
    have HB := Lib.hid ((b1.block _ (by simp)).trans (heap_alloc_new w _))
    have B1 := Lib.hid (((Below.refl _ w).alloc (Nat.le_refl _) _).trans (b1.mono (by simp)))
    clear b1
    go_wp2_with (refine ak rfl _ _ rfl w.heap.size aG none 0 0 rfl rfl _ HB.out rfl ?_; intro w2 hb2 hg2)
    have B2 := B1.out.grown hg2 B1.out.size (fun j hj => by cases hj; exact Nat.le_refl _)
    refine bodyPost_ret (ar rfl _ _ w.heap.size aG none 0 0 rfl (aJ hb2)) rfl ?_
    exact ⟨aG, none, 0, 0, _, false, rfl, aq _, HV.out, B2⟩
  obtain ⟨k, rfl⟩ : ∃ k : Nat, a = k := ⟨a.toNat, by
    unfold dz at hb
    rw [Bool.and_eq_true, decide_eq_true_iff] at hb; omega⟩
  have hk9 : k + 9 ≤ s.size := Nat.le_of_not_lt fun h => by
    rw [mL s.data.toList k (by rw [← Lib.size_eq]; omega)] at hb; cases hb
  rw [hb] at HBg
  rw [px] at hb
  have hv := y9 s.data.toList k hb
  have hx : s.extract (k + 9) s.size = ⟨(s.data.toList.drop (k + 9)).toArray⟩ := Gt s (k + 9)
  have hdl : (s.data.toList.drop (k + 9)).length = s.size - (k + 9) := by rw [List.length_drop, ← Lib.size_eq]
  obtain ⟨l, hl⟩ : ∃ l, s.data.toList.drop (k + 9) = l := ⟨_, rfl⟩
  have HC := fun w => Lib.hid (kL (s.extract (k + 9) s.size) 62 (l.takeWhile (· != 62)) (l.dropWhile (· != 62)) w (by rw [ByteArray.size_extract]; omega) (by rw [hx, hl]; simp) (fun h => by
      have := Gu _ _ _ h
      simp at this) (by
      rcases EO (· != 62) l with h | ⟨d, z, h, hd⟩
      · exact .inl h
      · refine .inr ⟨z, ?_⟩
        rw [h, show d = 62 by simpa using hd]))
  unfold rD at HC
  have hsk : cO (· != 62) s.data.toList (k + 9) = k + 9 + (l.takeWhile (· != 62)).length := by unfold cO; rw [hl]
  have hsum : (l.takeWhile (· != 62)).length + (l.dropWhile (· != 62)).length = l.length := by
    rw [← List.length_append, List.takeWhile_append_dropWhile]
  rw [hl] at hdl hv
  rw [hsk, ← Lib.size_eq] at hv
  have hdct : rO (l.takeWhile (· != 62)) = ⟨4, [], ap (l.takeWhile (· != 62)), [], false⟩ := rfl
  rw [hdct] at hv
  obtain ⟨L, hL⟩ : ∃ L : ByteArray, ⟨(l.takeWhile (· != 62)).toArray⟩ = L := ⟨_, rfl⟩
  have hLl : L.data.toList = l.takeWhile (· != 62) := by rw [← hL]
  have hLs : (l.takeWhile (· != 62)).length = L.size := by rw [Lib.size_eq, hLl]
  rw [hL] at HC
  rw [hLs] at hsum hv
  have HCl := fun w => Lib.hid (fy L w (by omega))
  rw [hLl] at HCl
  obtain ⟨X, hX⟩ : ∃ X, ap (l.takeWhile (· != 62)) = X := ⟨_, rfl⟩
  rw [hX] at HCl hv
  obtain ⟨Y, hY⟩ : ∃ Y : ByteArray, ⟨((l.dropWhile (· != 62)).tail).toArray⟩ = Y := ⟨_, rfl⟩
  rw [hY] at HC
  have hki : (k : Int) + 9 ≤ (s.size : Int) := by omega
  have hkk : k ≤ 1048576 := by omega
  have hle : k + 9 + L.size ≤ s.size := by omega
  have hL2 : L.size ≤ 1048576 := by omega
  have key : ∃ (b : Bool) (V : Nat), (!(l.dropWhile (· != 62)).isEmpty) = b ∧ o7 s.data.toList (k : Int) = (⟨4, [], X, [], false⟩, (V : Int), true) ∧ (b = true ∧ V = k + 9 + L.size + 1 ∨ b = false ∧ V = k + 9 + L.size) := by
    cases hd : l.dropWhile (· != 62) with
    | nil =>
      rw [hd, List.length_nil] at hsum
      refine ⟨false, k + 9 + L.size, rfl, ?_, .inr ⟨rfl, rfl⟩⟩
      rw [hv, if_neg (by omega)]
      simp only [Prod.mk.injEq, true_and, and_true]; omega
    | cons c z =>
      rw [hd, List.length_cons] at hsum
      refine ⟨true, k + 9 + L.size + 1, rfl, ?_, .inl ⟨rfl, rfl⟩⟩
      rw [hv, if_pos (by omega)]
  obtain ⟨b, V, hbE, hV, hVb⟩ := key
  rw [hbE] at HC
  have HV := Lib.hid hV
  have HVB := Lib.hid hVb
  clear ha hb hv hx hdl hl hsk hsum hdct hL hLl hLs hX hY hbE hV hVb
  rcases HVB.out with ⟨hb, hVe⟩ | ⟨hb, hVe⟩
  all_goals
    subst hb
    have HVE := Lib.hid hVe
    clear hVe
    go_enter Tryz.func87, Tryz.ntmps87
    go_wp2_with (fail)
    refine (HBg _).out.mono ?_
    rintro e w1 ⟨rfl, b1⟩
    have HB := Lib.hid ((b1.block _ (by simp)).trans (heap_alloc_new w _))
    have B1 := Lib.hid (((Below.refl _ w).alloc (Nat.le_refl _) _).trans (b1.mono (by simp)))
    have hlt1 : w.heap.size < w1.heap.size := (Array.getElem?_eq_some_iff.1 HB.out).1
    clear b1
    go_wp2_with (fail)
    refine (HC _).out.mono ?_
    rintro e w2 ⟨rfl, n2, rfl⟩
    have HB2 := Lib.hid (((ai w1.heap.size w1 n2).block _ hlt1).trans HB.out)
    have B2 := Lib.hid (B1.out.trans ((ai w1.heap.size w1 n2).mono B1.out.size))
    have hlt2 : w.heap.size < (w1.drewN n2).heap.size := (Array.getElem?_eq_some_iff.1 HB2.out).1
    go_wp2_with (fail)
    refine (HCl _).out.mono ?_
    rintro e w3 ⟨rfl, b3⟩
    have HB3 := Lib.hid ((b3.block _ hlt2).trans HB2.out)
    have B3 := Lib.hid (B2.out.trans (b3.mono B2.out.size))
    clear b3
    go_wp2_with (refine ak rfl _ _ rfl w.heap.size ⟨4, [], X, [], false⟩ none 0 0 rfl rfl _ HB3.out rfl ?_; intro w4 hb4 hg4)
    have B4 := B3.out.grown hg4 B3.out.size (fun j hj => by cases hj; exact Nat.le_refl _)
    refine bodyPost_ret (ar rfl _ _ w.heap.size ⟨4, [], X, [], false⟩ none 0 0 rfl (aJ hb4)) rfl ?_
    exact ⟨⟨4, [], X, [], false⟩, none, 0, 0, _, true, rfl, aq _, HV.out.trans (by rw [HVE.out]; simp only [Prod.mk.injEq, true_and, and_true]; omega), B4⟩
end Go.Proofs.YtpmdcppnlggckaaGreatDoor
