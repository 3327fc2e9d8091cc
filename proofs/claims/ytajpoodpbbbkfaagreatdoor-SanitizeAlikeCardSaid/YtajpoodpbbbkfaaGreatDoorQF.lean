/-
  Texts laid together: ComEnds, ComMark, ComCode, DtBeg, DtHelp, DtRead.
-/
import Derived.Test.YtajpoodpbbbkfaaGreatDoorQC
import Derived.Test.YtajpoodpbbbkfaaGreatDoorShelf
import Derived.Test.YtajpoodpbbbkfaaGreatDoorP3
import Derived.Deep.RegionHeld3
import Derived.Test.YtajpoodpbbbkfaaGreatDoorP1
import Derived.Test.YtajpoodpbbbkfaaGreatDoorP4
import Derived.Test.YtajpoodpbbbkfaaGreatDoorQA
import Derived.Test.YtajpoodpbbbkfaaGreatDoorPT
set_option maxHeartbeats 4000000
set_option maxRecDepth 100000
namespace Go.Proofs.YtajpoodpbbbkfaaGreatDoor
open Go.RowKit Go.Lib
def Gi (A B l:ab):Nat:=if A.isPrefixOf l=true then A.length else if B.isPrefixOf l=true then B.length else 0
theorem o9 (A B s:ByteArray) (w:World):Calls Tryz.prog 153 #[.agg #[.string A,.string B],.string s] w fun e w'=>e= .returned (.int .i64 (Gi A.data.toList B.data.toList s.data.toList:Int))∧Below w.heap.size w w':=by
 have HA:=fun w=>Lib.hid (Tryz.strings_HasPrefix s A w)
 have HB:=fun w=>Lib.hid (Tryz.strings_HasPrefix s B w)
 unfold Lib.hasPrefix at HA HB
 obtain ⟨S,hS⟩:∃S,Gi A.data.toList B.data.toList s.data.toList=S:=⟨_,rfl⟩
 rw [hS]
 unfold Gi at hS
 rw [←Lib.size_eq,←Lib.size_eq] at hS
 obtain ⟨p,hp⟩:∃p,A.data.toList.isPrefixOf s.data.toList=p:=⟨_,rfl⟩
 obtain ⟨q,hq⟩:∃q,B.data.toList.isPrefixOf s.data.toList=q:=⟨_,rfl⟩
 rw [hp,hq] at hS
 rw [hp] at HA
 rw [hq] at HB
 have HS:=Lib.hid hS
 clear hS hp hq
 have i0:∀w:World,(Instr.index 154 (.agg #[.string A,.string B]) (.int .i64 0)).run Tryz.prog w= .ok (.string A) w:=fun _=>by kernel_rfl
 have i1:∀w:World,(Instr.index 154 (.agg #[.string A,.string B]) (.int .i64 1)).run Tryz.prog w= .ok (.string B) w:=fun _=>by kernel_rfl
 go_enter Tryz.func153,Tryz.ntmps153
 go_wp2
 go_loopw [8] (fun v wr=>∃j:Nat,v= .int .i64 (j:Int)∧w.alloc (.cells #[.string A,.string B] 154)=wr∧j≤2∧(1≤j→Hid (p=false))∧(2≤j→Hid (q=false))) (fun v _=>2-(ae v).toNat)
 case atStart=>exact ⟨0,rfl,rfl,by omega,by omega,by omega⟩
 case round=>
  obtain ⟨j,rfl,rfl,hj,h1,h2⟩:=hrel
  obtain rfl|rfl|rfl:j=0∨j=1∨j=2:=by omega
  ·clear h1 h2 hj
   cases p
   ·go_wp2_with (go_at_call 43;refine (HA _).out.mono ?_;rintro e w' ⟨rfl,rfl⟩)
    go_roundw
    case rel=>exact ⟨1,rfl,trivial,by omega,fun _=>Lib.hid trivial,by omega⟩
    case measure=>simp [ae]
   ·go_wp2_with (go_at_call 43;refine (HA _).out.mono ?_;rintro e w' ⟨rfl,rfl⟩)
    go_ret
    exact ⟨az (by rw [←HS.out];rfl),(Below.refl _ w).alloc (Nat.le_refl _) _⟩
  ·have H1:=h1 (by omega)
   clear h1 h2 hj
   cases q
   ·go_wp2_with (go_at_call 43;refine (HB _).out.mono ?_;rintro e w' ⟨rfl,rfl⟩)
    go_roundw
    case rel=>exact ⟨2,rfl,trivial,by omega,fun _=>H1,fun _=>Lib.hid trivial⟩
    case measure=>simp [ae]
   ·go_wp2_with (go_at_call 43;refine (HB _).out.mono ?_;rintro e w' ⟨rfl,rfl⟩)
    go_ret
    exact ⟨az (by rw [←HS.out,H1.out];rfl),(Below.refl _ w).alloc (Nat.le_refl _) _⟩
  ·have H1:=h1 (by omega)
   have H2:=h2 (by omega)
   clear h1 h2 hj
   go_wp2
   go_ret
   exact ⟨az (by rw [←HS.out,H1.out,H2.out];rfl),(Below.refl _ w).alloc (Nat.le_refl _) _⟩
def AZ (s p:ByteArray):Value:= .tuple #[.string (if p.data.toList.isSuffixOf s.data.toList=true then s.extract 0 (s.size-p.size) else s),.bool (p.data.toList.isSuffixOf s.data.toList)]
theorem pa (s p:ByteArray) (w:World) (hs:s.size≤1099511627776):Calls Tryz.prog 211 #[.string s,.string p] w fun e w'=>e= .returned (AZ s p)∧w'=w:=by
 have HP:=fun w=>Lib.hid (Tryz.stringslite_HasSuffix s p w (by omega))
 unfold Lib.hasSuffix at HP
 unfold AZ
 cases h:p.data.toList.isSuffixOf s.data.toList
 ·rw [h] at HP
  clear h
  go_enter Tryz.func211,Tryz.ntmps211
  go_wp2_with (go_at_call 231;refine (HP _).out.mono ?_;rintro e w' ⟨rfl,rfl⟩)
  go_ret2
  exact ⟨rfl,rfl⟩
 ·rw [h] at HP
  have hle:p.size≤s.size:=by
   have:=(List.isSuffixOf_iff_suffix.1 h).length_le
   rw [←Lib.size_eq,←Lib.size_eq] at this;exact this
  clear h
  go_enter Tryz.func211,Tryz.ntmps211
  go_wp2_with (go_at_call 231;refine (HP _).out.mono ?_;rintro e w' ⟨rfl,rfl⟩)
  go_ret2
  exact ⟨rfl,rfl⟩
theorem ju (s p:ByteArray) (w:World) (hs:s.size≤1099511627776):Calls Tryz.prog 185 #[.string s,.string p] w fun e w'=>e= .returned (AZ s p)∧w'=w:=by
 have HP:=fun w=>Lib.hid (pa s p w hs)
 unfold AZ at*
 obtain ⟨B,hB⟩:∃B,p.data.toList.isSuffixOf s.data.toList=B:=⟨_,rfl⟩
 rw [hB] at HP⊢
 obtain ⟨X,hX⟩:∃X,(if B=true then s.extract 0 (s.size-p.size) else s)=X:=⟨_,rfl⟩
 rw [hX] at HP⊢
 clear hB hX
 go_enter Tryz.func185,Tryz.ntmps185
 go_wp2_with (go_at_call 211;refine (HP _).out.mono ?_;rintro e w' ⟨rfl,rfl⟩)
 go_ret2
 exact ⟨rfl,rfl⟩
theorem Kd (s:ByteArray) (n:Nat):s.extract 0 n=⟨(s.data.toList.take n).toArray⟩:=bl (by rw [iD,List.toList_toArray])
theorem tA (s:ByteArray) (w:World) (hs:s.size≤1099511627776):Calls Tryz.prog 154 #[.string s] w fun e w'=>e= .returned (.string ⟨(g7 s.data.toList).toArray⟩)∧w'=w:=by
 have H0:=fun w=>Lib.hid (ju s ⟨#[45,45,33]⟩ w hs)
 have H1:=fun w=>Lib.hid (ju s ⟨#[45,45]⟩ w hs)
 have H2:=fun w=>Lib.hid (ju s ⟨#[45]⟩ w hs)
 unfold AZ at H0 H1 H2
 simp only [Kd,show (⟨#[45,45,33]⟩:ByteArray).size=3 from rfl,show (⟨#[45,45]⟩:ByteArray).size=2 from rfl,show (⟨#[45]⟩:ByteArray).size=1 from rfl] at H0 H1 H2
 obtain ⟨T,hT⟩:∃T:ByteArray,⟨(g7 s.data.toList).toArray⟩=T:=⟨_,rfl⟩
 rw [hT]
 unfold g7 at hT
 obtain ⟨p,hp⟩:∃p,[45,45,33].isSuffixOf s.data.toList=p:=⟨_,rfl⟩
 obtain ⟨q,hq⟩:∃q,[45,45].isSuffixOf s.data.toList=q:=⟨_,rfl⟩
 obtain ⟨r,hr⟩:∃r,[45].isSuffixOf s.data.toList=r:=⟨_,rfl⟩
 rw [hp,hq,hr] at hT
 rw [hp] at H0
 rw [hq] at H1
 rw [hr] at H2
 rw [←Lib.size_eq] at hT
 obtain ⟨X,hX⟩:∃X:ByteArray,⟨(s.data.toList.take (s.size-3)).toArray⟩=X:=⟨_,rfl⟩
 obtain ⟨Y,hY⟩:∃X:ByteArray,⟨(s.data.toList.take (s.size-2)).toArray⟩=X:=⟨_,rfl⟩
 obtain ⟨Z,hZ⟩:∃X:ByteArray,⟨(s.data.toList.take (s.size-1)).toArray⟩=X:=⟨_,rfl⟩
 rw [hX] at H0
 rw [hY] at H1
 rw [hZ] at H2
 have HT:Hid ((if p=true then X else if q=true then Y else if r=true then Z else s)=T):=Lib.hid (by
  rw [←hT,←hX,←hY,←hZ]
  cases p<;>cases q<;>cases r<;>rfl)
 clear hT hp hq hr hX hY hZ
 have i0:∀w:World,(Instr.index 166 (.agg #[.string ⟨#[45,45,33]⟩,.string ⟨#[45,45]⟩,.string ⟨#[45]⟩]) (.int .i64 0)).run Tryz.prog w= .ok (.string ⟨#[45,45,33]⟩) w:=fun _=>by kernel_rfl
 have i1:∀w:World,(Instr.index 166 (.agg #[.string ⟨#[45,45,33]⟩,.string ⟨#[45,45]⟩,.string ⟨#[45]⟩]) (.int .i64 1)).run Tryz.prog w= .ok (.string ⟨#[45,45]⟩) w:=fun _=>by kernel_rfl
 have i2:∀w:World,(Instr.index 166 (.agg #[.string ⟨#[45,45,33]⟩,.string ⟨#[45,45]⟩,.string ⟨#[45]⟩]) (.int .i64 2)).run Tryz.prog w= .ok (.string ⟨#[45]⟩) w:=fun _=>by kernel_rfl
 go_enter Tryz.func154,Tryz.ntmps154
 go_wp2
 go_loopw [8] (fun v wr=>∃j:Nat,v= .int .i64 (j:Int)∧w=wr∧j≤3∧(1≤j→Hid (p=false))∧(2≤j→Hid (q=false))∧(3≤j→Hid (r=false))) (fun v _=>3-(ae v).toNat)
 case atStart=>exact ⟨0,rfl,rfl,by omega,by omega,by omega,by omega⟩
 case round=>
  obtain ⟨j,rfl,rfl,hj,h1,h2,h3⟩:=hrel
  obtain rfl|rfl|rfl|rfl:j=0∨j=1∨j=2∨j=3:=by omega
  ·clear h1 h2 h3 hj
   cases p
   ·go_wp2_with (go_at_call 185;refine (H0 _).out.mono ?_;rintro e w' ⟨rfl,rfl⟩)
    go_roundw
    case rel=>exact ⟨1,rfl,trivial,by omega,fun _=>Lib.hid trivial,by omega,by omega⟩
    case measure=>simp [ae]
   ·go_wp2_with (go_at_call 185;refine (H0 _).out.mono ?_;rintro e w' ⟨rfl,rfl⟩)
    go_ret
    exact ⟨aO (by rw [←HT.out];rfl),rfl⟩
  ·have H1':=h1 (by omega)
   clear h1 h2 h3 hj
   cases q
   ·go_wp2_with (go_at_call 185;refine (H1 _).out.mono ?_;rintro e w' ⟨rfl,rfl⟩)
    go_roundw
    case rel=>exact ⟨2,rfl,trivial,by omega,fun _=>H1',fun _=>Lib.hid trivial,by omega⟩
    case measure=>simp [ae]
   ·go_wp2_with (go_at_call 185;refine (H1 _).out.mono ?_;rintro e w' ⟨rfl,rfl⟩)
    go_ret
    exact ⟨aO (by rw [←HT.out,H1'.out];rfl),rfl⟩
  ·have H1':=h1 (by omega)
   have H2':=h2 (by omega)
   clear h1 h2 h3 hj
   cases r
   ·go_wp2_with (go_at_call 185;refine (H2 _).out.mono ?_;rintro e w' ⟨rfl,rfl⟩)
    go_roundw
    case rel=>exact ⟨3,rfl,trivial,by omega,fun _=>H1',fun _=>H2',fun _=>Lib.hid trivial⟩
    case measure=>simp [ae]
   ·go_wp2_with (go_at_call 185;refine (H2 _).out.mono ?_;rintro e w' ⟨rfl,rfl⟩)
    go_ret
    exact ⟨aO (by rw [←HT.out,H1'.out,H2'.out];rfl),rfl⟩
  ·have H1':=h1 (by omega)
   have H2':=h2 (by omega)
   have H3':=h3 (by omega)
   clear h1 h2 h3 hj
   go_wp2
   go_ret
   exact ⟨aO (by rw [←HT.out,H1'.out,H2'.out,H3'.out];rfl),rfl⟩
end Go.Proofs.YtajpoodpbbbkfaaGreatDoor
namespace Go.Proofs.YtajpoodpbbbkfaaGreatDoor
open Go.RowKit Go.Lib
theorem A0:∀(l x:ab) (n:Nat),bV l=some (x,n)→x=l.take x.length
 |[],x,n,h=>by cases h
 |c::t,x,n,h=>by
  rw [bV] at h
  split at h
  ·simp only [Option.some.injEq,Prod.mk.injEq] at h
   obtain ⟨rfl,-⟩:=h;rfl
  ·split at h
   ·simp only [Option.some.injEq,Prod.mk.injEq] at h
    obtain ⟨rfl,-⟩:=h;rfl
   ·cases hr:bV t with
    |none=>rw [hr] at h;cases h
    |some y=>
     obtain ⟨y,m⟩:=y
     rw [hr] at h
     simp only [Option.map_some,Option.some.injEq,Prod.mk.injEq] at h
     obtain ⟨rfl,-⟩:=h
     rw [List.length_cons,List.take_succ_cons,←A0 t y m hr]
theorem Ke (l:ab):g7 l=l.take (g7 l).length:=by
 have key:∀k,l.take k=l.take (l.take k).length:=fun k=>List.prefix_iff_eq_take.1 (List.take_prefix k l)
 unfold g7
 split
 ·exact key _
 ·split
  ·exact key _
  ·split
   ·exact key _
   ·rw [List.take_length]
theorem Gj (l:ab):(aW l).1=l.take (aW l).1.length:=by
 unfold aW
 split
 ·rfl
 ·split
  ·rfl
  ·cases h:bV l with
   |none=>exact Ke l
   |some r=>exact A0 l r.1 r.2 h
theorem Kf (l:ab):Gi [62] [45,62] l=1∧aW l=([],1)∨Gi [62] [45,62] l=2∧aW l=([],2)∨Gi [62] [45,62] l=0∧aW l=(match bV l with|some r=>r|none=>(g7 l,l.length)):=by
 unfold Gi aW
 by_cases h1:[62].isPrefixOf l=true
 ·rw [if_pos h1,if_pos h1];exact .inl ⟨rfl,rfl⟩
 ·rw [if_neg h1,if_neg h1]
  by_cases h2:[45,62].isPrefixOf l=true
  ·rw [if_pos h2,if_pos h2];exact .inr (.inl ⟨rfl,rfl⟩)
  ·rw [if_neg h2,if_neg h2];exact .inr (.inr ⟨rfl,rfl⟩)
theorem MQ (l:ab):(Gi [45,45,62] [45,45,33,62] l=0∧[45,45,62].isPrefixOf l=false∧[45,45,33,62].isPrefixOf l=false)∨(1≤Gi [45,45,62] [45,45,33,62] l∧Gi [45,45,62] [45,45,33,62] l≤4∧bV l=some ([],Gi [45,45,62] [45,45,33,62] l)):=by
 obtain ⟨s1,s2⟩:=sG l
 unfold Gi
 cases h1:[45,45,62].isPrefixOf l
 ·cases h2:[45,45,33,62].isPrefixOf l
  ·exact .inl ⟨rfl,rfl,rfl⟩
  ·exact .inr ⟨by simp,by simp,s2 h1 h2⟩
 ·exact .inr ⟨by simp,by simp,s1 h1⟩
def ke (l:ab) (i:Nat):Option (Nat × Nat):=(bV (l.drop i)).map fun r=>(i+r.1.length,i+r.2)
theorem CS (s:ByteArray) (i:Nat) (h:i<s.size) (h1:[45,45,62].isPrefixOf (s.data.toList.drop i)=false) (h2:[45,45,33,62].isPrefixOf (s.data.toList.drop i)=false):ke s.data.toList i=ke s.data.toList (i+1):=by
 unfold ke
 rw [aj s i h] at h1 h2⊢
 rw [pQ _ _ h1 h2]
 cases bV (s.data.toList.drop (i+1)) with
 |none=>rfl
 |some r=>simp;omega
theorem Gl (l:ab) (i n:Nat) (h:bV (l.drop i)=some ([],n)):ke l i=some (i,i+n):=by
 unfold ke;rw [h];rfl
theorem Gm (s:ByteArray):ke s.data.toList s.size=none:=by
 unfold ke
 rw [List.drop_eq_nil_of_le (by rw [←Lib.size_eq];exact Nat.le_refl _)];rfl
theorem tB {a b m n:Int} (h1:a=b) (h2:m=n):Ending.returned (.tuple #[.int .i64 a,.int .i64 m])= .returned (.tuple #[.int .i64 b,.int .i64 n]):=by rw [h1,h2]
theorem uN (s:ByteArray) (f:Nat) (a:Int) (w:World) (hs:s.size≤1048576) (ha:(f:Int)=a) (hf:f≤s.size):Calls Tryz.prog 104 #[.string s,.int .i64 a] w fun e w'=>e= .returned (.tuple #[.int .i64 ((f+(aW (s.data.toList.drop f)).1.length:Nat):Int),.int .i64 ((f+(aW (s.data.toList.drop f)).2:Nat):Int)])∧Below w.heap.size w w':=by
 subst ha
 have hf2:f≤1048576:=by omega
 have HS:=fun w=>Lib.hid (o9 ⟨#[62]⟩ ⟨#[45,62]⟩ (s.extract f s.size) w)
 rw [ft,show (⟨#[62]⟩:ByteArray).data.toList=[62] from rfl,show (⟨#[45,62]⟩:ByteArray).data.toList=[45,62] from rfl] at HS
 rcases Kf (s.data.toList.drop f) with ⟨h1,h2⟩|⟨h1,h2⟩|⟨h1,h2⟩
 ·rw [h1] at HS
  rw [h2]
  clear h1 h2
  go_enter Tryz.func104,Tryz.ntmps104
  go_wp2_with (go_at_call 153;refine (HS _).out.mono ?_;rintro e w' ⟨rfl,b1⟩)
  go_ret2
  exact ⟨rfl,b1⟩
 ·rw [h1] at HS
  rw [h2]
  clear h1 h2
  go_enter Tryz.func104,Tryz.ntmps104
  go_wp2_with (go_at_call 153;refine (HS _).out.mono ?_;rintro e w' ⟨rfl,b1⟩)
  go_ret2
  exact ⟨rfl,b1⟩
 ·rw [h1] at HS
  have HW:=fun w=>Lib.hid (tA (s.extract f s.size) w (by rw [ByteArray.size_extract];omega))
  rw [ft] at HW
  obtain ⟨T,hT⟩:∃T:ByteArray,⟨(g7 (s.data.toList.drop f)).toArray⟩=T:=⟨_,rfl⟩
  have hTs:T.size=(g7 (s.data.toList.drop f)).length:=by rw [←hT,Lib.size_eq,List.toList_toArray]
  have hTl:T.size≤1048576:=by
   have:=DN (s.data.toList.drop f)
   rw [List.length_drop,←Lib.size_eq] at this;omega
  rw [hT] at HW
  obtain ⟨P,hP⟩:∃P,aW (s.data.toList.drop f)=P:=⟨_,rfl⟩
  rw [hP] at h2⊢
  have HNone:Hid (ke s.data.toList f=none→(f+P.1.length:Nat)=f+T.size∧(f+P.2:Nat)=s.size):=Lib.hid fun h=>by
   unfold ke at h
   rw [Option.map_eq_none_iff] at h
   rw [h] at h2
   rw [h2,hTs,List.length_drop,←Lib.size_eq]
   exact ⟨rfl,by show f+(s.size-f)=s.size;omega⟩
  have HSome:Hid (∀u v,ke s.data.toList f=some (u,v)→(f+P.1.length:Nat)=u∧(f+P.2:Nat)=v):=Lib.hid fun u v h=>by
   unfold ke at h
   obtain ⟨r,h3,h4⟩:=Option.map_eq_some_iff.1 h
   rw [h3] at h2
   rw [h2]
   simp only [Prod.mk.injEq] at h4
   exact h4
  obtain ⟨U,hU⟩:∃U,(f+P.1.length:Nat)=U:=⟨_,rfl⟩
  obtain ⟨V,hV⟩:∃V,(f+P.2:Nat)=V:=⟨_,rfl⟩
  rw [hU,hV] at HNone HSome⊢
  clear h1 h2 hT hP hTs hU hV P
  go_enter Tryz.func104,Tryz.ntmps104
  go_wp2_with (go_at_call 153;refine (HS _).out.mono ?_;rintro e w1 ⟨rfl,b1⟩)
  have B1:=Lib.hid b1
  have hS0:(w1.alloc (.cells #[.string ⟨#[45,45,62]⟩,.string ⟨#[45,45,33,62]⟩] 154)).cell? ⟨w1.heap.size,0,none⟩=some (.string ⟨#[45,45,62]⟩)∧(w1.alloc (.cells #[.string ⟨#[45,45,62]⟩,.string ⟨#[45,45,33,62]⟩] 154)).cell? ⟨w1.heap.size,1,none⟩=some (.string ⟨#[45,45,33,62]⟩)∧w1.heap.size<(w1.alloc (.cells #[.string ⟨#[45,45,62]⟩,.string ⟨#[45,45,33,62]⟩] 154)).heap.size∧Below w.heap.size w (w1.alloc (.cells #[.string ⟨#[45,45,62]⟩,.string ⟨#[45,45,33,62]⟩] 154)):=by
   refine ⟨?_,?_,by simp,b1.alloc b1.size _⟩<;>(rw [cell_of_row _ _ _ _ _ _ (heap_alloc_new w1 _)];rfl)
  have hk:∀u v:World,(u.cell? ⟨w1.heap.size,0,none⟩=some (.string ⟨#[45,45,62]⟩)∧u.cell? ⟨w1.heap.size,1,none⟩=some (.string ⟨#[45,45,33,62]⟩)∧w1.heap.size<u.heap.size∧Below w.heap.size w u)→Below u.heap.size u v→(v.cell? ⟨w1.heap.size,0,none⟩=some (.string ⟨#[45,45,62]⟩)∧v.cell? ⟨w1.heap.size,1,none⟩=some (.string ⟨#[45,45,33,62]⟩)∧w1.heap.size<v.heap.size∧Below w.heap.size w v):=fun u v h b=>by
   obtain ⟨x0,x1,hl,hb⟩:=h
   exact ⟨(b.cell (p:=⟨w1.heap.size,0,none⟩) hl).trans x0,(b.cell (p:=⟨w1.heap.size,1,none⟩) hl).trans x1,Nat.lt_of_lt_of_le hl b.size,hb.trans (b.mono hb.size)⟩
  have HK:=Lib.hid hk
  have FIN:Hid (∀u:World,(u.cell? ⟨w1.heap.size,0,none⟩=some (.string ⟨#[45,45,62]⟩)∧u.cell? ⟨w1.heap.size,1,none⟩=some (.string ⟨#[45,45,33,62]⟩)∧w1.heap.size<u.heap.size∧Below w.heap.size w u)→Below w.heap.size w u):=Lib.hid fun u h=>h.2.2.2
  have HS0:=Lib.hid hS0
  clear hk hS0 b1 HS
  go_wp2
  go_loopw [8] (fun v wr=>∃i:Nat,v= .int .i64 (i:Int)∧(wr.cell? ⟨w1.heap.size,0,none⟩=some (.string ⟨#[45,45,62]⟩)∧wr.cell? ⟨w1.heap.size,1,none⟩=some (.string ⟨#[45,45,33,62]⟩)∧w1.heap.size<wr.heap.size∧Below w.heap.size w wr)∧f≤i∧i≤s.size∧Hid (ke s.data.toList i=ke s.data.toList f)) (fun v _=>s.size-(ae v).toNat)
  case atStart=>exact ⟨f,rfl,HS0.out,Nat.le_refl _,hf,Lib.hid rfl⟩
  case round=>
   obtain ⟨i,rfl,hS,hfi,hi,HI⟩:=hrel
   by_cases hlt:i<s.size
   ·have HSt:=fun w=>Lib.hid (o9 ⟨#[45,45,62]⟩ ⟨#[45,45,33,62]⟩ (s.extract i s.size) w)
    rw [ft,show (⟨#[45,45,62]⟩:ByteArray).data.toList=[45,45,62] from rfl,show (⟨#[45,45,33,62]⟩:ByteArray).data.toList=[45,45,33,62] from rfl] at HSt
    have hi2:i≤1048576:=by omega
    have hd:wr.drew.cell? ⟨w1.heap.size,0,none⟩=some (.string ⟨#[45,45,62]⟩)∧wr.drew.cell? ⟨w1.heap.size,1,none⟩=some (.string ⟨#[45,45,33,62]⟩)∧w1.heap.size<wr.drew.heap.size∧Below w.heap.size w wr.drew:=by
     obtain ⟨x0,x1,hl,hb⟩:=hS
     exact ⟨x0,x1,hl,hb.drew⟩
    rcases MQ (s.data.toList.drop i) with ⟨h1,h2,h3⟩|⟨h1,h2,h3⟩
    ·rw [h1] at HSt
     have HN:=Lib.hid ((CS s i hlt h2 h3).symm.trans HI.out)
     have cA:Hid (∀u:World,(u.cell? ⟨w1.heap.size,0,none⟩=some (.string ⟨#[45,45,62]⟩)∧u.cell? ⟨w1.heap.size,1,none⟩=some (.string ⟨#[45,45,33,62]⟩)∧w1.heap.size<u.heap.size∧Below w.heap.size w u)→Calls Tryz.prog 153 #[.agg #[.string ⟨#[45,45,62]⟩,.string ⟨#[45,45,33,62]⟩],.string (s.extract i s.size)] u fun e v=>e= .returned (.int .i64 ((0:Nat):Int))∧(v.cell? ⟨w1.heap.size,0,none⟩=some (.string ⟨#[45,45,62]⟩)∧v.cell? ⟨w1.heap.size,1,none⟩=some (.string ⟨#[45,45,33,62]⟩)∧w1.heap.size<v.heap.size∧Below w.heap.size w v)):=Lib.hid fun u h=>by
      refine (HSt u).out.mono ?_
      rintro e v ⟨rfl,b⟩
      exact ⟨rfl,HK.out u v h b⟩
     clear h1 h2 h3 HSt
     go_wp2
     go_region_held3 (fun u:World=>u.cell? ⟨w1.heap.size,0,none⟩=some (.string ⟨#[45,45,62]⟩)∧u.cell? ⟨w1.heap.size,1,none⟩=some (.string ⟨#[45,45,33,62]⟩)∧w1.heap.size<u.heap.size∧Below w.heap.size w u) (first|exact hd|assumption) (first|(go_at_call 153;(with_reducible refine (cA.out _ ‹_›).mono ?_);rintro e w' ⟨rfl,hb⟩))
     all_goals
      go_wp2
      go_roundw
      case rel=>exact ⟨i+1,by go_num,‹_›,by omega,by omega,HN⟩
      case measure=>simp [ae];omega
    ·obtain ⟨n,hn⟩:∃n,Gi [45,45,62] [45,45,33,62] (s.data.toList.drop i)=n:=⟨_,rfl⟩
     rw [hn] at HSt h1 h2 h3
     have HR:=Lib.hid (HSome.out i (i+n) (HI.out.symm.trans (Gl _ i n h3)))
     have cA:Hid (∀u:World,(u.cell? ⟨w1.heap.size,0,none⟩=some (.string ⟨#[45,45,62]⟩)∧u.cell? ⟨w1.heap.size,1,none⟩=some (.string ⟨#[45,45,33,62]⟩)∧w1.heap.size<u.heap.size∧Below w.heap.size w u)→Calls Tryz.prog 153 #[.agg #[.string ⟨#[45,45,62]⟩,.string ⟨#[45,45,33,62]⟩],.string (s.extract i s.size)] u fun e v=>e= .returned (.int .i64 (n:Int))∧(v.cell? ⟨w1.heap.size,0,none⟩=some (.string ⟨#[45,45,62]⟩)∧v.cell? ⟨w1.heap.size,1,none⟩=some (.string ⟨#[45,45,33,62]⟩)∧w1.heap.size<v.heap.size∧Below w.heap.size w v)):=Lib.hid fun u h=>by
      refine (HSt u).out.mono ?_
      rintro e v ⟨rfl,b⟩
      exact ⟨rfl,HK.out u v h b⟩
     clear h3 HSt hn
     go_wp2
     go_region_held3 (fun u:World=>u.cell? ⟨w1.heap.size,0,none⟩=some (.string ⟨#[45,45,62]⟩)∧u.cell? ⟨w1.heap.size,1,none⟩=some (.string ⟨#[45,45,33,62]⟩)∧w1.heap.size<u.heap.size∧Below w.heap.size w u) (first|exact hd|assumption) (first|(go_at_call 153;(with_reducible refine (cA.out _ ‹_›).mono ?_);rintro e w' ⟨rfl,hb⟩))
     all_goals
      go_wp2
      go_ret2
      exact ⟨tB (by rw [HR.out.1]) (by rw [HR.out.2];omega),FIN.out _ ‹_›⟩
   ·obtain rfl:i=s.size:=by omega
    have HR:=Lib.hid (HNone.out (HI.out.symm.trans (Gm s)))
    have HBW:=Lib.hid hS.2.2.2
    clear hS
    go_wp2_with (go_at_call 154;refine (HW _).out.mono ?_;rintro e w' ⟨rfl,rfl⟩)
    go_ret2
    exact ⟨tB (by rw [HR.out.1];omega) (by rw [HR.out.2]),HBW.out⟩
end Go.Proofs.YtajpoodpbbbkfaaGreatDoor
namespace Go.Proofs.YtajpoodpbbbkfaaGreatDoor
open Go.RowKit Go.Lib
def pb (_:World):Prop:=True
theorem pb.below {w w':World} (_:pb w) (_:Below w.heap.size w w'):pb w':=trivial
theorem xZ:∀(p l:ab),(∀c∈p,(c.toNat:Int)<97)→(∀c∈p,¬(65≤(c.toNat:Int)∧(c.toNat:Int)≤90))→p.isPrefixOf (aF l)=p.isPrefixOf l
 |[],l,_,_=>by simp
 |c::p,[],_,_=>rfl
 |c::p,d::l,h,h'=>by
  rw [aM,List.isPrefixOf_cons_cons,List.isPrefixOf_cons_cons,xZ p l (fun x hx=>h x (.tail _ hx)) (fun x hx=>h' x (.tail _ hx))]
  congr 1
  have h1:=h c (.head _)
  have h2:=h' c (.head _)
  have h3:=cU d
  unfold fY at h3
  rw [Bool.eq_iff_iff,beq_iff_eq,beq_iff_eq,←UInt8.toNat_inj,←UInt8.toNat_inj]
  split at h3<;>omega
theorem rG (c:UInt8) (l:ab) (hc:(c.toNat:Int)<65):[60,c].isPrefixOf (aF l)=[60,c].isPrefixOf l:=by
 refine xZ _ _ ?_ ?_
 ·intro x hx
  simp only [List.mem_cons,List.not_mem_nil,or_false] at hx
  rcases hx with rfl|rfl
  ·decide
  ·omega
 ·intro x hx
  simp only [List.mem_cons,List.not_mem_nil,or_false] at hx
  rcases hx with rfl|rfl
  ·decide
  ·omega
theorem A2 (l:ab):[60,33,45,45].isPrefixOf (aF l)=[60,33,45,45].isPrefixOf l:=xZ _ _ (by decide) (by decide)
def Ps:ab→Bool
 |[]=>false
 |c::_=> !(c==62)&& !(bF (c.toNat:Int))
theorem Kg (l:ab):gc l=if [60,33].isPrefixOf l=true then !(([60,33]++yn).isPrefixOf (aF l)) else if [60,47].isPrefixOf l=true then Ps (l.drop 2) else [60,63].isPrefixOf l:=by
 match l with
 |[]=>rfl
 |[c]=>
  have h:∀x:UInt8,[60,x].isPrefixOf [c]=false:=fun x=>by simp [List.isPrefixOf]
  rw [iQ [c] (by simp),h,h,h];rfl
 |c::d::t=>
  rw [sF]
  have hp:∀x:UInt8,[60,x].isPrefixOf (c::d::t)=(c==60&&d==x):=fun x=>by
   rw [List.isPrefixOf_cons_cons,List.isPrefixOf_cons_cons]
   simp [BEq.comm]
  rw [hp,hp,hp]
  cases hc:c==60
  ·rfl
  ·have h60:c=60:=beq_iff_eq.1 hc
   subst h60
   simp only [Bool.true_and]
   by_cases h1:d=33
   ·subst h1
    rw [if_pos rfl,aM,aM,List.cons_append,List.cons_append,List.nil_append,List.isPrefixOf_cons_cons,List.isPrefixOf_cons_cons,show ct 60=60 by decide,show ct 33=33 by decide];rfl
   ·rw [if_neg h1,show (d==33)=false from beq_eq_false_iff_ne.2 h1,if_neg Bool.false_ne_true]
    by_cases h2:d=47
    ·subst h2
     cases t<;>rfl
    ·rw [if_neg h2,show (d==47)=false from beq_eq_false_iff_ne.2 h2,if_neg Bool.false_ne_true]
     by_cases h3:d=63
     ·subst h3;rfl
     ·rw [if_neg h3,show (d==63)=false from beq_eq_false_iff_ne.2 h3]
theorem Gn (s:ByteArray) (w:World) (hs:s.size≤1048576):Calls Tryz.prog 101 #[.string s] w fun e w'=>e= .returned (.bool (Ps s.data.toList))∧w'=w:=by
 by_cases h0:s.size=0
 ·have hl:s.data.toList=[]:=by rw [←List.length_eq_zero_iff,←Lib.size_eq];exact h0
  obtain rfl:s=⟨#[]⟩:=bl (by rw [hl])
  clear h0 hl hs
  go_enter Tryz.func101,Tryz.ntmps101
  go_wp2
  go_ret
  exact ⟨rfl,rfl⟩
 ·have hlt:0<s.size:=by omega
  have hd:s.data.toList=s[0]::s.data.toList.drop 1:=by
   have:=aj s 0 hlt
   rw [List.drop_zero] at this;exact this
  have HL:=fun w=>Lib.hid (GS ((s[0].toNat:Nat):Int) w (by omega) (by have:=s[0].toNat_lt;omega))
  have hne:¬s.toList=[]:=fun h=>by
   have:=ib s ⟨#[]⟩
   rw [h,hd] at this
   simp at this
  have hem:s.toList.isEmpty=false:=by
   cases h:s.toList with
   |nil=>exact absurd h hne
   |cons a l=>rfl
  rw [hd,show Ps (s[0]::s.data.toList.drop 1)=(!(s[0]==62)&& !(bF ((s[0].toNat:Nat):Int))) from rfl]
  by_cases c62:s[0]=62
  ·have b62:(((s[0].toNat:Nat):Int) != 62)=false:=by rw [c62];rfl
   rw [show (s[0]==62)=true from beq_iff_eq.2 c62]
   clear c62 hd HL
   go_enter Tryz.func101,Tryz.ntmps101
   go_wp2
   go_ret
   exact ⟨rfl,rfl⟩
  ·have b62:(((s[0].toNat:Nat):Int) != 62)=true:=by
    rw [bne_iff_ne];exact fun h=>c62 (aT _ 62 (by decide) h)
   rw [show (s[0]==62)=false from beq_eq_false_iff_ne.2 c62]
   obtain ⟨L,hL⟩:∃L,bF ((s[0].toNat:Nat):Int)=L:=⟨_,rfl⟩
   rw [hL] at HL⊢
   clear c62 hd hL
   go_enter Tryz.func101,Tryz.ntmps101
   go_wp2_with (go_at_call 148;refine (HL _).out.mono ?_;rintro e w1 ⟨rfl,rfl⟩)
   go_ret
   exact ⟨au (by simp),rfl⟩
theorem kM (s low:ByteArray) (k:Nat) (h:k≤s.size):bf s (k:Int) low=low.data.toList.isPrefixOf (aF (s.data.toList.drop k)):=by
 unfold bf
 rw [decide_eq_true (show 0≤(k:Int)∧(k:Int)≤(s.size:Int) by omega),Bool.true_and,show ((k:Nat):Int).toNat=k by omega]
theorem Kh (s low:ByteArray) (a:Int) (h:¬(0≤a∧a≤(s.size:Int))):bf s a low=false:=by
 unfold bf;rw [decide_eq_false h,Bool.false_and]
theorem nh (s:ByteArray) (a:Int) (w:World) (hs:s.size≤1048576) (ha: -9223372036854775808≤a∧a≤9223372036854775807) (_h:pb w):Calls Tryz.prog 53 #[.string s,.int .i64 a] w fun e w'=>e= .returned (.bool (ee s.data.toList a))∧Below w.heap.size w w':=by
 have HB:=fun low hl w=>Lib.hid (cB s a low w (by omega) hl ha.1 ha.2)
 have HB1:=fun w=>HB ⟨#[60,33]⟩ (by decide) w
 have HB2:=fun w=>HB ⟨#[60,33,100,111,99,116,121,112,101]⟩ (by decide) w
 have HB3:=fun w=>HB ⟨#[60,47]⟩ (by decide) w
 have HB4:=fun w=>HB ⟨#[60,63]⟩ (by decide) w
 clear HB
 by_cases hin:0≤a∧a≤(s.size:Int)
 ·obtain ⟨k,rfl⟩:∃k:Nat,a=k:=⟨a.toNat,by omega⟩
  have hk:k≤s.size:=by omega
  have hkk:k≤1048576:=by omega
  rw [kM s _ k hk,show (⟨#[60,33]⟩:ByteArray).data.toList=[60,33] from rfl,rG 33 _ (by decide)] at HB1
  rw [kM s _ k hk,show (⟨#[60,33,100,111,99,116,121,112,101]⟩:ByteArray).data.toList=[60,33]++yn from rfl] at HB2
  rw [kM s _ k hk,show (⟨#[60,47]⟩:ByteArray).data.toList=[60,47] from rfl,rG 47 _ (by decide)] at HB3
  rw [kM s _ k hk,show (⟨#[60,63]⟩:ByteArray).data.toList=[60,63] from rfl,rG 63 _ (by decide)] at HB4
  rw [mn,Kg]
  cases h1:[60,33].isPrefixOf (s.data.toList.drop k)
  ·rw [h1] at HB1
   rw [if_neg Bool.false_ne_true]
   clear h1 HB2
   cases h3:[60,47].isPrefixOf (s.data.toList.drop k)
   ·rw [h3] at HB3
    rw [if_neg Bool.false_ne_true]
    obtain ⟨B,hB⟩:∃B,[60,63].isPrefixOf (s.data.toList.drop k)=B:=⟨_,rfl⟩
    rw [hB] at HB4⊢
    clear hB h3 hin ha
    go_enter Tryz.func53,Tryz.ntmps53
    go_wp2_with (fail)
    refine (HB1 _).out.mono ?_
    rintro e w1 ⟨rfl,n1,rfl⟩
    go_wp2_with (fail)
    refine (HB3 _).out.mono ?_
    rintro e w1 ⟨rfl,n2,rfl⟩
    go_wp2_with (fail)
    refine (HB4 _).out.mono ?_
    rintro e w1 ⟨rfl,n3,rfl⟩
    go_wp2
    go_ret
    exact ⟨rfl,ai _ _ _⟩
   ·rw [h3] at HB3
    rw [if_pos rfl,List.drop_drop]
    have hk2:k+2≤s.size:=by
     have:=(List.isPrefixOf_iff_prefix.1 h3).length_le
     rw [List.length_drop,←Lib.size_eq] at this
     simp at this;omega
    have HN:=fun w=>Lib.hid (Gn (s.extract (k+2) s.size) w (by rw [ByteArray.size_extract];omega))
    rw [ft] at HN
    obtain ⟨B,hB⟩:∃B,Ps (s.data.toList.drop (k+2))=B:=⟨_,rfl⟩
    rw [hB] at HN⊢
    have hki:(k:Int)+2≤(s.size:Int):=by omega
    clear hB h3 HB4 hin ha
    go_enter Tryz.func53,Tryz.ntmps53
    go_wp2_with (fail)
    refine (HB1 _).out.mono ?_
    rintro e w1 ⟨rfl,n1,rfl⟩
    go_wp2_with (fail)
    refine (HB3 _).out.mono ?_
    rintro e w1 ⟨rfl,n2,rfl⟩
    go_wp2_with (fail)
    refine (HN _).out.mono ?_
    rintro e w1 ⟨rfl,rfl⟩
    go_wp2
    go_ret
    exact ⟨rfl,ai _ _ _⟩
  ·rw [h1] at HB1
   rw [if_pos rfl]
   obtain ⟨B,hB⟩:∃B,([60,33]++yn).isPrefixOf (aF (s.data.toList.drop k))=B:=⟨_,rfl⟩
   rw [hB] at HB2⊢
   clear hB h1 HB3 HB4 hin ha
   go_enter Tryz.func53,Tryz.ntmps53
   go_wp2_with (fail)
   refine (HB1 _).out.mono ?_
   rintro e w1 ⟨rfl,n1,rfl⟩
   go_wp2_with (fail)
   refine (HB2 _).out.mono ?_
   rintro e w1 ⟨rfl,n2,rfl⟩
   go_wp2
   go_ret
   exact ⟨au (by simp),ai _ _ _⟩
 ·rw [Kh s _ a hin] at HB1 HB3 HB4
  have hV:ee s.data.toList a=false:=by
   unfold ee
   by_cases h0:0≤a
   ·rw [iQ _ (by rw [List.length_drop,←Lib.size_eq];omega),Bool.and_false]
   ·rw [decide_eq_false h0,Bool.false_and]
  rw [hV]
  clear hV HB2 hin ha
  go_enter Tryz.func53,Tryz.ntmps53
  go_wp2_with (fail)
  refine (HB1 _).out.mono ?_
  rintro e w1 ⟨rfl,n1,rfl⟩
  go_wp2_with (fail)
  refine (HB3 _).out.mono ?_
  rintro e w1 ⟨rfl,n2,rfl⟩
  go_wp2_with (fail)
  refine (HB4 _).out.mono ?_
  rintro e w1 ⟨rfl,n3,rfl⟩
  go_wp2
  go_ret
  exact ⟨rfl,ai _ _ _⟩
def PJ (l:ab):Nat:=if [60,33,45,45].isPrefixOf l=true then 4 else if [60,63].isPrefixOf l=true then 1 else 2
theorem uO (s:ByteArray) (k:Nat) (w:World) (hs:s.size≤1048576) (hk:k≤s.size):Calls Tryz.prog 102 #[.string s,.int .i64 (k:Int)] w fun e w'=>e= .returned (.int .i64 ((k+PJ (s.data.toList.drop k):Nat):Int))∧Below w.heap.size w w':=by
 have HB1:=fun w=>Lib.hid (cB s (k:Int) ⟨#[60,33,45,45]⟩ w (by omega) (by decide) (by omega) (by omega))
 have HB2:=fun w=>Lib.hid (cB s (k:Int) ⟨#[60,63]⟩ w (by omega) (by decide) (by omega) (by omega))
 have hkk:k≤1048576:=by omega
 rw [kM s _ k hk,show (⟨#[60,33,45,45]⟩:ByteArray).data.toList=[60,33,45,45] from rfl,A2] at HB1
 rw [kM s _ k hk,show (⟨#[60,63]⟩:ByteArray).data.toList=[60,63] from rfl,rG 63 _ (by decide)] at HB2
 unfold PJ
 cases h1:[60,33,45,45].isPrefixOf (s.data.toList.drop k)
 ·rw [h1] at HB1
  rw [if_neg Bool.false_ne_true]
  clear h1
  cases h2:[60,63].isPrefixOf (s.data.toList.drop k)
  all_goals
   rw [h2] at HB2
   clear h2
   go_enter Tryz.func102,Tryz.ntmps102
   go_wp2_with (fail)
   refine (HB1 _).out.mono ?_
   rintro e w1 ⟨rfl,n1,rfl⟩
   go_wp2_with (fail)
   refine (HB2 _).out.mono ?_
   rintro e w1 ⟨rfl,n2,rfl⟩
   go_wp2
   go_ret
   exact ⟨rfl,ai _ _ _⟩
 ·rw [h1] at HB1
  clear h1 HB2
  go_enter Tryz.func102,Tryz.ntmps102
  go_wp2_with (fail)
  refine (HB1 _).out.mono ?_
  rintro e w1 ⟨rfl,n1,rfl⟩
  go_wp2
  go_ret
  exact ⟨rfl,ai _ _ _⟩
theorem Ki (l : ab) : Lib.indexByte l 62 = if (l.takeWhile (· != 62)).length < l.length then ((l.takeWhile (· != 62)).length : Int) else -1 := by
  by_cases h : 62 ∈ l
  · obtain ⟨p, r, rfl, hp⟩ := su 62 l h
    have h1 : ∀ x ∈ p, (x != 62) = true := fun x hx => by
      rw [bne_iff_ne]; rintro rfl; exact hp hx
    have e1 : (p ++ 62 :: r).takeWhile (· != 62) = p := by
      rw [List.takeWhile_append_of_pos h1]; simp
    rw [e1, jp p 62 r hp, if_pos (by simp)]
  · have h1 : ∀ x ∈ l, (x != 62) = true := fun x hx => by
      rw [bne_iff_ne]; rintro rfl; exact h hx
    have e1 : l.takeWhile (· != 62) = l := by
      have := List.takeWhile_append_of_pos (l₂ := []) h1
      rw [List.append_nil] at this
      rw [this]; simp
    rw [e1, iH l 62 h, if_neg (Nat.lt_irrefl _)]
theorem x5 (s : ByteArray) (f : Nat) (w : World) (hs : s.size ≤ 1048576) (hf : f ≤ s.size) :
    Calls Tryz.prog 103 #[.string s, .int .i64 (f : Int)] w fun e w' => e = .returned (.tuple #[.int .i64 (ik s.data.toList f : Int), .int .i64 ((f + (eh (s.data.toList.drop f)).2 : Nat) : Int)]) ∧ w' = w := by
  have HI := fun w => Lib.hid (Tryz.strings_IndexByte (s.extract f s.size) 62 w)
  have hb := BX s f hf
  obtain ⟨b1, b2, -, b4⟩ := hb
  rw [ft, show (62 : Int).toNat.toUInt8 = 62 from rfl, Ki, List.length_drop, ← Lib.size_eq, show (List.takeWhile (· != 62) (s.data.toList.drop f)).length = ik s.data.toList f - f by unfold ik; omega] at HI
  rw [b4]
  obtain ⟨E, hE⟩ : ∃ E, ik s.data.toList f = E := ⟨_, rfl⟩
  rw [hE] at HI b1 b2 ⊢
  clear hE b4
  have hff : f ≤ 1048576 := by omega
  by_cases h : E < s.size
  · rw [if_pos (by omega)] at HI
    rw [if_pos h]
    obtain ⟨d, rfl⟩ : ∃ d, E = f + d := ⟨E - f, by omega⟩
    rw [Nat.add_sub_cancel_left] at HI
    have hd : d ≤ 1048576 := by omega
    go_enter Tryz.func103, Tryz.ntmps103
    go_wp2_with (go_at_call 152; refine (HI _).out.mono ?_; rintro e w1 ⟨rfl, rfl⟩)
    go_ret2
    exact ⟨tB (by omega) (by omega), rfl⟩
  · rw [if_neg (by omega)] at HI
    rw [if_neg h]
    obtain rfl : E = s.size := by omega
    go_enter Tryz.func103, Tryz.ntmps103
    go_wp2_with (go_at_call 152; refine (HI _).out.mono ?_; rintro e w1 ⟨rfl, rfl⟩)
    go_ret2
    exact ⟨rfl, rfl⟩
theorem MR (s:ByteArray) (a:Int) (w:World) (hs:s.size≤1048576) (ha: -9223372036854775808≤a∧a≤9223372036854775807) (_h:pb w):Calls Tryz.prog 54 #[.string s,.int .i64 a] w (mV (kX s.data.toList a) w):=by
 have HBg:=fun w=>Lib.hid (nh s a w hs ha trivial)
 cases hb:ee s.data.toList a
 ·rw [hb] at HBg
  have HV:=Lib.hid (IF s.data.toList a hb)
  clear hb ha
  go_enter Tryz.func54,Tryz.ntmps54
  go_wp2_with (fail)
  refine (HBg _).out.mono ?_
  rintro e w1 ⟨rfl,b1⟩
  have HB:=Lib.hid ((b1.block _ (by simp)).trans (heap_alloc_new w _))
  have B1:=Lib.hid (((Below.refl _ w).alloc (Nat.le_refl _) _).trans (b1.mono (by simp)))
  clear b1
  go_wp2_with (refine ak rfl _ _ rfl w.heap.size aJ none 0 0 rfl rfl _ HB.out rfl ?_;intro w2 hb2 hg2)
  have B2:=B1.out.grown hg2 B1.out.size (fun j hj=>by cases hj;exact Nat.le_refl _)
  refine bodyPost_ret (aw rfl _ _ w.heap.size aJ none 0 0 rfl (aN hb2)) rfl ?_
  exact ⟨aJ,none,0,0,_,false,rfl,av _,HV.out,B2⟩
 obtain ⟨k,rfl⟩:∃k:Nat,a=k:=⟨a.toNat,by
  unfold ee at hb
  rw [Bool.and_eq_true,decide_eq_true_iff] at hb;omega⟩
 rw [hb] at HBg
 rw [mn] at hb
 have hk1:k+1<s.size:=Nat.lt_of_not_le fun h=>by
  rw [iQ _ (by rw [List.length_drop,←Lib.size_eq];omega)] at hb;cases hb
 have hk:k≤1048576:=by omega
 have hv:=BI s.data.toList k hb
 have HX:=fun w=>Lib.hid (cB s (k:Int) ⟨#[60,33,45,45]⟩ w (by omega) (by decide) (by omega) (by omega))
 rw [kM s _ k (by omega),show (⟨#[60,33,45,45]⟩:ByteArray).data.toList=[60,33,45,45] from rfl,A2] at HX
 have HT:=fun w=>Lib.hid (uO s k w hs (by omega))
 unfold PJ at HT
 unfold fB at hv
 have hk60:s[k]=60:=by
  rw [aj s k (by omega),aj s (k+1) hk1,sF,Bool.and_eq_true] at hb
  exact beq_iff_eq.1 hb.1
 clear ha hb
 obtain ⟨f,fn,E,V,hfs,hfE,hEs,hHT,hHX,hfn,hval⟩:∃(f:Nat) (fn:Nat) (E V:Nat),f≤s.size∧f≤E∧E≤s.size∧(∀w,Hid (Calls Tryz.prog 102 #[.string s,.int .i64 (k:Int)] w fun e w'=>e= .returned (.int .i64 (f:Int))∧Below w.heap.size w w'))∧(∀w,Hid (Calls Tryz.prog 57 #[.string s,.int .i64 (k:Int),.string ⟨#[60,33,45,45]⟩] w fun e w'=>e= .returned (.bool (decide (fn=1)))∧∃n,w'=w.drewN n))∧(fn=1∧(∀w,Hid (Calls Tryz.prog 104 #[.string s,.int .i64 (f:Int)] w fun e w'=>e= .returned (.tuple #[.int .i64 (E:Int),.int .i64 (V:Int)])∧Below w.heap.size w w'))∨fn=0∧(∀w,Hid (Calls Tryz.prog 103 #[.string s,.int .i64 (f:Int)] w fun e w'=>e= .returned (.tuple #[.int .i64 (E:Int),.int .i64 (V:Int)])∧Below w.heap.size w w')))∧kX s.data.toList (k:Int)=(iY (s.extract f E).data.toList,(V:Int),true):=by
  cases hp:[60,33,45,45].isPrefixOf (s.data.toList.drop k)
  ·rw [hp,if_neg Bool.false_ne_true] at HT
   rw [hp,if_neg Bool.false_ne_true] at hv
   rw [hp] at HX
   have hh:((s.data.toList.drop k).drop 1).head?=some s[k+1]:=by rw [List.drop_drop,aj s (k+1) hk1];rfl
   rw [hh,List.drop_drop,List.drop_drop] at hv
   have h60:[60,63].isPrefixOf (s.data.toList.drop k)=true→s[k+1]=63:=fun h=>by
    rw [aj s k (by omega),aj s (k+1) hk1,List.isPrefixOf_cons_cons,List.isPrefixOf_cons_cons] at h
    simp at h
    exact h.2.symm
   have key:∀f:Nat,f≤s.size→kX s.data.toList (k:Int)=(iY (eh (s.data.toList.drop f)).1,((f+(eh (s.data.toList.drop f)).2:Nat):Int),true)→f≤ik s.data.toList f∧ik s.data.toList f≤s.size∧kX s.data.toList (k:Int)=(iY (s.extract f (ik s.data.toList f)).data.toList,((f+(eh (s.data.toList.drop f)).2:Nat):Int),true):=fun f hf hc=>by
    obtain ⟨b1,b2,b3,b4⟩:=BX s f hf
    exact ⟨b1,b2,by rw [hc,b3]⟩
   have fin:∀f:Nat,f≤s.size→∀w,Hid (Calls Tryz.prog 103 #[.string s,.int .i64 (f:Int)] w fun e w'=>e= .returned (.tuple #[.int .i64 (ik s.data.toList f:Int),.int .i64 ((f+(eh (s.data.toList.drop f)).2:Nat):Int)])∧Below w.heap.size w w'):=fun f hf w=>Lib.hid ((x5 s f w hs hf).mono (by rintro e w' ⟨rfl,rfl⟩;exact ⟨rfl,Below.refl _ _⟩))
   cases h6:[60,63].isPrefixOf (s.data.toList.drop k)
   ·rw [h6,if_neg Bool.false_ne_true] at HT
    have hne:s[k+1]≠63:=fun e=>by
     rw [aj s k (by omega),aj s (k+1) hk1,hk60,e] at h6
     simp [List.isPrefixOf] at h6
    rw [if_neg (fun e=>hne (Option.some.inj e))] at hv
    obtain ⟨c1,c2,c3⟩:=key (k+2) (by omega) (by
     rw [hv];simp only [Prod.mk.injEq,true_and,and_true];omega)
    exact ⟨k+2,0,_,_,by omega,c1,c2,HT,HX,.inr ⟨rfl,fin (k+2) (by omega)⟩,c3⟩
   ·rw [h6,if_pos rfl] at HT
    rw [if_pos (by rw [h60 h6])] at hv
    obtain ⟨c1,c2,c3⟩:=key (k+1) (by omega) (by
     rw [hv];simp only [Prod.mk.injEq,true_and,and_true];omega)
    exact ⟨k+1,0,_,_,by omega,c1,c2,HT,HX,.inr ⟨rfl,fin (k+1) (by omega)⟩,c3⟩
  ·rw [hp,if_pos rfl] at HT
   rw [hp,if_pos rfl,List.drop_drop] at hv
   rw [hp] at HX
   have hk4:k+4≤s.size:=by
    have:=(List.isPrefixOf_iff_prefix.1 hp).length_le
    rw [List.length_drop,←Lib.size_eq] at this
    simp at this;omega
   have hpre:=Gj (s.data.toList.drop (k+4))
   have hlen:(aW (s.data.toList.drop (k+4))).1.length≤s.size-(k+4):=by
    have:=(List.prefix_iff_eq_take.2 hpre).length_le
    rw [List.length_drop,←Lib.size_eq] at this;exact this
   have HM:=fun w=>Lib.hid (uN s (k+4) ((k+4:Nat):Int) w hs rfl hk4)
   refine ⟨k+4,1,_,_,hk4,?_,?_,HT,HX,.inl ⟨rfl,HM⟩,?_⟩
   ·omega
   ·omega
   ·rw [hv,Lib.extract_data,Nat.add_sub_cancel_left,←hpre]
    simp only [Prod.mk.injEq,true_and,and_true];omega
 have HC:=fun w=>Lib.hid (gm (s.extract f E) w (by rw [ByteArray.size_extract];omega))
 have ht:iY (s.extract f E).data.toList=⟨3,[],ap (s.extract f E).data.toList,[],false⟩:=rfl
 rw [ht] at hval
 obtain ⟨X,hX⟩:∃X,ap (s.extract f E).data.toList=X:=⟨_,rfl⟩
 rw [hX] at HC hval
 have HV:=Lib.hid hval
 have hE2:E≤1048576:=by omega
 have hf2:f≤1048576:=by omega
 have HFN:=Lib.hid hfn
 have HHX:=fun w=>Lib.hid (hHX w)
 have HHT:=fun w=>Lib.hid (hHT w)
 clear hX ht hval hv HT HX hfn hHX hHT hk60
 rcases HFN.out with ⟨h1,HM⟩|⟨h1,HM⟩
 all_goals
  rw [h1] at HHX
  have HM2:=fun w=>Lib.hid (HM w)
  clear h1 HM HFN
  go_enter Tryz.func54,Tryz.ntmps54
  go_wp2_with (fail)
  refine (HBg _).out.mono ?_
  rintro e w1 ⟨rfl,b1⟩
  have HB:=Lib.hid ((b1.block _ (by simp)).trans (heap_alloc_new w _))
  have B1:=Lib.hid (((Below.refl _ w).alloc (Nat.le_refl _) _).trans (b1.mono (by simp)))
  have hlt1:w.heap.size<w1.heap.size:=(Array.getElem?_eq_some_iff.1 HB.out).1
  clear b1
  go_wp2_with (fail)
  refine (HHT _).out.out.mono ?_
  rintro e w2 ⟨rfl,b2⟩
  have HB2:=Lib.hid ((b2.block _ hlt1).trans HB.out)
  have B2:=Lib.hid (B1.out.trans (b2.mono B1.out.size))
  have hlt2:w.heap.size<w2.heap.size:=(Array.getElem?_eq_some_iff.1 HB2.out).1
  clear b2 HB B1 hlt1
  go_wp2_with (fail)
  refine (HHX _).out.out.mono ?_
  rintro e w3 ⟨rfl,n3,rfl⟩
  have HB3:=Lib.hid (((ai w2.heap.size w2 n3).block _ hlt2).trans HB2.out)
  have B3:=Lib.hid (B2.out.trans ((ai w2.heap.size w2 n3).mono B2.out.size))
  have hlt3:w.heap.size<(w2.drewN n3).heap.size:=(Array.getElem?_eq_some_iff.1 HB3.out).1
  go_wp2_with (fail)
  refine (HM2 _).out.out.mono ?_
  rintro e w4 ⟨rfl,b4⟩
  have HB4:=Lib.hid ((b4.block _ hlt3).trans HB3.out)
  have B4:=Lib.hid (B3.out.trans (b4.mono B3.out.size))
  have hlt4:w.heap.size<w4.heap.size:=(Array.getElem?_eq_some_iff.1 HB4.out).1
  clear b4 HB3 B3 hlt3 HB2 B2 hlt2
  go_wp2_with (fail)
  refine (HC _).out.mono ?_
  rintro e w5 ⟨rfl,b5⟩
  have HB5:=Lib.hid ((b5.block _ hlt4).trans HB4.out)
  have B5:=Lib.hid (B4.out.trans (b5.mono B4.out.size))
  clear b5
  go_wp2_with (refine ak rfl _ _ rfl w.heap.size ⟨3,[],X,[],false⟩ none 0 0 rfl rfl _ HB5.out rfl ?_;intro w6 hb6 hg6)
  have B6:=B5.out.grown hg6 B5.out.size (fun j hj=>by cases hj;exact Nat.le_refl _)
  refine bodyPost_ret (aw rfl _ _ w.heap.size ⟨3,[],X,[],false⟩ none 0 0 rfl (aN hb6)) rfl ?_
  exact ⟨⟨3,[],X,[],false⟩,none,0,0,_,true,rfl,av _,HV.out,B6⟩
end Go.Proofs.YtajpoodpbbbkfaaGreatDoor
namespace Go.Proofs.YtajpoodpbbbkfaaGreatDoor
open Go.RowKit Go.Lib
def tC (_:World):Prop:=True
theorem tC.below {w w':World} (_:tC w) (_:Below w.heap.size w w'):tC w':=trivial
theorem Kj (s:ByteArray) (a:Int):bf s a ⟨#[60,33,100,111,99,116,121,112,101]⟩=dV s.data.toList a:=by
 by_cases h:0≤a∧a≤(s.size:Int)
 ·unfold bf dV kY
  rw [decide_eq_true h,decide_eq_true h.1];rfl
 ·rw [oy s.data.toList a (by rw [←Lib.size_eq];omega)]
  unfold bf;rw [decide_eq_false h,Bool.false_and]
theorem ni (s:ByteArray) (a:Int) (w:World) (hs:s.size≤1048576) (ha: -9223372036854775808≤a∧a≤9223372036854775807) (_h:tC w):Calls Tryz.prog 55 #[.string s,.int .i64 a] w fun e w'=>e= .returned (.bool (dV s.data.toList a))∧Below w.heap.size w w':=by
 have HB:=fun w=>Lib.hid (cB s a ⟨#[60,33,100,111,99,116,121,112,101]⟩ w (by omega) (by decide) ha.1 ha.2)
 rw [Kj] at HB
 clear ha
 go_enter Tryz.func55,Tryz.ntmps55
 go_wp2_with (fail)
 refine (HB _).out.mono ?_
 rintro e w1 ⟨rfl,n1,rfl⟩
 go_wp2
 go_ret
 exact ⟨rfl,ai _ _ _⟩
end Go.Proofs.YtajpoodpbbbkfaaGreatDoor
namespace Go.Proofs.YtajpoodpbbbkfaaGreatDoor
open Go.RowKit Go.Lib
theorem Kk (s:ByteArray) (k:Nat):s.extract k s.size=⟨(s.data.toList.drop k).toArray⟩:=bl (by
 rw [Lib.extract_data,List.toList_toArray,List.take_of_length_le]
 rw [List.length_drop,←Lib.size_eq];exact Nat.le_refl _)
theorem Kl (p:UInt8→Bool):∀(l:ab) (x:UInt8),x∈l.takeWhile p→p x=true
 |[],x,h=>by simp at h
 |c::l,x,h=>by
  rw [List.takeWhile_cons] at h
  split at h
  ·next hc=>
   rw [List.mem_cons] at h
   rcases h with rfl|h
   ·exact hc
   ·exact Kl p l x h
  ·simp at h
end Go.Proofs.YtajpoodpbbbkfaaGreatDoor
namespace Go.Proofs.YtajpoodpbbbkfaaGreatDoor
open Go.RowKit Go.Lib
theorem MS (s : ByteArray) (a : Int) (w : World) (hs : s.size ≤ 1048576) (ha : -9223372036854775808 ≤ a ∧ a ≤ 9223372036854775807) (_h : tC w) :
    Calls Tryz.prog 56 #[.string s, .int .i64 a] w (mV (q8 s.data.toList a) w) := by
  have HBg := fun w => Lib.hid (ni s a w hs ha trivial)
  cases hb : dV s.data.toList a
  · rw [hb] at HBg
    have HV := Lib.hid (IL s.data.toList a hb)
    clear hb ha
    go_enter Tryz.func56, Tryz.ntmps56
    go_wp2_with (fail)
    refine (HBg _).out.mono ?_
    rintro e w1 ⟨rfl, b1⟩
    have HB := Lib.hid ((b1.block _ (by simp)).trans (heap_alloc_new w _))
    have B1 := Lib.hid (((Below.refl _ w).alloc (Nat.le_refl _) _).trans (b1.mono (by simp)))
    clear b1
    go_wp2_with (refine ak rfl _ _ rfl w.heap.size aJ none 0 0 rfl rfl _ HB.out rfl ?_; intro w2 hb2 hg2)
    have B2 := B1.out.grown hg2 B1.out.size (fun j hj => by cases hj; exact Nat.le_refl _)
    refine bodyPost_ret (aw rfl _ _ w.heap.size aJ none 0 0 rfl (aN hb2)) rfl ?_
    exact ⟨aJ, none, 0, 0, _, false, rfl, av _, HV.out, B2⟩
  obtain ⟨k, rfl⟩ : ∃ k : Nat, a = k := ⟨a.toNat, by
    unfold dV at hb
    rw [Bool.and_eq_true, decide_eq_true_iff] at hb; omega⟩
  have hk9 : k + 9 ≤ s.size := Nat.le_of_not_lt fun h => by
    rw [oy s.data.toList k (by rw [← Lib.size_eq]; omega)] at hb; cases hb
  rw [hb] at HBg
  rw [rA] at hb
  have hv := BN s.data.toList k hb
  have hx : s.extract (k + 9) s.size = ⟨(s.data.toList.drop (k + 9)).toArray⟩ := Kk s (k + 9)
  have hdl : (s.data.toList.drop (k + 9)).length = s.size - (k + 9) := by rw [List.length_drop, ← Lib.size_eq]
  obtain ⟨l, hl⟩ : ∃ l, s.data.toList.drop (k + 9) = l := ⟨_, rfl⟩
  have HC := fun w => Lib.hid (mc (s.extract (k + 9) s.size) 62 (l.takeWhile (· != 62)) (l.dropWhile (· != 62)) w (by rw [ByteArray.size_extract]; omega) (by rw [hx, hl]; simp) (fun h => by
      have := Kl _ _ _ h
      simp at this) (by
      rcases IK (· != 62) l with h | ⟨d, z, h, hd⟩
      · exact .inl h
      · refine .inr ⟨z, ?_⟩
        rw [h, show d = 62 by simpa using hd]))
  unfold ua at HC
  have hsk : cw (· != 62) s.data.toList (k + 9) = k + 9 + (l.takeWhile (· != 62)).length := by unfold cw; rw [hl]
  have hsum : (l.takeWhile (· != 62)).length + (l.dropWhile (· != 62)).length = l.length := by
    rw [← List.length_append, List.takeWhile_append_dropWhile]
  rw [hl] at hdl hv
  rw [hsk, ← Lib.size_eq] at hv
  have hdct : ui (l.takeWhile (· != 62)) = ⟨4, [], ap (l.takeWhile (· != 62)), [], false⟩ := rfl
  rw [hdct] at hv
  obtain ⟨L, hL⟩ : ∃ L : ByteArray, ⟨(l.takeWhile (· != 62)).toArray⟩ = L := ⟨_, rfl⟩
  have hLl : L.data.toList = l.takeWhile (· != 62) := by rw [← hL]
  have hLs : (l.takeWhile (· != 62)).length = L.size := by rw [Lib.size_eq, hLl]
  rw [hL] at HC
  rw [hLs] at hsum hv
  have HCl := fun w => Lib.hid (gm L w (by omega))
  rw [hLl] at HCl
  obtain ⟨X, hX⟩ : ∃ X, ap (l.takeWhile (· != 62)) = X := ⟨_, rfl⟩
  rw [hX] at HCl hv
  obtain ⟨Y, hY⟩ : ∃ Y : ByteArray, ⟨((l.dropWhile (· != 62)).tail).toArray⟩ = Y := ⟨_, rfl⟩
  rw [hY] at HC
  have hki : (k : Int) + 9 ≤ (s.size : Int) := by omega
  have hkk : k ≤ 1048576 := by omega
  have hle : k + 9 + L.size ≤ s.size := by omega
  have hL2 : L.size ≤ 1048576 := by omega
  have key : ∃ (b : Bool) (V : Nat), (!(l.dropWhile (· != 62)).isEmpty) = b ∧ q8 s.data.toList (k : Int) = (⟨4, [], X, [], false⟩, (V : Int), true) ∧ (b = true ∧ V = k + 9 + L.size + 1 ∨ b = false ∧ V = k + 9 + L.size) := by
    cases hd : l.dropWhile (· != 62) with
    | nil =>
      rw [hd, List.length_nil] at hsum
      refine ⟨false, k + 9 + L.size, rfl, ?_, .inr ⟨rfl, rfl⟩⟩
      rw [hv, if_neg (by omega)]
      simp only [Prod.mk.injEq, true_and, and_true]; omega
    | cons c z =>
      rw [hd, List.length_cons] at hsum
      refine ⟨true, k + 9 + L.size + 1, rfl, ?_, .inl ⟨rfl, rfl⟩⟩
      rw [hv, if_pos (by omega)]
  obtain ⟨b, V, hbE, hV, hVb⟩ := key
  rw [hbE] at HC
  have HV := Lib.hid hV
  have HVB := Lib.hid hVb
  clear ha hb hv hx hdl hl hsk hsum hdct hL hLl hLs hX hY hbE hV hVb
  rcases HVB.out with ⟨hb, hVe⟩ | ⟨hb, hVe⟩
  all_goals
    subst hb
    have HVE := Lib.hid hVe
    clear hVe
    go_enter Tryz.func56, Tryz.ntmps56
    go_wp2_with (fail)
    refine (HBg _).out.mono ?_
    rintro e w1 ⟨rfl, b1⟩
    have HB := Lib.hid ((b1.block _ (by simp)).trans (heap_alloc_new w _))
    have B1 := Lib.hid (((Below.refl _ w).alloc (Nat.le_refl _) _).trans (b1.mono (by simp)))
    have hlt1 : w.heap.size < w1.heap.size := (Array.getElem?_eq_some_iff.1 HB.out).1
    clear b1
    go_wp2_with (fail)
    refine (HC _).out.mono ?_
    rintro e w2 ⟨rfl, n2, rfl⟩
    have HB2 := Lib.hid (((ai w1.heap.size w1 n2).block _ hlt1).trans HB.out)
    have B2 := Lib.hid (B1.out.trans ((ai w1.heap.size w1 n2).mono B1.out.size))
    have hlt2 : w.heap.size < (w1.drewN n2).heap.size := (Array.getElem?_eq_some_iff.1 HB2.out).1
    go_wp2_with (fail)
    refine (HCl _).out.mono ?_
    rintro e w3 ⟨rfl, b3⟩
    have HB3 := Lib.hid ((b3.block _ hlt2).trans HB2.out)
    have B3 := Lib.hid (B2.out.trans (b3.mono B2.out.size))
    clear b3
    go_wp2_with (refine ak rfl _ _ rfl w.heap.size ⟨4, [], X, [], false⟩ none 0 0 rfl rfl _ HB3.out rfl ?_; intro w4 hb4 hg4)
    have B4 := B3.out.grown hg4 B3.out.size (fun j hj => by cases hj; exact Nat.le_refl _)
    refine bodyPost_ret (aw rfl _ _ w.heap.size ⟨4, [], X, [], false⟩ none 0 0 rfl (aN hb4)) rfl ?_
    exact ⟨⟨4, [], X, [], false⟩, none, 0, 0, _, true, rfl, av _, HV.out.trans (by rw [HVE.out]; simp only [Prod.mk.injEq, true_and, and_true]; omega), B4⟩
end Go.Proofs.YtajpoodpbbbkfaaGreatDoor
