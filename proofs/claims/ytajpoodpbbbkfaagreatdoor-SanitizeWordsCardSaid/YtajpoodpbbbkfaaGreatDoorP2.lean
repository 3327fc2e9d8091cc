/-
  Texts laid together: NumMath, NumCode, NumRead, NumRef, NumRefB, NumAwake, NumList, NumDec.
-/
import Derived.Test.YtajpoodpbbbkfaaGreatDoorP1
import Derived.Below
import Derived.Laws.BitsAllLaws
set_option maxHeartbeats 4000000
set_option maxRecDepth 100000
namespace Go.Proofs.YtajpoodpbbbkfaaGreatDoor
open Go.RowKit Go.Lib
def ku (n:Nat):Nat:=if 1114111<n then 1114112 else n
def DC (b n:Nat) (c:UInt8):Nat:=ku (n*b+(cq (c.toNat:Int)).toNat)
def co (b:Nat) (c:UInt8):Bool:=decide (0≤cq (c.toNat:Int)∧cq (c.toNat:Int)<(b:Int))
def go (b:Nat) (l:List UInt8):Nat:=l.foldl (DC b) 0
def fy (b:Nat) (l:List UInt8):List UInt8:=l.takeWhile (co b)
theorem Ll (n:Nat):ku n≤1114112:=by unfold ku;split<;>omega
theorem kv (b:Nat) (l:List UInt8):go b l≤1114112:=by
 rcases List.eq_nil_or_concat l with rfl|⟨i,x,rfl⟩
 ·exact Nat.zero_le _
 ·rw [List.concat_eq_append]
  unfold go
  rw [List.foldl_append]
  exact Ll _
theorem pD (b:Nat) (l:List UInt8) (c:UInt8):go b (l++[c])=DC b (go b l) c:=by
 unfold go;rw [List.foldl_append];rfl
theorem jA (q:Int) (h0:0≤q) (h1:q<256):cq q= -1∨0≤cq q∧cq q<16:=by
 unfold cq
 split
 ·omega
 ·split
  ·omega
  ·split<;>omega
theorem mg (s:ByteArray) (k:Nat) (h:k<s.size):s.data.toList.take (k+1)=s.data.toList.take k++[s[k]]:=by
 rw [List.take_succ_eq_append_getElem (by rw [←Lib.size_eq];exact h)];rfl
theorem fq (b:Nat) (s:ByteArray) (k:Nat) (hd:∀c∈s.data.toList.take k,co b c=true) (h:∀h:k<s.size,co b s[k]=false):fy b s.data.toList=s.data.toList.take k:=by
 have e:fy b (s.data.toList.take k++s.data.toList.drop k)=s.data.toList.take k:=by
  unfold fy
  rw [List.takeWhile_append_of_pos hd]
  by_cases hlt:k<s.size
  ·rw [aj s k hlt,List.takeWhile_cons_of_neg (by rw [h hlt];exact Bool.false_ne_true),List.append_nil]
  ·rw [List.drop_eq_nil_of_le (by rw [←Lib.size_eq];omega),List.takeWhile_nil,List.append_nil]
 rwa [List.take_append_drop] at e
theorem HU (b:Nat) (l:List UInt8):(fy b l).length≤l.length:=(List.takeWhile_sublist _).length_le
def cW (x:Bool):Nat:=if x then 16 else 10
def lr (x:Bool) (l:List UInt8):Int:=if l=[]∨(fy (cW x) l).length<l.length then-1 else (go (cW x) l:Int)
def qY:List Int:=[8364,129,8218,402,8222,8230,8224,8225,710,8240,352,8249,338,141,381,143,144,8216,8217,8220,8221,8226,8211,8212,732,8482,353,8250,339,157,382,376]
def q6 (n:Int):Int:=if n=0 then-1 else if 128≤n∧n<160 then qY.getD (n-128).toNat 0 else n
def fh (n:Int):ByteArray:=⟨(encodeRune (q6 n)).toArray⟩
def nR (l:List UInt8) (k:Nat):Bool:=decide (l.getD k 0=120∨l.getD k 0=88)
def bD (l:List UInt8) (k:Nat):Nat:=if nR l (k+1) then k+2 else k+1
def aD (l:List UInt8) (k:Nat):List UInt8:=fy (cW (nR l (k+1))) (l.drop (bD l k))
def cH (l:List UInt8) (k:Nat):Nat:=if l.getD (bD l k+(aD l k).length) 0=59 then bD l k+(aD l k).length+1 else bD l k+(aD l k).length
def aX (l:List UInt8) (a:Int):Bool:=decide (0≤a∧l.getD a.toNat 0=35∧aD l a.toNat≠[])
def fK (l:List UInt8) (k:Nat):Nat:=go (cW (nR l (k+1))) (aD l k)
theorem oc (c d:UInt8) (hd:d=35∨d=59):(ct c=d)↔c=d:=by
 have h:=cU c
 unfold fY at h
 rw [←UInt8.toNat_inj,←UInt8.toNat_inj]
 rcases hd with rfl|rfl
 ·rw [show (35:UInt8).toNat=35 from rfl];split at h<;>omega
 ·rw [show (59:UInt8).toNat=59 from rfl];split at h<;>omega
theorem H6 (c:UInt8):(ct c=120)↔c=120∨c=88:=by
 have h:=cU c
 unfold fY at h
 rw [←UInt8.toNat_inj,←UInt8.toNat_inj,←UInt8.toNat_inj,show (120:UInt8).toNat=120 from rfl,show (88:UInt8).toNat=88 from rfl]
 split at h<;>omega
theorem iJ (s:ByteArray) (k:Nat) (d:UInt8) (hd:d≠0):bf s (k:Int) ⟨#[d]⟩=decide (ct (s.data.toList.getD k 0)=d):=by
 unfold bf
 rw [show ((k:Nat):Int).toNat=k by omega,show (ByteArray.mk #[d]).data.toList=[d] from rfl]
 by_cases h:k<s.size
 ·rw [aj s k h,aM,decide_eq_true (by omega),Bool.true_and,List.isPrefixOf_cons_cons]
  have e:s.data.toList.getD k 0=s[k]:=by
   rw [List.getD_eq_getElem?_getD,List.getElem?_eq_getElem (by rw [←Lib.size_eq];exact h)];rfl
  rw [e]
  simp only [List.isPrefixOf_nil_left,Bool.and_true]
  rw [Bool.eq_iff_iff,beq_iff_eq,decide_eq_true_iff]
  exact eq_comm
 ·have e:s.data.toList.getD k 0=0:=by
   rw [List.getD_eq_getElem?_getD,List.getElem?_eq_none (by rw [←Lib.size_eq];omega)];rfl
  rw [List.drop_eq_nil_of_le (by rw [←Lib.size_eq];omega),e]
  rw [show aF []=[] from rfl,show List.isPrefixOf [d] []=false from rfl,Bool.and_false]
  exact (decide_eq_false (fun h=>hd h.symm)).symm
theorem yY (s:ByteArray) (a:Int) (low:ByteArray) (h:a<0):bf s a low=false:=by
 unfold bf;rw [decide_eq_false (by omega)];rfl
theorem cg (s:ByteArray) (k:Nat) (h:s.data.toList.getD k 0≠0):k<s.size:=by
 rcases Nat.lt_or_ge k s.size with h1|h1
 ·exact h1
 ·exact absurd (by rw [List.getD_eq_getElem?_getD,List.getElem?_eq_none (by rw [←Lib.size_eq];omega)];rfl) h
theorem df (s:ByteArray) (k:Nat) (h:k<s.size):s.data.toList.getD k 0=s[k]:=by
 rw [List.getD_eq_getElem?_getD,List.getElem?_eq_getElem (by rw [←Lib.size_eq];exact h)];rfl
theorem od (s:ByteArray) (k:Nat) (h:nR s.data.toList k=true):k<s.size:=by
 unfold nR at h
 rw [decide_eq_true_eq] at h
 refine cg s k ?_
 rcases h with h|h<;>rw [h]<;>decide
theorem wQ (s:ByteArray) (k:Nat) (h:k<s.size):bD s.data.toList k≤s.size∧k+1≤bD s.data.toList k:=by
 unfold bD
 by_cases hx:nR s.data.toList (k+1)=true
 ·rw [if_pos hx];have:=od s _ hx;omega
 ·rw [if_neg hx];omega
theorem pE (s:ByteArray) (k:Nat) (h:k<s.size):bD s.data.toList k+(aD s.data.toList k).length≤s.size:=by
 have h1:=wQ s k h
 have h2:=HU (cW (nR s.data.toList (k+1))) (s.data.toList.drop (bD s.data.toList k))
 rw [List.length_drop,←Lib.size_eq] at h2
 unfold aD
 omega
theorem N0 (s:ByteArray) (k:Nat) (h:k<s.size):cH s.data.toList k≤s.size∧bD s.data.toList k+(aD s.data.toList k).length≤cH s.data.toList k:=by
 have h2:=pE s k h
 unfold cH
 split
 ·rename_i h3
  have:=cg s _ (by rw [h3];decide)
  omega
 ·omega
end Go.Proofs.YtajpoodpbbbkfaaGreatDoor
namespace Go.Proofs.YtajpoodpbbbkfaaGreatDoor
open Go.RowKit Go.Lib
def qz (x:Bool):Nat:=if x then 4625196817309499392 else 4621819117588971520
theorem yZ (x:Bool):fl (cW x)=qz x:=by
 cases x
 ·exact OU
 ·exact OV
theorem wR (x:Bool):cW x≤16:=by cases x<;>decide
theorem N1 (x:Bool) (n:Nat) (hn:n≤1114112) (t:TypeId) (w:World):(binOp .mul t (.float .f64 (fl n)) (.float .f64 (qz x))).run Tryz.prog w= .ok (.float .f64 (fl (n*cW x))) w:=by
 have hb:=wR x
 have hm:n*cW x≤1114112*16:=Nat.mul_le_mul hn hb
 rw [←yZ]
 exact run_float_arith w .mul t .f64 _ _ _ (NJ _ _ (by omega) (by omega) (by omega))
theorem N2 (a d k:Nat) (ha:a≤17825792) (hd:d<16) (hk:k≤1099511627776) (t:TypeId) (w:World):(binOp .add t (.complex .f64 (fl a) (fl k)) (.complex .f64 (fl d) 4607182418800017408)).run Tryz.prog w= .ok (.complex .f64 (fl (a+d)) (fl (k+1))) w:=by
 refine run_complex_sum w .add (.inl rfl) t .f64 _ _ _ _ _ _ ?_
 rw [←Pt,cSumBits,GY a d (by omega),GY k 1 (by omega)];rfl
theorem Lm (d:Nat) (hd:d<16):(FloatKind.f64.format.order (fl d) 0==some .lt)=false:=by
 rw [←G4,lc d 0 (by omega) (by omega)]
 by_cases h:d=0
 ·subst h;decide
 ·rw [Nat.compare_eq_gt.2 (by omega)];rfl
theorem Lo (x:Bool) (d:Nat) (hd:d<16):(FloatKind.f64.format.order (fl d) (qz x)==some .gt||FloatKind.f64.format.order (fl d) (qz x)==some .eq)=decide (cW x≤d):=by
 have hb:=wR x
 rw [←yZ,lc d _ (by omega) (by omega)]
 rcases Nat.lt_trichotomy d (cW x) with h|h|h
 ·rw [Nat.compare_eq_lt.2 h,decide_eq_false (by omega)];rfl
 ·rw [Nat.compare_eq_eq.2 h,decide_eq_true (by omega)];rfl
 ·rw [Nat.compare_eq_gt.2 h,decide_eq_true (by omega)];rfl
theorem Lp (n:Nat) (hn:n<2 ^ 53):(FloatKind.f64.format.order (fl n) 4697535882029170688==some .gt)=decide (1114111<n):=by
 rw [←KR,lc n _ hn (by decide)]
 rcases Nat.lt_trichotomy n 1114111 with h|h|h
 ·rw [Nat.compare_eq_lt.2 h,decide_eq_false (by omega)];rfl
 ·rw [Nat.compare_eq_eq.2 h,decide_eq_false (by omega)];rfl
 ·rw [Nat.compare_eq_gt.2 h,decide_eq_true (by omega)];rfl
theorem se (b:Nat) (c:UInt8) (h:cq (c.toNat:Int)= -1):co b c=false:=by
 unfold co;rw [h];exact decide_eq_false (by omega)
theorem sg (b:Nat) (c:UInt8) (d:Nat) (h:cq (c.toNat:Int)=(d:Int)) (hd:b≤d):co b c=false:=by
 unfold co;rw [h];exact decide_eq_false (by omega)
theorem oe (b:Nat) (c:UInt8) (d:Nat) (h:cq (c.toNat:Int)=(d:Int)) (hd:d<b):co b c=true:=by
 unfold co;rw [h];exact decide_eq_true (by omega)
theorem wS (b n:Nat) (c:UInt8) (d:Nat) (h:cq (c.toNat:Int)=(d:Int)):DC b n c=ku (n*b+d):=by
 unfold DC;rw [h];rfl
theorem iy (b:Nat) (s:ByteArray) (k:Nat) (h:k<s.size) (hd:∀c∈s.data.toList.take k,co b c=true) (hc:co b s[k]=true):∀c∈s.data.toList.take (k+1),co b c=true:=by
 rw [mg s k h]
 intro c hm
 rcases List.mem_append.1 hm with hm|hm
 ·exact hd c hm
 ·rw [List.mem_singleton.1 hm];exact hc
theorem H7 (s:ByteArray) (x:Bool) (w:World) (hs:s.size≤1099511627776):Calls Tryz.prog 216 #[.string s,.bool x] w fun e w'=>e= .returned (.complex .f64 (fl (go (cW x) (fy (cW x) s.data.toList))) (fl (fy (cW x) s.data.toList).length))∧w=w':=by
 obtain ⟨b,hb⟩:∃b,cW x=b:=⟨_,rfl⟩
 obtain ⟨V,hV⟩:∃V,fl (go b (fy b s.data.toList))=V:=⟨_,rfl⟩
 obtain ⟨C,hC⟩:∃C,fl (fy b s.data.toList).length=C:=⟨_,rfl⟩
 have HV:=Lib.hid hV
 have HC:=Lib.hid hC
 have HB:b≤16:=by rw [←hb];exact wR x
 have HM:Hid (∀n,n≤1114112→∀t w,(binOp .mul t (.float .f64 (fl n)) (.float .f64 (qz x))).run Tryz.prog w= .ok (.float .f64 (fl (n*b))) w):=Lib.hid (by rw [←hb];exact N1 x)
 have HG:Hid (∀d,d<16→(FloatKind.f64.format.order (fl d) (qz x)==some .gt||FloatKind.f64.format.order (fl d) (qz x)==some .eq)=decide (b≤d)):=Lib.hid (by rw [←hb];exact Lo x)
 rw [hb,hV,hC]
 obtain ⟨B,hB⟩:∃B,qz x=B:=⟨_,rfl⟩
 rw [hB] at HM HG
 have hx:x=false∧B=4621819117588971520∨x=true∧B=4625196817309499392:=by
  cases x
  ·exact .inl ⟨rfl,hB.symm⟩
  ·exact .inr ⟨rfl,hB.symm⟩
 clear hV hC hb hB
 have F0:Hid (fl 0=0):=Lib.hid G4
 rcases hx with ⟨rfl,rfl⟩|⟨rfl,rfl⟩
 all_goals
  go_enter Tryz.func216,Tryz.ntmps216
  go_wp2
  go_loopw [6,12] (fun z v wr=>∃k:Nat,k≤s.size∧v= .int .i64 (k:Int)∧z= .complex .f64 (fl (go b (s.data.toList.take k))) (fl k)∧(∀c∈s.data.toList.take k,co b c=true)∧w=wr) (fun _ v _=>s.size-(ae v).toNat)
  case atStart=>exact ⟨0,Nat.zero_le _,rfl,by rw [List.take_zero,show go b []=0 from rfl,F0.out],by simp,rfl⟩
  case round=>
   obtain ⟨k,hk,rfl,rfl,hd,rfl⟩:=hrel
   have HD:=Lib.hid hd
   clear hd
   obtain ⟨n,hn⟩:∃n,go b (s.data.toList.take k)=n:=⟨_,rfl⟩
   have hn0:n≤1114112:=by rw [←hn];exact kv _ _
   have HN:=Lib.hid hn
   rw [hn]
   clear hn
   by_cases hlt:k<s.size
   ·have hc:=s[k].toNat_lt
    rcases jA (s[k].toNat:Int) (by omega) (by omega) with h|h
    ·have HX:=Lib.hid h
     have hl:=KT
     clear h
     go_wp2_with (fail)
     refine (KN _ _ (by omega) (by omega)).mono ?_
     rintro e w1 ⟨rfl,rfl⟩
     rw [HX.out]
     go_wp2
     go_ret
     have e:=fq b s k HD.out (fun h=>se b _ HX.out)
     exact ⟨by rw [←HV.out,←HC.out,e,HN.out,List.length_take,Nat.min_eq_left (by rw [←Lib.size_eq];exact hk)];rfl,rfl⟩
    ·obtain ⟨d,hd⟩:∃d:Nat,cq (s[k].toNat:Int)=(d:Int):=⟨(cq (s[k].toNat:Int)).toNat,by omega⟩
     rw [hd] at h
     have hd16:d<16:=by omega
     have HX:=Lib.hid hd
     clear h hd
     have hfo:=G3 d
     have hz:=Lm d hd16
     by_cases hlb:b≤d
     ·have hg:(FloatKind.f64.format.order (fl d) _==some .gt||FloatKind.f64.format.order (fl d) _==some .eq)=true:=(HG.out d hd16).trans (decide_eq_true hlb)
      go_wp2_with (fail)
      refine (KN _ _ (by omega) (by omega)).mono ?_
      rintro e w1 ⟨rfl,rfl⟩
      rw [HX.out]
      go_wp2
      go_ret
      have e:=fq b s k HD.out (fun h=>sg b _ d HX.out hlb)
      exact ⟨by rw [←HV.out,←HC.out,e,HN.out,List.length_take,Nat.min_eq_left (by rw [←Lib.size_eq];exact hk)];rfl,rfl⟩
     ·have hg:(FloatKind.f64.format.order (fl d) _==some .gt||FloatKind.f64.format.order (fl d) _==some .eq)=false:=(HG.out d hd16).trans (decide_eq_false hlb)
      have hm:=HM.out n hn0
      have hnb:n*b≤1114112*16:=Nat.mul_le_mul hn0 HB
      have hsm:=N2 (n*b) d k (by omega) hd16 (by omega)
      have hmost:=Lp (n*b+d) (by omega)
      have HY:=Lib.hid (oe b s[k] d HX.out (by omega))
      have HS:Hid (go b (s.data.toList.take (k+1))=ku (n*b+d)):=Lib.hid (by rw [mg s k hlt,pD,HN.out,wS b n _ d HX.out])
      by_cases hcap:1114111<n*b+d
      ·rw [decide_eq_true hcap] at hmost
       have HK:=Lib.hid (show ku (n*b+d)=1114112 by unfold ku;rw [if_pos hcap])
       clear hcap hnb
       go_wp2_with (fail)
       refine (KN _ _ (by omega) (by omega)).mono ?_
       rintro e w1 ⟨rfl,rfl⟩
       rw [HX.out]
       go_wp2
       go_roundw
       case rel=>exact ⟨k+1,by omega,by go_num,by rw [HS.out,HK.out,KS],iy b s k hlt HD.out HY.out,trivial⟩
       case measure=>simp [ae];omega
      ·rw [decide_eq_false hcap] at hmost
       have HK:=Lib.hid (show ku (n*b+d)=n*b+d by unfold ku;rw [if_neg hcap])
       clear hcap hnb
       go_wp2_with (fail)
       refine (KN _ _ (by omega) (by omega)).mono ?_
       rintro e w1 ⟨rfl,rfl⟩
       rw [HX.out]
       go_wp2
       go_roundw
       case rel=>exact ⟨k+1,by omega,by go_num,by rw [HS.out,HK.out],iy b s k hlt HD.out HY.out,trivial⟩
       case measure=>simp [ae];omega
   ·go_wp2
    go_ret
    have e:=fq b s k HD.out (fun h=>absurd h hlt)
    exact ⟨by rw [←HV.out,←HC.out,e,HN.out,List.length_take,Nat.min_eq_left (by rw [←Lib.size_eq];exact hk)];rfl,rfl⟩
end Go.Proofs.YtajpoodpbbbkfaaGreatDoor
namespace Go.Proofs.YtajpoodpbbbkfaaGreatDoor
open Go.RowKit Go.Lib
def iK (w:World):Prop:=1<w.heap.size∧∀i,i<32→w.cell? ⟨1,i,none⟩=some (.int .i64 (qY.getD i 0))
theorem iK.below {w w':World} (h:iK w) (hb:Below w.heap.size w w'):iK w':=
 ⟨Nat.lt_of_lt_of_le h.1 hb.size,fun i hi=>by rw [hb.cell (p:=⟨1,i,none⟩) h.1];exact h.2 i hi⟩
theorem iK.drawn {w:World} (h:iK w) (n:Nat):iK (w.drewN n):=⟨h.1,h.2⟩
theorem y4 (n:Int) (h:q6 n<0):fh n=⟨#[239,191,189]⟩:=by
 unfold fh;rw [encodeRune,encodeRuneZ_bad (.inl h)];rfl
theorem PV (n:Int) (w:World) (h0: -9223372036854775808≤n) (h1:n≤9223372036854775807) (hT:iK w):Calls Tryz.prog 217 #[.int .i64 n] w fun e w'=>e= .returned (.string (fh n))∧w=w':=by
 by_cases hz:n=0
 ·subst hz
  have HB:=Lib.hid (y4 0 (by decide))
  go_enter Tryz.func217,Tryz.ntmps217
  go_wp2
  go_ret
  exact ⟨aO HB.out.symm,rfl⟩
 have hz':(n==0)=false:=by simpa using hz
 by_cases hr:128≤n∧n<160
 ·obtain ⟨i,hi⟩:∃i:Nat,n=128+(i:Int):=⟨(n-128).toNat,by omega⟩
  subst hi
  have hi:i<32:=by omega
  have HF:Hid (fh (128+(i:Int))=⟨(encodeRune (qY.getD i 0)).toArray⟩):=Lib.hid (by
   unfold fh q6;rw [if_neg hz,if_pos hr,show (128+(i:Int)-128).toNat=i by omega])
  have hc:=hT.2 i hi
  obtain ⟨q,hq⟩:∃q,qY.getD i 0=q:=⟨_,rfl⟩
  rw [hq] at hc HF
  obtain ⟨hr1,hr2⟩:=hr
  have ii:(i:Int)<32:=by omega
  clear hz hT hq
  rw [HF.out]
  go_enter Tryz.func217,Tryz.ntmps217
  go_wp2_with (fail)
  refine (n8 _ _).mono ?_
  rintro e w1 ⟨rfl,rfl⟩
  go_wp2
  go_ret
  exact ⟨rfl,rfl⟩
 ·have HF:Hid (fh n=⟨(encodeRune n).toArray⟩):=Lib.hid (by
   unfold fh q6;rw [if_neg hz,if_neg hr])
  rw [HF.out]
  by_cases h2:128≤n
  ·have h3:160≤n:=by omega
   clear hz hr
   go_enter Tryz.func217,Tryz.ntmps217
   go_wp2_with (fail)
   refine (n8 _ _).mono ?_
   rintro e w1 ⟨rfl,rfl⟩
   go_wp2
   go_ret
   exact ⟨rfl,rfl⟩
  ·have h3:n<128:=by omega
   clear hz hr
   go_enter Tryz.func217,Tryz.ntmps217
   go_wp2_with (fail)
   refine (n8 _ _).mono ?_
   rintro e w1 ⟨rfl,rfl⟩
   go_wp2
   go_ret
   exact ⟨rfl,rfl⟩
theorem H8 (n:Nat) (hn:n<2 ^ 53) (w:World):(convert 183 3 (.float .f64 (fl n))).run Tryz.prog w= .ok (.int .i64 (n:Int)) w:=
 run_convert_float_int w 183 3 .f64 .i64 (fl n) n (by rw [Tryz.underlying183];rfl) Tryz.underlying3 (G0 n hn)
theorem br (s:ByteArray) (k:Nat):(s.extract k s.size).data.toList=s.data.toList.drop k:=by
 rw [extract_data,List.take_of_length_le (by rw [List.length_drop,←Lib.size_eq];omega)]
theorem DD (c:Nat) (hc:c<2 ^ 53):(FloatKind.f64.format.order (fl c) 0==some .eq)=decide (c=0):=by
 have e:=lc c 0 hc (by decide)
 rw [G4] at e
 rw [e]
 by_cases h:c=0
 ·subst h;decide
 ·rw [Nat.compare_eq_gt.2 (by omega),decide_eq_false h];rfl
theorem wT (s:ByteArray) (e:Nat) (a:Int) (ha:a=(e:Int)):bf s a ⟨#[59]⟩=decide (s.data.toList.getD e 0=59):=by
 rw [ha,iJ s e 59 (by decide),decide_eq_decide];exact oc _ _ (.inr rfl)
theorem EW (s:ByteArray) (k:Nat) (w:World) (hs:s.size≤1099511627776) (h35:s.data.toList.getD k 0=35) (hne:aD s.data.toList k=[]):Calls Tryz.prog 188 #[.string s,.int .i64 (k:Int)] w fun e w'=>e= .returned (.tuple #[.string ⟨#[]⟩,.int .i64 (k:Int),.bool false])∧∃n,w'=w.drewN n:=by
 have hk:k<s.size:=cg s k (by rw [h35];decide)
 have HB0:Hid (bf s (k:Int) ⟨#[35]⟩=true):=Lib.hid (by
  rw [iJ s k 35 (by decide),decide_eq_true_eq];exact (oc _ _ (.inl rfl)).2 h35)
 obtain ⟨X,hX⟩:∃X,nR s.data.toList (k+1)=X:=⟨_,rfl⟩
 have HBX:Hid (bf s ((k:Int)+1) ⟨#[120]⟩=X):=Lib.hid (by
  rw [show (k:Int)+1=((k+1:Nat):Int) by omega,iJ s (k+1) 120 (by decide),←hX,nR,decide_eq_decide];exact H6 _)
 have hlt:=pE s k hk
 have hq:=(DD 0 (by decide)).trans (decide_eq_true rfl)
 have HN:=Lib.hid hne
 rw [hne] at hlt
 clear h35 hne
 have HX:=Lib.hid hX
 clear hX
 cases X
 focus
  have HF:Hid (bD s.data.toList k=k+1):=Lib.hid (by unfold bD;rw [HX.out];rfl)
  rw [HF.out] at hlt
  have g1:(k:Int)+1≤(s.size:Int):=by omega
  have hD:fy (cW false) (s.extract (k+1) s.size).data.toList=aD s.data.toList k:=by
   rw [br];unfold aD;rw [HX.out,HF.out]
 rotate_left
 focus
  have HF:Hid (bD s.data.toList k=k+1+1):=Lib.hid (by unfold bD;rw [HX.out];rfl)
  rw [HF.out] at hlt
  have g1:(k:Int)+1≤(s.size:Int):=by omega
  have g2:(k:Int)+1+1≤(s.size:Int):=by have:=(od s _ HX.out);omega
  have hD:fy (cW true) (s.extract (k+1+1) s.size).data.toList=aD s.data.toList k:=by
   rw [br];unfold aD;rw [HX.out,HF.out]
 rotate_left
 all_goals
  have HD:=Lib.hid hD
  clear hD
  go_enter Tryz.func188,Tryz.ntmps188
  go_wp2_with (fail)
  refine (cB s _ ⟨#[35]⟩ _ hs (by decide) (by omega) (by omega)).mono ?_
  rintro e w1 ⟨rfl,n1,rfl⟩
  rw [HB0.out]
  go_wp2_with (fail)
  refine (cB s _ ⟨#[120]⟩ _ hs (by decide) (by omega) (by omega)).mono ?_
  rintro e w1 ⟨rfl,n2,rfl⟩
  rw [HBX.out]
  go_wp2_with (fail)
  refine (H7 _ _ _ (by rw [ByteArray.size_extract];omega)).mono ?_
  rintro e w1 ⟨rfl,rfl⟩
  rw [HD.out,HN.out]
  go_wp2
  go_ret3
  exact ⟨rfl,_,rfl⟩
theorem Ia (s:ByteArray) (k:Nat) (w:World) (hs:s.size≤1099511627776) (hr:aX s.data.toList (k:Int)=true) (hT:iK w):Calls Tryz.prog 188 #[.string s,.int .i64 (k:Int)] w fun e w'=>e= .returned (.tuple #[.string (fh (fK s.data.toList k)),.int .i64 (cH s.data.toList k:Nat),.bool true])∧∃n,w'=w.drewN n:=by
 unfold aX at hr
 rw [decide_eq_true_eq,show ((k:Nat):Int).toNat=k by omega] at hr
 obtain ⟨-,h35,hne⟩:=hr
 have hk:k<s.size:=cg s k (by rw [h35];decide)
 have HB0:Hid (bf s (k:Int) ⟨#[35]⟩=true):=Lib.hid (by
  rw [iJ s k 35 (by decide),decide_eq_true_eq];exact (oc _ _ (.inl rfl)).2 h35)
 obtain ⟨X,hX⟩:∃X,nR s.data.toList (k+1)=X:=⟨_,rfl⟩
 have HBX:Hid (bf s ((k:Int)+1) ⟨#[120]⟩=X):=Lib.hid (by
  rw [show (k:Int)+1=((k+1:Nat):Int) by omega,iJ s (k+1) 120 (by decide),←hX,nR,decide_eq_decide];exact H6 _)
 have hlt:=pE s k hk
 obtain ⟨R,hR⟩:∃R,fh (fK s.data.toList k)=R:=⟨_,rfl⟩
 obtain ⟨E,hE⟩:∃E,cH s.data.toList k=E:=⟨_,rfl⟩
 have hvl:=kv (cW (nR s.data.toList (k+1))) (aD s.data.toList k)
 obtain ⟨v,hv⟩:∃v,fK s.data.toList k=v:=⟨_,rfl⟩
 rw [←fK,hv] at hvl
 obtain ⟨c,hc⟩:∃c,(aD s.data.toList k).length=c:=⟨_,rfl⟩
 have hc0:c≠0:=fun h=>hne (List.length_eq_zero_iff.1 (hc.trans h))
 rw [hc] at hlt
 have HR:=Lib.hid hR
 have HE:=Lib.hid hE
 have HV:=Lib.hid hv
 have HC:=Lib.hid hc
 have hq:=(DD c (by omega)).trans (decide_eq_false hc0)
 have hvi:=H8 v (by omega)
 have hci:=H8 c (by omega)
 rw [hR,hE]
 clear h35 hR hE hv hc hc0 hne
 have HX:=Lib.hid hX
 clear hX
 cases X
 focus
  have HF:Hid (bD s.data.toList k=k+1):=Lib.hid (by unfold bD;rw [HX.out];rfl)
  rw [HF.out] at hlt
  have g1:(k:Int)+1≤(s.size:Int):=by omega
  have hD:fy (cW false) (s.extract (k+1) s.size).data.toList=aD s.data.toList k:=by
   rw [br];unfold aD;rw [HX.out,HF.out]
  have HD:=Lib.hid hD
  clear hD
  go_enter Tryz.func188,Tryz.ntmps188
  go_wp2_with (fail)
  refine (cB s _ ⟨#[35]⟩ _ hs (by decide) (by omega) (by omega)).mono ?_
  rintro e w1 ⟨rfl,n1,rfl⟩
  rw [HB0.out]
  go_wp2_with (fail)
  refine (cB s _ ⟨#[120]⟩ _ hs (by decide) (by omega) (by omega)).mono ?_
  rintro e w1 ⟨rfl,n2,rfl⟩
  rw [HBX.out]
  go_wp2_with (fail)
  refine (H7 _ _ _ (by rw [ByteArray.size_extract];omega)).mono ?_
  rintro e w1 ⟨rfl,rfl⟩
  rw [HD.out,HC.out,show go (cW false) (aD s.data.toList k)=v by rw [←HV.out,fK,HX.out]]
  by_cases h59:s.data.toList.getD (k+1+c) 0=59
 focus
  have HS:Hid (bf s ((k:Int)+1+(c:Int)) ⟨#[59]⟩=true):=Lib.hid (by rw [wT s (k+1+c) _ (by omega),decide_eq_true h59])
  have HEE:Hid (E=k+1+c+1):=Lib.hid (by rw [←HE.out];unfold cH;rw [HF.out,HC.out,if_pos h59])
 rotate_left
 focus
  have HS:Hid (bf s ((k:Int)+1+(c:Int)) ⟨#[59]⟩=false):=Lib.hid (by rw [wT s (k+1+c) _ (by omega),decide_eq_false h59])
  have HEE:Hid (E=k+1+c):=Lib.hid (by rw [←HE.out];unfold cH;rw [HF.out,HC.out,if_neg h59])
 rotate_left
 focus
  have HF:Hid (bD s.data.toList k=k+1+1):=Lib.hid (by unfold bD;rw [HX.out];rfl)
  rw [HF.out] at hlt
  have g1:(k:Int)+1≤(s.size:Int):=by omega
  have g2:(k:Int)+1+1≤(s.size:Int):=by have:=(od s _ HX.out);omega
  have hD:fy (cW true) (s.extract (k+1+1) s.size).data.toList=aD s.data.toList k:=by
   rw [br];unfold aD;rw [HX.out,HF.out]
  have HD:=Lib.hid hD
  clear hD
  go_enter Tryz.func188,Tryz.ntmps188
  go_wp2_with (fail)
  refine (cB s _ ⟨#[35]⟩ _ hs (by decide) (by omega) (by omega)).mono ?_
  rintro e w1 ⟨rfl,n1,rfl⟩
  rw [HB0.out]
  go_wp2_with (fail)
  refine (cB s _ ⟨#[120]⟩ _ hs (by decide) (by omega) (by omega)).mono ?_
  rintro e w1 ⟨rfl,n2,rfl⟩
  rw [HBX.out]
  go_wp2_with (fail)
  refine (H7 _ _ _ (by rw [ByteArray.size_extract];omega)).mono ?_
  rintro e w1 ⟨rfl,rfl⟩
  rw [HD.out,HC.out,show go (cW true) (aD s.data.toList k)=v by rw [←HV.out,fK,HX.out]]
  by_cases h59:s.data.toList.getD (k+1+1+c) 0=59
 focus
  have HS:Hid (bf s ((k:Int)+1+1+(c:Int)) ⟨#[59]⟩=true):=Lib.hid (by rw [wT s (k+1+1+c) _ (by omega),decide_eq_true h59])
  have HEE:Hid (E=k+1+1+c+1):=Lib.hid (by rw [←HE.out];unfold cH;rw [HF.out,HC.out,if_pos h59])
 rotate_left
 focus
  have HS:Hid (bf s ((k:Int)+1+1+(c:Int)) ⟨#[59]⟩=false):=Lib.hid (by rw [wT s (k+1+1+c) _ (by omega),decide_eq_false h59])
  have HEE:Hid (E=k+1+1+c):=Lib.hid (by rw [←HE.out];unfold cH;rw [HF.out,HC.out,if_neg h59])
 rotate_left
 all_goals
  clear h59
  go_wp2_with (fail)
  refine (cB s _ ⟨#[59]⟩ _ hs (by decide) (by omega) (by omega)).mono ?_
  rintro e w1 ⟨rfl,n3,rfl⟩
  rw [HS.out]
  go_wp2_with (fail)
  refine (PV v _ (by omega) (by omega) (hT.drawn _)).mono ?_
  rintro e w1 ⟨rfl,rfl⟩
  go_wp2
  go_ret3
  exact ⟨by rw [←HR.out,HV.out,HEE.out];simp,_,rfl⟩
def sh (l:List UInt8) (a:Int):ByteArray:=if aX l a then fh (fK l a.toNat) else ⟨#[]⟩
def si (l:List UInt8) (a:Int):Int:=if aX l a then (cH l a.toNat:Nat) else a
theorem kw {l:List UInt8} {a:Int} (h:aX l a=false):sh l a=⟨#[]⟩:=by unfold sh;rw [h];rfl
theorem kx {l:List UInt8} {a:Int} (h:aX l a=false):si l a=a:=by unfold si;rw [h];rfl
theorem jC {l:List UInt8} {k:Nat} (h:aX l (k:Int)=true):sh l (k:Int)=fh (fK l k):=by unfold sh;rw [h];rfl
theorem jD {l:List UInt8} {k:Nat} (h:aX l (k:Int)=true):si l (k:Int)=(cH l k:Nat):=by unfold si;rw [h];rfl
theorem read (s:ByteArray) (a:Int) (w:World) (hs:s.size≤1099511627776) (ha: -9223372036854775808≤a) (hb:a≤9223372036854775807) (hT:iK w):Calls Tryz.prog 188 #[.string s,.int .i64 a] w fun e w'=>e= .returned (.tuple #[.string (sh s.data.toList a),.int .i64 (si s.data.toList a),.bool (aX s.data.toList a)])∧∃n,w'=w.drewN n:=by
 by_cases hr:aX s.data.toList a=true
 ·have h0:0≤a:=by
   unfold aX at hr
   rw [decide_eq_true_eq] at hr
   exact hr.1
  obtain ⟨k,rfl⟩:∃k:Nat,a=k:=⟨a.toNat,by omega⟩
  rw [jC hr,jD hr,hr]
  exact Ia s k w hs hr hT
 ·have hr':aX s.data.toList a=false:=by simpa using hr
  rw [kw hr',kx hr',hr']
  by_cases hq:0≤a∧s.data.toList.getD a.toNat 0=35
  ·obtain ⟨h0,h35⟩:=hq
   obtain ⟨k,rfl⟩:∃k:Nat,a=k:=⟨a.toNat,by omega⟩
   rw [show ((k:Nat):Int).toNat=k by omega] at h35
   refine EW s k w hs h35 ?_
   unfold aX at hr'
   rw [decide_eq_false_iff_not,show ((k:Nat):Int).toNat=k by omega] at hr'
   by_cases hd:aD s.data.toList k=[]
   ·exact hd
   ·exact absurd ⟨h0,h35,hd⟩ hr'
  ·have HB:Hid (bf s a ⟨#[35]⟩=false):=Lib.hid (by
    by_cases h0:a<0
    ·exact yY s a _ h0
    ·obtain ⟨k,rfl⟩:∃k:Nat,a=k:=⟨a.toNat,by omega⟩
     rw [iJ s k 35 (by decide),decide_eq_false_iff_not]
     intro h
     refine hq ⟨by omega,?_⟩
     rw [show ((k:Nat):Int).toNat=k by omega]
     exact (oc _ _ (.inl rfl)).1 h)
   clear hr hr' hq
   go_enter Tryz.func188,Tryz.ntmps188
   go_wp2_with (fail)
   refine (cB s _ ⟨#[35]⟩ _ hs (by decide) ha hb).mono ?_
   rintro e w1 ⟨rfl,n1,rfl⟩
   rw [HB.out]
   go_wp2
   go_ret3
   exact ⟨rfl,_,rfl⟩
end Go.Proofs.YtajpoodpbbbkfaaGreatDoor
namespace Go.Proofs.YtajpoodpbbbkfaaGreatDoor
open Go.RowKit Go.Lib
theorem wV (n:Int) (w:World) (h0: -9223372036854775808≤n) (h1:n≤9223372036854775807):Calls Tryz.prog 239 #[.int .i64 n] w fun e w'=>e= .returned (.string (fh n))∧Below w.heap.size w w':=by
 by_cases hz:n<1
 ·have HB:=Lib.hid (y4 n (by unfold q6;split;decide;rw [if_neg (by omega)];omega))
  go_enter Tryz.func239,Tryz.ntmps239
  go_wp2
  go_ret
  exact ⟨aO HB.out.symm,Below.refl _ _⟩
 by_cases hm:1114111<n
 ·have HB:Hid (fh n=⟨#[239,191,189]⟩):=Lib.hid (by
   unfold fh q6;rw [if_neg (by omega),if_neg (by omega),encodeRune,encodeRuneZ_bad (.inr (.inr hm))];rfl)
  go_enter Tryz.func239,Tryz.ntmps239
  go_wp2
  go_ret
  exact ⟨aO HB.out.symm,Below.refl _ _⟩
 by_cases hr:128≤n∧n<160
 ·obtain ⟨i,hi⟩:∃i:Nat,n=128+(i:Int):=⟨(n-128).toNat,by omega⟩
  subst hi
  have hi:i<32:=by omega
  have HF:Hid (fh (128+(i:Int))=⟨(encodeRune (qY.getD i 0)).toArray⟩):=Lib.hid (by
   unfold fh q6;rw [if_neg (by omega),if_pos hr,show (128+(i:Int)-128).toNat=i by omega])
  obtain ⟨q,hq⟩:∃q,qY.getD i 0=q:=⟨_,rfl⟩
  have hc:∀W:World,(W.alloc (.cells (qY.map (Value.int .i64)).toArray 3)).cell? ⟨W.heap.size,i,none⟩=some (.int .i64 q):=by
   intro W
   rw [World.cell?_alloc_mark,List.getElem?_toArray,List.getElem?_map,List.getElem?_eq_getElem (by exact hi),←hq,List.getD_eq_getElem?_getD,List.getElem?_eq_getElem (by exact hi)]
   rfl
  simp only [qY,List.map_cons,List.map_nil] at hc
  rw [hq] at HF
  obtain ⟨hr1,hr2⟩:=hr
  have ii:(i:Int)<32:=by omega
  clear hz hm hq
  rw [HF.out]
  go_enter Tryz.func239,Tryz.ntmps239
  go_wp2_with (fail)
  refine (iG q _).mono ?_
  rintro e w1 ⟨rfl,hb1⟩
  go_wp2
  go_ret
  exact ⟨rfl,((Below.refl _ w).alloc (Nat.le_refl _) _).trans (hb1.mono (by simp))⟩
 ·have HF:Hid (fh n=⟨(encodeRune n).toArray⟩):=Lib.hid (by
   unfold fh q6;rw [if_neg (by omega),if_neg hr])
  rw [HF.out]
  have g0:1≤n:=by omega
  have g1:n≤1114111:=by omega
  by_cases h2:128≤n
  ·have h3:160≤n:=by omega
   clear hz hr hm
   go_enter Tryz.func239,Tryz.ntmps239
   go_wp2_with (fail)
   refine (iG n _).mono ?_
   rintro e w1 ⟨rfl,hb1⟩
   go_wp2
   go_ret
   exact ⟨rfl,((Below.refl _ w).alloc (Nat.le_refl _) _).trans (hb1.mono (by simp))⟩
  ·have h3:n<128:=by omega
   clear hz hr hm
   go_enter Tryz.func239,Tryz.ntmps239
   go_wp2_with (fail)
   refine (iG n _).mono ?_
   rintro e w1 ⟨rfl,hb1⟩
   go_wp2
   go_ret
   exact ⟨rfl,((Below.refl _ w).alloc (Nat.le_refl _) _).trans (hb1.mono (by simp))⟩
theorem fL (s:ByteArray) (x:Bool) (w:World) (hs:s.size≤1099511627776):Calls Tryz.prog 238 #[.string s,.bool x] w fun e w'=>e= .returned (.int .i64 (lr x s.data.toList))∧w=w':=by
 obtain ⟨V,hV⟩:∃V,lr x s.data.toList=V:=⟨_,rfl⟩
 have HV:=Lib.hid hV
 rw [hV]
 clear hV
 have hlen:s.data.toList.length=s.size:=(Lib.size_eq s).symm
 have HL:=Lib.hid hlen
 clear hlen
 by_cases hz:s.size=0
 ·have hz0:(s.size:Int)=0:=by omega
  have HA:Hid (V= -1):=Lib.hid (by rw [←HV.out,lr];exact if_pos (.inl (List.length_eq_zero_iff.1 (by rw [HL.out];exact hz))))
  clear hz
  cases x
  all_goals
   go_enter Tryz.func238,Tryz.ntmps238
   go_wp2
   go_ret
   exact ⟨az HA.out.symm,rfl⟩
 ·have hz0:((s.size:Int)==0)=false:=by rw [beq_eq_false_iff_ne];omega
  have hne:s.data.toList≠[]:=fun h=>hz (by rw [←HL.out,h];rfl)
  have HNE:=Lib.hid hne
  obtain ⟨b,hb⟩:∃b,cW x=b:=⟨_,rfl⟩
  have HW:Hid (V=if s.data.toList=[]∨(fy b s.data.toList).length<s.data.toList.length then-1 else (go b s.data.toList:Int)):=Lib.hid (by rw [←HV.out,←hb];rfl)
  have hx:x=false∧b=10∨x=true∧b=16:=by
   cases x
   ·exact .inl ⟨rfl,hb.symm⟩
   ·exact .inr ⟨rfl,hb.symm⟩
  clear hz hb hne HV
  rcases hx with ⟨rfl,rfl⟩|⟨rfl,rfl⟩
  ·go_enter Tryz.func238,Tryz.ntmps238
   go_wp2
   go_loopw [6,7] (fun z v wr=>∃k n:Nat,k≤s.size∧v= .int .i64 (k:Int)∧z= .int .i64 (n:Int)∧n≤1114112∧go 10 (s.data.toList.take k)=n∧(∀c∈s.data.toList.take k,co 10 c=true)∧w=wr) (fun _ v _=>s.size-(ae v).toNat)
   case atStart=>exact ⟨0,0,Nat.zero_le _,rfl,rfl,Nat.zero_le _,rfl,by simp,rfl⟩
   case round=>
    obtain ⟨k,n,hk,rfl,rfl,hn0,hn,hd,rfl⟩:=hrel
    have HD:=Lib.hid hd
    have HN:=Lib.hid hn
    clear hd hn
    by_cases hlt:k<s.size
    ·have hc:=s[k].toNat_lt
     rcases jA (s[k].toNat:Int) (by omega) (by omega) with h|h
     ·have HX:=Lib.hid h
      clear h
      go_wp2_with (fail)
      refine (eS _ _ (by omega) (by omega)).mono ?_
      rintro e w1 ⟨rfl,rfl⟩
      rw [HX.out]
      go_wp2
      go_ret
      have e:=fq 10 s k HD.out (fun h=>se 10 _ HX.out)
      exact ⟨az (by rw [HW.out];exact (if_pos (.inr (by rw [e,List.length_take,HL.out,Nat.min_eq_left hk];exact hlt))).symm),rfl⟩
     ·obtain ⟨d,hd⟩:∃d:Nat,cq (s[k].toNat:Int)=(d:Int):=⟨(cq (s[k].toNat:Int)).toNat,by omega⟩
      rw [hd] at h
      have hd16:d<16:=by omega
      have HX:=Lib.hid hd
      clear h hd
      by_cases hlb:10≤d
      ·go_wp2_with (fail)
       refine (eS _ _ (by omega) (by omega)).mono ?_
       rintro e w1 ⟨rfl,rfl⟩
       rw [HX.out]
       go_wp2
       go_ret
       have e:=fq 10 s k HD.out (fun h=>sg 10 _ d HX.out hlb)
       exact ⟨az (by rw [HW.out];exact (if_pos (.inr (by rw [e,List.length_take,HL.out,Nat.min_eq_left hk];exact hlt))).symm),rfl⟩
      ·have hlt2:d<10:=by omega
       have HY:=Lib.hid (oe 10 s[k] d HX.out hlt2)
       have HS:Hid (go 10 (s.data.toList.take (k+1))=ku (n*10+d)):=Lib.hid (by rw [mg s k hlt,pD,HN.out,wS 10 n _ d HX.out])
       by_cases hcap:1114112<(n:Int)*10+(d:Int)
       ·have HK:=Lib.hid (show ku (n*10+d)=1114112 by unfold ku;rw [if_pos (by omega)])
        go_wp2_with (fail)
        refine (eS _ _ (by omega) (by omega)).mono ?_
        rintro e w1 ⟨rfl,rfl⟩
        rw [HX.out]
        go_wp2
        go_roundw
        case rel=>exact ⟨k+1,1114112,by omega,by go_num,rfl,Nat.le_refl _,by rw [HS.out,HK.out],iy 10 s k hlt HD.out HY.out,trivial⟩
        case measure=>simp [ae];omega
       ·have HK:=Lib.hid (show ku (n*10+d)=n*10+d by unfold ku;split<;>omega)
        go_wp2_with (fail)
        refine (eS _ _ (by omega) (by omega)).mono ?_
        rintro e w1 ⟨rfl,rfl⟩
        rw [HX.out]
        go_wp2
        go_roundw
        case rel=>exact ⟨k+1,n*10+d,by omega,by go_num,by go_num,by omega,by rw [HS.out,HK.out],iy 10 s k hlt HD.out HY.out,trivial⟩
        case measure=>simp [ae];omega
    ·go_wp2
     go_ret
     have e:=fq 10 s k HD.out (fun h=>absurd h hlt)
     have e2:s.data.toList.take k=s.data.toList:=List.take_of_length_le (by rw [HL.out];omega)
     exact ⟨az (by rw [HW.out,if_neg (by rw [e,e2];rintro (h|h);exact HNE.out h;exact Nat.lt_irrefl _ h),←HN.out,e2]),rfl⟩
  ·go_enter Tryz.func238,Tryz.ntmps238
   go_wp2
   go_loopw [6,7] (fun z v wr=>∃k n:Nat,k≤s.size∧v= .int .i64 (k:Int)∧z= .int .i64 (n:Int)∧n≤1114112∧go 16 (s.data.toList.take k)=n∧(∀c∈s.data.toList.take k,co 16 c=true)∧w=wr) (fun _ v _=>s.size-(ae v).toNat)
   case atStart=>exact ⟨0,0,Nat.zero_le _,rfl,rfl,Nat.zero_le _,rfl,by simp,rfl⟩
   case round=>
    obtain ⟨k,n,hk,rfl,rfl,hn0,hn,hd,rfl⟩:=hrel
    have HD:=Lib.hid hd
    have HN:=Lib.hid hn
    clear hd hn
    by_cases hlt:k<s.size
    ·have hc:=s[k].toNat_lt
     rcases jA (s[k].toNat:Int) (by omega) (by omega) with h|h
     ·have HX:=Lib.hid h
      clear h
      go_wp2_with (fail)
      refine (eS _ _ (by omega) (by omega)).mono ?_
      rintro e w1 ⟨rfl,rfl⟩
      rw [HX.out]
      go_wp2
      go_ret
      have e:=fq 16 s k HD.out (fun h=>se 16 _ HX.out)
      exact ⟨az (by rw [HW.out];exact (if_pos (.inr (by rw [e,List.length_take,HL.out,Nat.min_eq_left hk];exact hlt))).symm),rfl⟩
     ·obtain ⟨d,hd⟩:∃d:Nat,cq (s[k].toNat:Int)=(d:Int):=⟨(cq (s[k].toNat:Int)).toNat,by omega⟩
      rw [hd] at h
      have hd16:d<16:=by omega
      have HX:=Lib.hid hd
      clear h hd
      by_cases hlb:16≤d
      ·exact absurd hlb (by omega)
      ·have hlt2:d<16:=by omega
       have HY:=Lib.hid (oe 16 s[k] d HX.out hlt2)
       have HS:Hid (go 16 (s.data.toList.take (k+1))=ku (n*16+d)):=Lib.hid (by rw [mg s k hlt,pD,HN.out,wS 16 n _ d HX.out])
       by_cases hcap:1114112<(n:Int)*16+(d:Int)
       ·have HK:=Lib.hid (show ku (n*16+d)=1114112 by unfold ku;rw [if_pos (by omega)])
        go_wp2_with (fail)
        refine (eS _ _ (by omega) (by omega)).mono ?_
        rintro e w1 ⟨rfl,rfl⟩
        rw [HX.out]
        go_wp2
        go_roundw
        case rel=>exact ⟨k+1,1114112,by omega,by go_num,rfl,Nat.le_refl _,by rw [HS.out,HK.out],iy 16 s k hlt HD.out HY.out,trivial⟩
        case measure=>simp [ae];omega
       ·have HK:=Lib.hid (show ku (n*16+d)=n*16+d by unfold ku;split<;>omega)
        go_wp2_with (fail)
        refine (eS _ _ (by omega) (by omega)).mono ?_
        rintro e w1 ⟨rfl,rfl⟩
        rw [HX.out]
        go_wp2
        go_roundw
        case rel=>exact ⟨k+1,n*16+d,by omega,by go_num,by go_num,by omega,by rw [HS.out,HK.out],iy 16 s k hlt HD.out HY.out,trivial⟩
        case measure=>simp [ae];omega
    ·go_wp2
     go_ret
     have e:=fq 16 s k HD.out (fun h=>absurd h hlt)
     have e2:s.data.toList.take k=s.data.toList:=List.take_of_length_le (by rw [HL.out];omega)
     exact ⟨az (by rw [HW.out,if_neg (by rw [e,e2];rintro (h|h);exact HNE.out h;exact Nat.lt_irrefl _ h),←HN.out,e2]),rfl⟩
end Go.Proofs.YtajpoodpbbbkfaaGreatDoor
namespace Go.Proofs.YtajpoodpbbbkfaaGreatDoor
open Go.RowKit Go.Lib
theorem jf (b:Nat) (L:List UInt8) (j:Nat) (hd:∀c∈L.take j,co b c=true) (h:L.drop j=[]∨∃c t,L.drop j=c::t∧co b c=false):fy b L=L.take j:=by
 have e:fy b (L.take j++L.drop j)=L.take j:=by
  unfold fy
  rw [List.takeWhile_append_of_pos hd]
  rcases h with h|⟨c,t,h,hc⟩
  ·rw [h,List.takeWhile_nil,List.append_nil]
  ·rw [h,List.takeWhile_cons_of_neg (by rw [hc];exact Bool.false_ne_true),List.append_nil]
 rwa [List.take_append_drop] at e
theorem y5 (L:List UInt8) (j:Nat) (c:UInt8) (t:List UInt8) (h:L.drop j=c::t):L.take (j+1)=L.take j++[c]:=by
 have hj:j<L.length:=by
  rcases Nat.lt_or_ge j L.length with h1|h1
  ·exact h1
  ·rw [List.drop_eq_nil_of_le h1] at h;cases h
 rw [List.drop_eq_getElem_cons hj] at h
 injection h with h1 h2
 rw [List.take_succ_eq_append_getElem hj,h1]
theorem iL (b:Nat) (L:List UInt8):fy b (fy b L)=fy b L:=by
 have h:=jf b (fy b L) (fy b L).length (by
  intro c hc
  rw [List.take_length] at hc
  have:=List.all_takeWhile (l:=L) (p:=co b)
  exact List.all_eq_true.1 this c hc) (.inl List.drop_length)
 rwa [List.take_length] at h
theorem jE (x:Bool) (L:List UInt8) (h:fy (cW x) L=L) (hne:L≠[]):lr x L=(go (cW x) L:Int):=by
 unfold lr
 rw [if_neg]
 rintro (e|e)
 ·exact hne e
 ·rw [h] at e;exact Nat.lt_irrefl _ e
theorem jF (x:Bool):lr x []= -1:=by unfold lr;exact if_pos (.inl rfl)
theorem ud (s:ByteArray) (f j:Nat):(s.extract f (f+j)).data.toList=(s.data.toList.drop f).take j:=by
 rw [extract_data,show f+j-f=j by omega]
theorem iN (s:ByteArray) (f j:Nat) (h:f+j<s.size):(s.data.toList.drop f).drop j=s[f+j]::s.data.toList.drop (f+j+1):=by
 rw [List.drop_drop];exact aj s (f+j) h
theorem pF (s:ByteArray) (f j:Nat) (h:¬f+j<s.size):(s.data.toList.drop f).drop j=[]:=by
 rw [List.drop_drop];exact List.drop_eq_nil_of_le (by rw [←Lib.size_eq];omega)
theorem sj {l:List UInt8} {k:Nat} (hRD:aX l (k:Int)=decide (aD l k≠[])) (h:aD l k=[]):sh l (k:Int)=⟨#[]⟩∧si l (k:Int)=(k:Int)∧aX l (k:Int)=false:=by
 have hf:aX l (k:Int)=false:=by rw [hRD,h];rfl
 exact ⟨kw hf,kx hf,hf⟩
theorem og {l:List UInt8} {k:Nat} (hRD:aX l (k:Int)=decide (aD l k≠[])) (h:aD l k≠[]):sh l (k:Int)=fh (fK l k)∧si l (k:Int)=(cH l k:Nat)∧aX l (k:Int)=true:=by
 have hf:aX l (k:Int)=true:=by rw [hRD];exact decide_eq_true h
 exact ⟨jC hf,jD hf,hf⟩
theorem dU (s:ByteArray) (f j:Nat) (h:f+j≤s.size):((s.data.toList.drop f).take j).length=j:=by
 rw [List.length_take,List.length_drop,←Lib.size_eq];omega
theorem Bz (s:ByteArray) (k:Nat) (w:World) (hs:s.size≤1099511627776) (h35:s.data.toList.getD k 0=35):Calls Tryz.prog 225 #[.string s,.int .i64 (k:Int)] w fun e w'=>e= .returned (.tuple #[.string (sh s.data.toList (k:Int)),.int .i64 (si s.data.toList (k:Int)),.bool (aX s.data.toList (k:Int))])∧Below w.heap.size w w':=by
 have hk:k<s.size:=cg s k (by rw [h35];decide)
 have i35:((s[k].toNat:Nat):Int)=35:=by rw [←df s k hk,h35];rfl
 have hRD:aX s.data.toList (k:Int)=decide (aD s.data.toList k≠[]):=by
  unfold aX
  rw [show ((k:Nat):Int).toNat=k by omega,decide_eq_decide]
  exact ⟨fun h=>h.2.2,fun h=>⟨by omega,h35,h⟩⟩
 obtain ⟨T,hT⟩:∃T,sh s.data.toList (k:Int)=T:=⟨_,rfl⟩
 obtain ⟨N,hN⟩:∃N,si s.data.toList (k:Int)=N:=⟨_,rfl⟩
 obtain ⟨O,hO⟩:∃O,aX s.data.toList (k:Int)=O:=⟨_,rfl⟩
 have HT:=Lib.hid hT
 have HN:=Lib.hid hN
 have HO:=Lib.hid hO
 have HRD:=Lib.hid hRD
 rw [hT,hN,hO]
 have hfl:=wQ s k hk
 obtain ⟨X,hX⟩:∃X,nR s.data.toList (k+1)=X:=⟨_,rfl⟩
 have HX:=Lib.hid hX
 clear h35 hRD hT hN hO hX
 have I35:=Lib.hid i35
 have b35:(((s[k].toNat:Nat):Int) != 35)=false:=by rw [i35];rfl
 clear i35
 have hk0:decide ((k:Int)<0)=false:=decide_eq_false (by omega)
 have i1:(k:Int)<(s.size:Int):=by omega
 cases X
 ·have HF:Hid (bD s.data.toList k=k+1):=Lib.hid (by unfold bD;rw [HX.out];rfl)
  rw [HF.out] at hfl
  by_cases h1:k+1<s.size
  ·have n1:(((s[k+1].toNat:Nat):Int)==120)=false:=by
    rw [beq_eq_false_iff_ne];intro h
    have:=HX.out
    unfold nR at this
    rw [df s _ h1,decide_eq_false_iff_not] at this
    exact this (.inl (aT _ 120 (by decide) h))
   have n2:(((s[k+1].toNat:Nat):Int)==88)=false:=by
    rw [beq_eq_false_iff_ne];intro h
    have:=HX.out
    unfold nR at this
    rw [df s _ h1,decide_eq_false_iff_not] at this
    exact this (.inr (aT _ 88 (by decide) h))
   have i2:(k:Int)+1<(s.size:Int):=by omega
   go_enter Tryz.func225,Tryz.ntmps225
   go_wp2
   clear hk0
   clear n1 n2 b35
   go_loopw [9] (fun v wr=>∃j:Nat,k+1+j≤s.size∧v= .int .i64 ((k:Int)+1+(j:Int))∧(∀c∈(s.data.toList.drop (k+1)).take j,co 10 c=true)∧w=wr) (fun v _=>s.size-(ae v).toNat)
   case atStart=>exact ⟨0,by omega,by go_num,by simp,rfl⟩
   case round=>
    obtain ⟨j,hj,rfl,hd,rfl⟩:=hrel
    have HD:=Lib.hid hd
    clear hd
    have j1:(k:Int)+1+(j:Int)≤(s.size:Int):=by omega
    have j2:(k:Int)+1≤(k:Int)+1+(j:Int):=by omega
    by_cases hlt:k+1+j<s.size
    ·have hc:=s[k+1+j].toNat_lt
     have j3:(k:Int)+1+(j:Int)<(s.size:Int):=by omega
     rcases jA (s[k+1+j].toNat:Int) (by omega) (by omega) with h|h
     focus
      have HH:=Lib.hid h
      clear h
      have e:=jf 10 (s.data.toList.drop (k+1)) j HD.out (.inr ⟨_,_,iN s (k+1) j hlt,se 10 _ HH.out⟩)
     rotate_left
     focus
      obtain ⟨d,hd⟩:∃d:Nat,cq (s[k+1+j].toNat:Int)=(d:Int):=⟨(cq (s[k+1+j].toNat:Int)).toNat,by omega⟩
      rw [hd] at h
      have hd16:d<16:=by omega
      have HH:=Lib.hid hd
      clear h hd
      by_cases h9:9<d
     focus
      have e:=jf 10 (s.data.toList.drop (k+1)) j HD.out (.inr ⟨_,_,iN s (k+1) j hlt,sg 10 _ d HH.out (by omega)⟩)
     rotate_left
     ·have HY:=Lib.hid (oe 10 s[k+1+j] d HH.out (by omega))
      go_wp2_with (fail)
      refine (eS _ _ (by omega) (by omega)).mono ?_
      rintro e w1 ⟨rfl,rfl⟩
      rw [HH.out]
      go_wp2
      go_roundw
      case rel=>exact ⟨j+1,by omega,by go_num,by (rw [y5 _ _ _ _ (iN s (k+1) j hlt)];intro c hm;rcases List.mem_append.1 hm with hm|hm;exact HD.out c hm;rw [List.mem_singleton.1 hm];exact HY.out),trivial⟩
      case measure=>simp [ae];omega
     all_goals
      have HDA:Hid (aD s.data.toList k=(s.data.toList.drop (k+1)).take j):=Lib.hid (by unfold aD;rw [HX.out,HF.out];exact e)
      have HTW:Hid (fy 10 ((s.data.toList.drop (k+1)).take j)=(s.data.toList.drop (k+1)).take j):=Lib.hid (by rw [←e];exact iL _ _)
      clear e
      by_cases hj0:j=0
      ·have HVAL:Hid (lr false (s.extract (k+1) (k+1+j)).data.toList= -1):=Lib.hid (by rw [ud,hj0,List.take_zero];exact jF _)
       have HA:=Lib.hid (sj HRD.out (by rw [HDA.out,hj0,List.take_zero]))
       clear hj0
       go_wp2_with (fail)
       refine (eS _ _ (by omega) (by omega)).mono ?_
       rintro e w1 ⟨rfl,rfl⟩
       rw [HH.out]
       go_wp2_with (fail)
       refine (fL _ _ _ (by rw [ByteArray.size_extract];omega)).mono ?_
       rintro e w1 ⟨rfl,rfl⟩
       rw [HVAL.out]
       go_wp2
       go_ret3
       exact ⟨by rw [←HT.out,←HN.out,←HO.out,HA.out.1,HA.out.2.1,HA.out.2.2];rfl,Below.refl _ _⟩
      ·have hne:(s.data.toList.drop (k+1)).take j≠[]:=fun h=>hj0 (by rw [←dU s (k+1) j hj,h];rfl)
       obtain ⟨v,hv⟩:∃v,fK s.data.toList k=v:=⟨_,rfl⟩
       have hvl:v≤1114112:=by rw [←hv];exact kv _ _
       have HV:=Lib.hid hv
       have HVAL:Hid (lr false (s.extract (k+1) (k+1+j)).data.toList=(v:Int)):=Lib.hid (by rw [ud,jE false _ HTW.out hne,←hv,fK,HX.out,HDA.out])
       have HA:=Lib.hid (og HRD.out (by rw [HDA.out];exact hne))
       clear hj0 hne hv
       by_cases h59:((s[k+1+j].toNat:Nat):Int)=59
       focus
        have b59:(((s[k+1+j].toNat:Nat):Int)==59)=true:=by rw [h59];rfl
        have H59:Hid (s.data.toList.getD (k+1+j) 0=59):=Lib.hid (by rw [df s _ hlt];exact aT _ 59 (by decide) h59)
        clear h59
        have HEN:Hid (cH s.data.toList k=k+1+j+1):=Lib.hid (by unfold cH;rw [HF.out,HDA.out,dU s (k+1) j hj];exact if_pos H59.out)
       rotate_left
       focus
        have b59:(((s[k+1+j].toNat:Nat):Int)==59)=false:=by rw [beq_eq_false_iff_ne];exact h59
        have H59:Hid (s.data.toList.getD (k+1+j) 0≠59):=Lib.hid (by rw [df s _ hlt];exact eR _ 59 (by decide) h59)
        clear h59
        have HEN:Hid (cH s.data.toList k=k+1+j):=Lib.hid (by unfold cH;rw [HF.out,HDA.out,dU s (k+1) j hj];exact if_neg H59.out)
       rotate_left
       all_goals
        go_wp2_with (fail)
        refine (eS _ _ (by omega) (by omega)).mono ?_
        rintro e w1 ⟨rfl,rfl⟩
        rw [HH.out]
        go_wp2_with (fail)
        refine (fL _ _ _ (by rw [ByteArray.size_extract];omega)).mono ?_
        rintro e w1 ⟨rfl,rfl⟩
        rw [HVAL.out]
        go_wp2_with (fail)
        refine (wV v _ (by omega) (by omega)).mono ?_
        rintro e w1 ⟨rfl,hb1⟩
        go_wp2
        go_ret3
        exact ⟨by rw [←HT.out,←HN.out,←HO.out,HA.out.1,HA.out.2.1,HA.out.2.2,HV.out,HEN.out];simp,hb1⟩
    ·have e:=jf 10 (s.data.toList.drop (k+1)) j HD.out (.inl (pF s (k+1) j hlt))
     have HDA:Hid (aD s.data.toList k=(s.data.toList.drop (k+1)).take j):=Lib.hid (by unfold aD;rw [HX.out,HF.out];exact e)
     have HTW:Hid (fy 10 ((s.data.toList.drop (k+1)).take j)=(s.data.toList.drop (k+1)).take j):=Lib.hid (by rw [←e];exact iL _ _)
     clear e
     by_cases hj0:j=0
     ·have HVAL:Hid (lr false (s.extract (k+1) (k+1+j)).data.toList= -1):=Lib.hid (by rw [ud,hj0,List.take_zero];exact jF _)
      have HA:=Lib.hid (sj HRD.out (by rw [HDA.out,hj0,List.take_zero]))
      clear hj0
      go_wp2_with (fail)
      refine (fL _ _ _ (by rw [ByteArray.size_extract];omega)).mono ?_
      rintro e w1 ⟨rfl,rfl⟩
      rw [HVAL.out]
      go_wp2
      go_ret3
      exact ⟨by rw [←HT.out,←HN.out,←HO.out,HA.out.1,HA.out.2.1,HA.out.2.2];rfl,Below.refl _ _⟩
     ·have hne:(s.data.toList.drop (k+1)).take j≠[]:=fun h=>hj0 (by rw [←dU s (k+1) j hj,h];rfl)
      obtain ⟨v,hv⟩:∃v,fK s.data.toList k=v:=⟨_,rfl⟩
      have hvl:v≤1114112:=by rw [←hv];exact kv _ _
      have HV:=Lib.hid hv
      have HVAL:Hid (lr false (s.extract (k+1) (k+1+j)).data.toList=(v:Int)):=Lib.hid (by rw [ud,jE false _ HTW.out hne,←hv,fK,HX.out,HDA.out])
      have HA:=Lib.hid (og HRD.out (by rw [HDA.out];exact hne))
      clear hj0 hne hv
      have H59:Hid (s.data.toList.getD (k+1+j) 0≠59):=Lib.hid (fun h=>hlt (cg s _ (by rw [h];decide)))
      have HEN:Hid (cH s.data.toList k=k+1+j):=Lib.hid (by unfold cH;rw [HF.out,HDA.out,dU s (k+1) j hj];exact if_neg H59.out)
      go_wp2_with (fail)
      refine (fL _ _ _ (by rw [ByteArray.size_extract];omega)).mono ?_
      rintro e w1 ⟨rfl,rfl⟩
      rw [HVAL.out]
      go_wp2_with (fail)
      refine (wV v _ (by omega) (by omega)).mono ?_
      rintro e w1 ⟨rfl,hb1⟩
      go_wp2
      go_ret3
      exact ⟨by rw [←HT.out,←HN.out,←HO.out,HA.out.1,HA.out.2.1,HA.out.2.2,HV.out,HEN.out];simp,hb1⟩
  ·have i2:(s.size:Int)≤(k:Int)+1:=by omega
   go_enter Tryz.func225,Tryz.ntmps225
   go_wp2
   clear hk0
   clear b35
   go_loopw [9] (fun v wr=>∃j:Nat,k+1+j≤s.size∧v= .int .i64 ((k:Int)+1+(j:Int))∧(∀c∈(s.data.toList.drop (k+1)).take j,co 10 c=true)∧w=wr) (fun v _=>s.size-(ae v).toNat)
   case atStart=>exact ⟨0,by omega,by go_num,by simp,rfl⟩
   case round=>
    obtain ⟨j,hj,rfl,hd,rfl⟩:=hrel
    have HD:=Lib.hid hd
    clear hd
    have j1:(k:Int)+1+(j:Int)≤(s.size:Int):=by omega
    have j2:(k:Int)+1≤(k:Int)+1+(j:Int):=by omega
    by_cases hlt:k+1+j<s.size
    ·exact absurd hlt (by omega)
    ·have e:=jf 10 (s.data.toList.drop (k+1)) j HD.out (.inl (pF s (k+1) j hlt))
     have HDA:Hid (aD s.data.toList k=(s.data.toList.drop (k+1)).take j):=Lib.hid (by unfold aD;rw [HX.out,HF.out];exact e)
     have HTW:Hid (fy 10 ((s.data.toList.drop (k+1)).take j)=(s.data.toList.drop (k+1)).take j):=Lib.hid (by rw [←e];exact iL _ _)
     clear e
     by_cases hj0:j=0
     ·have HVAL:Hid (lr false (s.extract (k+1) (k+1+j)).data.toList= -1):=Lib.hid (by rw [ud,hj0,List.take_zero];exact jF _)
      have HA:=Lib.hid (sj HRD.out (by rw [HDA.out,hj0,List.take_zero]))
      clear hj0
      go_wp2_with (fail)
      refine (fL _ _ _ (by rw [ByteArray.size_extract];omega)).mono ?_
      rintro e w1 ⟨rfl,rfl⟩
      rw [HVAL.out]
      go_wp2
      go_ret3
      exact ⟨by rw [←HT.out,←HN.out,←HO.out,HA.out.1,HA.out.2.1,HA.out.2.2];rfl,Below.refl _ _⟩
     ·have hne:(s.data.toList.drop (k+1)).take j≠[]:=fun h=>hj0 (by rw [←dU s (k+1) j hj,h];rfl)
      obtain ⟨v,hv⟩:∃v,fK s.data.toList k=v:=⟨_,rfl⟩
      have hvl:v≤1114112:=by rw [←hv];exact kv _ _
      have HV:=Lib.hid hv
      have HVAL:Hid (lr false (s.extract (k+1) (k+1+j)).data.toList=(v:Int)):=Lib.hid (by rw [ud,jE false _ HTW.out hne,←hv,fK,HX.out,HDA.out])
      have HA:=Lib.hid (og HRD.out (by rw [HDA.out];exact hne))
      clear hj0 hne hv
      have H59:Hid (s.data.toList.getD (k+1+j) 0≠59):=Lib.hid (fun h=>hlt (cg s _ (by rw [h];decide)))
      have HEN:Hid (cH s.data.toList k=k+1+j):=Lib.hid (by unfold cH;rw [HF.out,HDA.out,dU s (k+1) j hj];exact if_neg H59.out)
      go_wp2_with (fail)
      refine (fL _ _ _ (by rw [ByteArray.size_extract];omega)).mono ?_
      rintro e w1 ⟨rfl,rfl⟩
      rw [HVAL.out]
      go_wp2_with (fail)
      refine (wV v _ (by omega) (by omega)).mono ?_
      rintro e w1 ⟨rfl,hb1⟩
      go_wp2
      go_ret3
      exact ⟨by rw [←HT.out,←HN.out,←HO.out,HA.out.1,HA.out.2.1,HA.out.2.2,HV.out,HEN.out];simp,hb1⟩
 ·have HF:Hid (bD s.data.toList k=k+1+1):=Lib.hid (by unfold bD;rw [HX.out];rfl)
  rw [HF.out] at hfl
  have h1:k+1<s.size:=od s _ HX.out
  have i2:(k:Int)+1<(s.size:Int):=by omega
  have hcs:((s[k+1].toNat:Nat):Int)=120∨((s[k+1].toNat:Nat):Int)=88:=by
   have:=HX.out
   unfold nR at this
   rw [df s _ h1,decide_eq_true_eq] at this
   rcases this with h|h<;>rw [h]
   ·exact .inl rfl
   ·exact .inr rfl
  rcases hcs with h|h
  focus
   have n1:(((s[k+1].toNat:Nat):Int)==120)=true:=by rw [h];rfl
   clear h
   go_enter Tryz.func225,Tryz.ntmps225
   go_wp2
   clear hk0
   clear n1 b35
  rotate_left
  focus
   have n1:(((s[k+1].toNat:Nat):Int)==120)=false:=by rw [h];rfl
   have n2:(((s[k+1].toNat:Nat):Int)==88)=true:=by rw [h];rfl
   clear h
   go_enter Tryz.func225,Tryz.ntmps225
   go_wp2
   clear hk0
   clear n1 n2 b35
  rotate_left
  all_goals
   go_loopw [9] (fun v wr=>∃j:Nat,k+1+1+j≤s.size∧v= .int .i64 ((k:Int)+1+1+(j:Int))∧(∀c∈(s.data.toList.drop (k+1+1)).take j,co 16 c=true)∧w=wr) (fun v _=>s.size-(ae v).toNat)
   case atStart=>exact ⟨0,by omega,by go_num,by simp,rfl⟩
   case round=>
    obtain ⟨j,hj,rfl,hd,rfl⟩:=hrel
    have HD:=Lib.hid hd
    clear hd
    have j1:(k:Int)+1+1+(j:Int)≤(s.size:Int):=by omega
    have j2:(k:Int)+1+1≤(k:Int)+1+1+(j:Int):=by omega
    by_cases hlt:k+1+1+j<s.size
    focus
     have hc:=s[k+1+1+j].toNat_lt
     have j3:(k:Int)+1+1+(j:Int)<(s.size:Int):=by omega
     rcases jA (s[k+1+1+j].toNat:Int) (by omega) (by omega) with h|h
    focus
     have HH:=Lib.hid h
     clear h
     have e:=jf 16 (s.data.toList.drop (k+1+1)) j HD.out (.inr ⟨_,_,iN s (k+1+1) j hlt,se 16 _ HH.out⟩)
     have HDA:Hid (aD s.data.toList k=(s.data.toList.drop (k+1+1)).take j):=Lib.hid (by unfold aD;rw [HX.out,HF.out];exact e)
     have HTW:Hid (fy 16 ((s.data.toList.drop (k+1+1)).take j)=(s.data.toList.drop (k+1+1)).take j):=Lib.hid (by rw [←e];exact iL _ _)
     clear e
     by_cases hj0:j=0
    ·have HVAL:Hid (lr true (s.extract (k+1+1) (k+1+1+j)).data.toList= -1):=Lib.hid (by rw [ud,hj0,List.take_zero];exact jF _)
     have HA:=Lib.hid (sj HRD.out (by rw [HDA.out,hj0,List.take_zero]))
     clear hj0
     go_wp2_with (fail)
     refine (eS _ _ (by omega) (by omega)).mono ?_
     rintro e w1 ⟨rfl,rfl⟩
     rw [HH.out]
     go_wp2_with (fail)
     refine (fL _ _ _ (by rw [ByteArray.size_extract];omega)).mono ?_
     rintro e w1 ⟨rfl,rfl⟩
     rw [HVAL.out]
     go_wp2
     go_ret3
     exact ⟨by rw [←HT.out,←HN.out,←HO.out,HA.out.1,HA.out.2.1,HA.out.2.2];rfl,Below.refl _ _⟩
    focus
     have hne:(s.data.toList.drop (k+1+1)).take j≠[]:=fun h=>hj0 (by rw [←dU s (k+1+1) j hj,h];rfl)
     obtain ⟨v,hv⟩:∃v,fK s.data.toList k=v:=⟨_,rfl⟩
     have hvl:v≤1114112:=by rw [←hv];exact kv _ _
     have HV:=Lib.hid hv
     have HVAL:Hid (lr true (s.extract (k+1+1) (k+1+1+j)).data.toList=(v:Int)):=Lib.hid (by rw [ud,jE true _ HTW.out hne,←hv,fK,HX.out,HDA.out])
     have HA:=Lib.hid (og HRD.out (by rw [HDA.out];exact hne))
     clear hj0 hne hv
     by_cases h59:((s[k+1+1+j].toNat:Nat):Int)=59
    focus
     have b59:(((s[k+1+1+j].toNat:Nat):Int)==59)=true:=by rw [h59];rfl
     have H59:Hid (s.data.toList.getD (k+1+1+j) 0=59):=Lib.hid (by rw [df s _ hlt];exact aT _ 59 (by decide) h59)
     clear h59
     have HEN:Hid (cH s.data.toList k=k+1+1+j+1):=Lib.hid (by unfold cH;rw [HF.out,HDA.out,dU s (k+1+1) j hj];exact if_pos H59.out)
     go_wp2_with (fail)
     refine (eS _ _ (by omega) (by omega)).mono ?_
     rintro e w1 ⟨rfl,rfl⟩
     rw [HH.out]
    rotate_left
    focus
     have b59:(((s[k+1+1+j].toNat:Nat):Int)==59)=false:=by rw [beq_eq_false_iff_ne];exact h59
     have H59:Hid (s.data.toList.getD (k+1+1+j) 0≠59):=Lib.hid (by rw [df s _ hlt];exact eR _ 59 (by decide) h59)
     clear h59
     have HEN:Hid (cH s.data.toList k=k+1+1+j):=Lib.hid (by unfold cH;rw [HF.out,HDA.out,dU s (k+1+1) j hj];exact if_neg H59.out)
     go_wp2_with (fail)
     refine (eS _ _ (by omega) (by omega)).mono ?_
     rintro e w1 ⟨rfl,rfl⟩
     rw [HH.out]
    rotate_left
    ·obtain ⟨d,hd⟩:∃d:Nat,cq (s[k+1+1+j].toNat:Int)=(d:Int):=⟨(cq (s[k+1+1+j].toNat:Int)).toNat,by omega⟩
     rw [hd] at h
     have hd16:d<16:=by omega
     have HH:=Lib.hid hd
     clear h hd
     have HY:=Lib.hid (oe 16 s[k+1+1+j] d HH.out (by omega))
     go_wp2_with (fail)
     refine (eS _ _ (by omega) (by omega)).mono ?_
     rintro e w1 ⟨rfl,rfl⟩
     rw [HH.out]
     go_wp2
     all_goals
      go_roundw
      case rel=>exact ⟨j+1,by omega,by go_num,by (rw [y5 _ _ _ _ (iN s (k+1+1) j hlt)];intro c hm;rcases List.mem_append.1 hm with hm|hm;exact HD.out c hm;rw [List.mem_singleton.1 hm];exact HY.out),trivial⟩
      case measure=>simp [ae];omega
    focus
     have e:=jf 16 (s.data.toList.drop (k+1+1)) j HD.out (.inl (pF s (k+1+1) j hlt))
     have HDA:Hid (aD s.data.toList k=(s.data.toList.drop (k+1+1)).take j):=Lib.hid (by unfold aD;rw [HX.out,HF.out];exact e)
     have HTW:Hid (fy 16 ((s.data.toList.drop (k+1+1)).take j)=(s.data.toList.drop (k+1+1)).take j):=Lib.hid (by rw [←e];exact iL _ _)
     clear e
     by_cases hj0:j=0
    ·have HVAL:Hid (lr true (s.extract (k+1+1) (k+1+1+j)).data.toList= -1):=Lib.hid (by rw [ud,hj0,List.take_zero];exact jF _)
     have HA:=Lib.hid (sj HRD.out (by rw [HDA.out,hj0,List.take_zero]))
     clear hj0
     go_wp2_with (fail)
     refine (fL _ _ _ (by rw [ByteArray.size_extract];omega)).mono ?_
     rintro e w1 ⟨rfl,rfl⟩
     rw [HVAL.out]
     go_wp2
     go_ret3
     exact ⟨by rw [←HT.out,←HN.out,←HO.out,HA.out.1,HA.out.2.1,HA.out.2.2];rfl,Below.refl _ _⟩
    focus
     have hne:(s.data.toList.drop (k+1+1)).take j≠[]:=fun h=>hj0 (by rw [←dU s (k+1+1) j hj,h];rfl)
     obtain ⟨v,hv⟩:∃v,fK s.data.toList k=v:=⟨_,rfl⟩
     have hvl:v≤1114112:=by rw [←hv];exact kv _ _
     have HV:=Lib.hid hv
     have HVAL:Hid (lr true (s.extract (k+1+1) (k+1+1+j)).data.toList=(v:Int)):=Lib.hid (by rw [ud,jE true _ HTW.out hne,←hv,fK,HX.out,HDA.out])
     have HA:=Lib.hid (og HRD.out (by rw [HDA.out];exact hne))
     clear hj0 hne hv
     have H59:Hid (s.data.toList.getD (k+1+1+j) 0≠59):=Lib.hid (fun h=>hlt (cg s _ (by rw [h];decide)))
     have HEN:Hid (cH s.data.toList k=k+1+1+j):=Lib.hid (by unfold cH;rw [HF.out,HDA.out,dU s (k+1+1) j hj];exact if_neg H59.out)
    rotate_left
    all_goals
     go_wp2_with (fail)
     refine (fL _ _ _ (by rw [ByteArray.size_extract];omega)).mono ?_
     rintro e w1 ⟨rfl,rfl⟩
     rw [HVAL.out]
     go_wp2_with (fail)
     refine (wV v _ (by omega) (by omega)).mono ?_
     rintro e w1 ⟨rfl,hb1⟩
     go_wp2
     go_ret3
     exact ⟨by rw [←HT.out,←HN.out,←HO.out,HA.out.1,HA.out.2.1,HA.out.2.2,HV.out,HEN.out];simp,hb1⟩
end Go.Proofs.YtajpoodpbbbkfaaGreatDoor
namespace Go.Proofs.YtajpoodpbbbkfaaGreatDoor
open Go.RowKit Go.Lib
theorem wW (s:ByteArray) (a:Int) (w:World) (hs:s.size≤1099511627776) (ha: -9223372036854775808≤a) (hb:a≤9223372036854775807):Calls Tryz.prog 225 #[.string s,.int .i64 a] w fun e w'=>e= .returned (.tuple #[.string (sh s.data.toList a),.int .i64 (si s.data.toList a),.bool (aX s.data.toList a)])∧Below w.heap.size w w':=by
 by_cases hq:0≤a∧s.data.toList.getD a.toNat 0=35
 ·obtain ⟨h0,h35⟩:=hq
  obtain ⟨k,rfl⟩:∃k:Nat,a=k:=⟨a.toNat,by omega⟩
  rw [show ((k:Nat):Int).toNat=k by omega] at h35
  exact Bz s k w hs h35
 ·have hr:aX s.data.toList a=false:=by
   unfold aX
   rw [decide_eq_false_iff_not]
   exact fun h=>hq ⟨h.1,h.2.1⟩
  rw [kw hr,kx hr,hr]
  clear hr
  by_cases h0:a<0
  ·clear hq
   go_enter Tryz.func225,Tryz.ntmps225
   go_wp2
   go_ret3
   exact ⟨rfl,Below.refl _ _⟩
  ·obtain ⟨k,rfl⟩:∃k:Nat,a=k:=⟨a.toNat,by omega⟩
   by_cases h1:k<s.size
   ·have b35:(((s[k].toNat:Nat):Int) != 35)=true:=by
     rw [bne_iff_ne]
     intro h
     refine hq ⟨by omega,?_⟩
     rw [show ((k:Nat):Int).toNat=k by omega,df s k h1]
     exact aT _ 35 (by decide) h
    clear hq
    go_enter Tryz.func225,Tryz.ntmps225
    go_wp2
    go_ret3
    exact ⟨rfl,Below.refl _ _⟩
   ·have h2:(s.size:Int)≤(k:Int):=by omega
    clear hq
    go_enter Tryz.func225,Tryz.ntmps225
    go_wp2
    go_ret3
    exact ⟨rfl,Below.refl _ _⟩
end Go.Proofs.YtajpoodpbbbkfaaGreatDoor
namespace Go.Proofs.YtajpoodpbbbkfaaGreatDoor
open Go.RowKit Go.Lib
theorem N3 (x:UInt8) (t:List UInt8):(x::t).getD 0 0=x:=rfl
theorem Ib (x:UInt8) (t:List UInt8) (k:Nat):(x::t).getD (k+1) 0=t.getD k 0:=rfl
theorem EX (b:Nat) (D tail:List UInt8) (hD:∀c∈D,co b c=true) (ht:tail=[]∨∃c t,tail=c::t∧co b c=false):fy b (D++tail)=D:=by
 have h:=jf b (D++tail) D.length (by rw [List.take_left'];exact hD;rfl) (by rw [List.drop_left'];exact ht;rfl)
 rwa [List.take_left' rfl] at h
theorem Ic (D tail:List UInt8):(D++tail).getD D.length 0=tail.getD 0 0:=by
 rw [List.getD_eq_getElem?_getD,List.getElem?_append_right (Nat.le_refl _),Nat.sub_self,List.getD_eq_getElem?_getD]
theorem Lq (D tail:List UInt8) (hD:∀c∈D,co 10 c=true) (hne:D≠[]) (ht:tail=[]∨∃c t,tail=c::t∧co 10 c=false):sh (35::(D++tail)) 0=fh (go 10 D)∧si (35::(D++tail)) 0=(if tail.getD 0 0=59 then (D.length:Int)+2 else (D.length:Int)+1)∧aX (35::(D++tail)) 0=true:=by
 have hx:nR (35::(D++tail)) 1=false:=by
  cases D with
  |nil=>exact absurd rfl hne
  |cons c t=>
   have hc:=hD c (List.mem_cons_self ..)
   unfold nR
   rw [Ib,List.cons_append,N3,decide_eq_false_iff_not]
   rintro (rfl|rfl)
   ·revert hc;decide
   ·revert hc;decide
 have hf:bD (35::(D++tail)) 0=1:=by unfold bD;rw [hx];rfl
 have hd:aD (35::(D++tail)) 0=D:=by
  unfold aD
  rw [hx,hf]
  exact EX 10 D tail hD ht
 have hr:aX (35::(D++tail)) ((0:Nat):Int)=true:=by
  unfold aX
  refine decide_eq_true ⟨by decide,rfl,?_⟩
  rw [show ((0:Nat):Int).toNat=0 from rfl,hd];exact hne
 have h1:=jC hr
 have h2:=jD hr
 refine ⟨?_,?_,hr⟩
 ·refine h1.trans ?_
  unfold fK
  rw [hx,hd];rfl
 ·refine h2.trans ?_
  unfold cH
  rw [hf,hd,Nat.add_comm 1,Ib,Ic]
  split<;>omega
theorem Id (n:Int):1≤(fh n).size∧(fh n).size≤4:=by
 have h:=eL (q6 n)
 have e:(fh n).size=(encodeRune (q6 n)).length:=by rw [Lib.size_eq];rfl
 rw [e];exact h
theorem wX (l:List UInt8) (k:Nat):cH l k=if l.getD (bD l k+(aD l k).length) 0=59 then bD l k+(aD l k).length+1 else bD l k+(aD l k).length:=rfl
theorem Ie (s:ByteArray) (k:Nat) (hr:aX s.data.toList (k:Int)=true):k+1<cH s.data.toList k∧cH s.data.toList k≤s.size∧∀(h1:cH s.data.toList k-1<s.size) (h2:cH s.data.toList k<s.size),((s[cH s.data.toList k-1].toNat:Nat):Int)≠59→¬(48≤((s[cH s.data.toList k].toNat:Nat):Int)∧((s[cH s.data.toList k].toNat:Nat):Int)≤57)∧((s[cH s.data.toList k].toNat:Nat):Int)≠59:=by
 unfold aX at hr
 rw [decide_eq_true_eq,show ((k:Nat):Int).toNat=k by omega] at hr
 obtain ⟨-,h35,hne⟩:=hr
 have hk:k<s.size:=cg s k (by rw [h35];decide)
 have hlen:0<(aD s.data.toList k).length:=List.length_pos_iff.2 hne
 have he:=N0 s k hk
 have hf:=wQ s k hk
 refine ⟨by omega,he.1,?_⟩
 intro h1 h2 h3
 obtain ⟨e,hee⟩:∃e,bD s.data.toList k+(aD s.data.toList k).length=e:=⟨_,rfl⟩
 have hE:cH s.data.toList k=if s.data.toList.getD e 0=59 then e+1 else e:=by rw [←hee];rfl
 by_cases h59:s.data.toList.getD e 0=59
 ·rw [if_pos h59] at hE
  exfalso
  apply h3
  have e1:s[cH s.data.toList k-1]=s.data.toList.getD e 0:=by
   rw [df s e (by omega)]
   congr 1;omega
  rw [e1,h59];rfl
 ·rw [if_neg h59] at hE
  have hlt:e<s.size:=by omega
  have e1:s[cH s.data.toList k]=s[e]:=by congr 1
  rw [e1]
  have hd:co (cW (nR s.data.toList (k+1))) s[e]=false:=by
   have hdp:aD s.data.toList k++(s.data.toList.drop (bD s.data.toList k)).dropWhile (co (cW (nR s.data.toList (k+1))))=s.data.toList.drop (bD s.data.toList k):=List.takeWhile_append_dropWhile
   have hdr:(s.data.toList.drop (bD s.data.toList k)).dropWhile (co (cW (nR s.data.toList (k+1))))=s[e]::s.data.toList.drop (e+1):=by
    have:=congrArg (List.drop (aD s.data.toList k).length) hdp
    rw [List.drop_left' rfl,List.drop_drop,hee,aj s e hlt] at this
    exact this
   have h4:=List.head?_dropWhile_not (co (cW (nR s.data.toList (k+1)))) (s.data.toList.drop (bD s.data.toList k))
   rw [hdr] at h4
   simpa using h4
  constructor
  ·intro h
   have hh:cq (s[e].toNat:Int)=(s[e].toNat:Int)-48:=by unfold cq;rw [if_pos h]
   unfold co at hd
   rw [hh,decide_eq_false_iff_not] at hd
   have:(10:Int)≤(cW (nR s.data.toList (k+1)):Int):=by cases nR s.data.toList (k+1)<;>decide
   omega
  ·intro h
   apply h59
   rw [df s e hlt]
   exact aT _ 59 (by decide) h
end Go.Proofs.YtajpoodpbbbkfaaGreatDoor
namespace Go.Proofs.YtajpoodpbbbkfaaGreatDoor
open Go.RowKit Go.Lib
end Go.Proofs.YtajpoodpbbbkfaaGreatDoor
