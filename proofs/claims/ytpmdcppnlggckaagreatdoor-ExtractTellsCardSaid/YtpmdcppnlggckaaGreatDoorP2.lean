/-
  Texts laid together: NumMath, NumCode, NumRead, NumRef, NumRefB, NumAwake, NumList, NumDec.
-/
import Derived.Test.YtpmdcppnlggckaaGreatDoorP1
import Derived.Below
import Derived.Laws.BitsAllLaws
set_option maxHeartbeats 4000000
set_option maxRecDepth 100000
namespace Go.Proofs.YtpmdcppnlggckaaGreatDoor
open Go.RowKit Go.Lib
def jt (n:Nat):Nat:=if 1114111<n then 1114112 else n
def Ax (b n:Nat) (c:UInt8):Nat:=jt (n*b+(bY (c.toNat:Int)).toNat)
def cK (b:Nat) (c:UInt8):Bool:=decide (0≤bY (c.toNat:Int)∧bY (c.toNat:Int)<(b:Int))
def ip (b:Nat) (l:List UInt8):Nat:=l.foldl (Ax b) 0
def eX (b:Nat) (l:List UInt8):List UInt8:=l.takeWhile (cK b)
theorem Hu (n:Nat):jt n≤1114112:=by unfold jt;split<;>omega
theorem ju (b:Nat) (l:List UInt8):ip b l≤1114112:=by
 rcases List.eq_nil_or_concat l with rfl|⟨i,x,rfl⟩
 ·exact Nat.zero_le _
 ·rw [List.concat_eq_append]
  unfold ip
  rw [List.foldl_append]
  exact Hu _
theorem nH (b:Nat) (l:List UInt8) (c:UInt8):ip b (l++[c])=Ax b (ip b l) c:=by
 unfold ip;rw [List.foldl_append];rfl
theorem iG (q:Int) (h0:0≤q) (h1:q<256):bY q= -1∨0≤bY q∧bY q<16:=by
 unfold bY
 split
 ·omega
 ·split
  ·omega
  ·split<;>omega
theorem kP (s:ByteArray) (k:Nat) (h:k<s.size):s.data.toList.take (k+1)=s.data.toList.take k++[s[k]]:=by
 rw [List.take_succ_eq_append_getElem (by rw [←Lib.size_eq];exact h)];rfl
theorem eN (b:Nat) (s:ByteArray) (k:Nat) (hd:∀c∈s.data.toList.take k,cK b c=true) (h:∀h:k<s.size,cK b s[k]=false):eX b s.data.toList=s.data.toList.take k:=by
 have e:eX b (s.data.toList.take k++s.data.toList.drop k)=s.data.toList.take k:=by
  unfold eX
  rw [List.takeWhile_append_of_pos hd]
  by_cases hlt:k<s.size
  ·rw [aj s k hlt,List.takeWhile_cons_of_neg (by rw [h hlt];exact Bool.false_ne_true),List.append_nil]
  ·rw [List.drop_eq_nil_of_le (by rw [←Lib.size_eq];omega),List.takeWhile_nil,List.append_nil]
 rwa [List.take_append_drop] at e
theorem Ee (b:Nat) (l:List UInt8):(eX b l).length≤l.length:=(List.takeWhile_sublist _).length_le
def cC (x:Bool):Nat:=if x then 16 else 10
def kh (x:Bool) (l:List UInt8):Int:=if l=[]∨(eX (cC x) l).length<l.length then-1 else (ip (cC x) l:Int)
def o3:List Int:=[8364,129,8218,402,8222,8230,8224,8225,710,8240,352,8249,338,141,381,143,144,8216,8217,8220,8221,8226,8211,8212,732,8482,353,8250,339,157,382,376]
def o4 (n:Int):Int:=if n=0 then-1 else if 128≤n∧n<160 then o3.getD (n-128).toNat 0 else n
def fV (n:Int):ByteArray:=⟨(encodeRune (o4 n)).toArray⟩
def nv (l:List UInt8) (k:Nat):Bool:=decide (l.getD k 0=120∨l.getD k 0=88)
def bC (l:List UInt8) (k:Nat):Nat:=if nv l (k+1) then k+2 else k+1
def aC (l:List UInt8) (k:Nat):List UInt8:=eX (cC (nv l (k+1))) (l.drop (bC l k))
def cw (l:List UInt8) (k:Nat):Nat:=if l.getD (bC l k+(aC l k).length) 0=59 then bC l k+(aC l k).length+1 else bC l k+(aC l k).length
def be (l:List UInt8) (a:Int):Bool:=decide (0≤a∧l.getD a.toNat 0=35∧aC l a.toNat≠[])
def fp (l:List UInt8) (k:Nat):Nat:=ip (cC (nv l (k+1))) (aC l k)
theorem ms (c d:UInt8) (hd:d=35∨d=59):(ca c=d)↔c=d:=by
 have h:=cz c
 unfold fm at h
 rw [←UInt8.toNat_inj,←UInt8.toNat_inj]
 rcases hd with rfl|rfl
 ·rw [show (35:UInt8).toNat=35 from rfl];split at h<;>omega
 ·rw [show (59:UInt8).toNat=59 from rfl];split at h<;>omega
theorem Ef (c:UInt8):(ca c=120)↔c=120∨c=88:=by
 have h:=cz c
 unfold fm at h
 rw [←UInt8.toNat_inj,←UInt8.toNat_inj,←UInt8.toNat_inj,show (120:UInt8).toNat=120 from rfl,show (88:UInt8).toNat=88 from rfl]
 split at h<;>omega
theorem gM (s:ByteArray) (k:Nat) (d:UInt8) (hd:d≠0):bb s (k:Int) ⟨#[d]⟩=decide (ca (s.data.toList.getD k 0)=d):=by
 unfold bb
 rw [show ((k:Nat):Int).toNat=k by omega,show (ByteArray.mk #[d]).data.toList=[d] from rfl]
 by_cases h:k<s.size
 ·rw [aj s k h,aI,decide_eq_true (by omega),Bool.true_and,List.isPrefixOf_cons_cons]
  have e:s.data.toList.getD k 0=s[k]:=by
   rw [List.getD_eq_getElem?_getD,List.getElem?_eq_getElem (by rw [←Lib.size_eq];exact h)];rfl
  rw [e]
  simp only [List.isPrefixOf_nil_left,Bool.and_true]
  rw [Bool.eq_iff_iff,beq_iff_eq,decide_eq_true_iff]
  exact eq_comm
 ·have e:s.data.toList.getD k 0=0:=by
   rw [List.getD_eq_getElem?_getD,List.getElem?_eq_none (by rw [←Lib.size_eq];omega)];rfl
  rw [List.drop_eq_nil_of_le (by rw [←Lib.size_eq];omega),e]
  rw [show aD []=[] from rfl,show List.isPrefixOf [d] []=false from rfl,Bool.and_false]
  exact (decide_eq_false (fun h=>hd h.symm)).symm
theorem wh (s:ByteArray) (a:Int) (low:ByteArray) (h:a<0):bb s a low=false:=by
 unfold bb;rw [decide_eq_false (by omega)];rfl
theorem bV (s:ByteArray) (k:Nat) (h:s.data.toList.getD k 0≠0):k<s.size:=by
 rcases Nat.lt_or_ge k s.size with h1|h1
 ·exact h1
 ·exact absurd (by rw [List.getD_eq_getElem?_getD,List.getElem?_eq_none (by rw [←Lib.size_eq];omega)];rfl) h
theorem cM (s:ByteArray) (k:Nat) (h:k<s.size):s.data.toList.getD k 0=s[k]:=by
 rw [List.getD_eq_getElem?_getD,List.getElem?_eq_getElem (by rw [←Lib.size_eq];exact h)];rfl
theorem mt (s:ByteArray) (k:Nat) (h:nv s.data.toList k=true):k<s.size:=by
 unfold nv at h
 rw [decide_eq_true_eq] at h
 refine bV s k ?_
 rcases h with h|h<;>rw [h]<;>decide
theorem ua (s:ByteArray) (k:Nat) (h:k<s.size):bC s.data.toList k≤s.size∧k+1≤bC s.data.toList k:=by
 unfold bC
 by_cases hx:nv s.data.toList (k+1)=true
 ·rw [if_pos hx];have:=mt s _ hx;omega
 ·rw [if_neg hx];omega
theorem nJ (s:ByteArray) (k:Nat) (h:k<s.size):bC s.data.toList k+(aC s.data.toList k).length≤s.size:=by
 have h1:=ua s k h
 have h2:=Ee (cC (nv s.data.toList (k+1))) (s.data.toList.drop (bC s.data.toList k))
 rw [List.length_drop,←Lib.size_eq] at h2
 unfold aC
 omega
theorem J0 (s:ByteArray) (k:Nat) (h:k<s.size):cw s.data.toList k≤s.size∧bC s.data.toList k+(aC s.data.toList k).length≤cw s.data.toList k:=by
 have h2:=nJ s k h
 unfold cw
 split
 ·rename_i h3
  have:=bV s _ (by rw [h3];decide)
  omega
 ·omega
end Go.Proofs.YtpmdcppnlggckaaGreatDoor
namespace Go.Proofs.YtpmdcppnlggckaaGreatDoor
open Go.RowKit Go.Lib
def oD (x:Bool):Nat:=if x then 4625196817309499392 else 4621819117588971520
theorem wi (x:Bool):fl (cC x)=oD x:=by
 cases x
 ·exact KO
 ·exact KQ
theorem ub (x:Bool):cC x≤16:=by cases x<;>decide
theorem J2 (x:Bool) (n:Nat) (hn:n≤1114112) (t:TypeId) (w:World):(binOp .mul t (.float .f64 (fl n)) (.float .f64 (oD x))).run Tryz.prog w= .ok (.float .f64 (fl (n*cC x))) w:=by
 have hb:=ub x
 have hm:n*cC x≤1114112*16:=Nat.mul_le_mul hn hb
 rw [←wi]
 exact run_float_arith w .mul t .f64 _ _ _ (JL _ _ (by omega) (by omega) (by omega))
theorem J3 (a d k:Nat) (ha:a≤17825792) (hd:d<16) (hk:k≤1099511627776) (t:TypeId) (w:World):(binOp .add t (.complex .f64 (fl a) (fl k)) (.complex .f64 (fl d) 4607182418800017408)).run Tryz.prog w= .ok (.complex .f64 (fl (a+d)) (fl (k+1))) w:=by
 refine run_complex_sum w .add (.inl rfl) t .f64 _ _ _ _ _ _ ?_
 rw [←Lw,cSumBits,DJ a d (by omega),DJ k 1 (by omega)];rfl
theorem Hv (d:Nat) (hd:d<16):(FloatKind.f64.format.order (fl d) 0==some .lt)=false:=by
 rw [←DM,jY d 0 (by omega) (by omega)]
 by_cases h:d=0
 ·subst h;decide
 ·rw [Nat.compare_eq_gt.2 (by omega)];rfl
theorem Hw (x:Bool) (d:Nat) (hd:d<16):(FloatKind.f64.format.order (fl d) (oD x)==some .gt||FloatKind.f64.format.order (fl d) (oD x)==some .eq)=decide (cC x≤d):=by
 have hb:=ub x
 rw [←wi,jY d _ (by omega) (by omega)]
 rcases Nat.lt_trichotomy d (cC x) with h|h|h
 ·rw [Nat.compare_eq_lt.2 h,decide_eq_false (by omega)];rfl
 ·rw [Nat.compare_eq_eq.2 h,decide_eq_true (by omega)];rfl
 ·rw [Nat.compare_eq_gt.2 h,decide_eq_true (by omega)];rfl
theorem Hx (n:Nat) (hn:n<2 ^ 53):(FloatKind.f64.format.order (fl n) 4697535882029170688==some .gt)=decide (1114111<n):=by
 rw [←GY,jY n _ hn (by decide)]
 rcases Nat.lt_trichotomy n 1114111 with h|h|h
 ·rw [Nat.compare_eq_lt.2 h,decide_eq_false (by omega)];rfl
 ·rw [Nat.compare_eq_eq.2 h,decide_eq_false (by omega)];rfl
 ·rw [Nat.compare_eq_gt.2 h,decide_eq_true (by omega)];rfl
theorem qh (b:Nat) (c:UInt8) (h:bY (c.toNat:Int)= -1):cK b c=false:=by
 unfold cK;rw [h];exact decide_eq_false (by omega)
theorem qi (b:Nat) (c:UInt8) (d:Nat) (h:bY (c.toNat:Int)=(d:Int)) (hd:b≤d):cK b c=false:=by
 unfold cK;rw [h];exact decide_eq_false (by omega)
theorem mu (b:Nat) (c:UInt8) (d:Nat) (h:bY (c.toNat:Int)=(d:Int)) (hd:d<b):cK b c=true:=by
 unfold cK;rw [h];exact decide_eq_true (by omega)
theorem uc (b n:Nat) (c:UInt8) (d:Nat) (h:bY (c.toNat:Int)=(d:Int)):Ax b n c=jt (n*b+d):=by
 unfold Ax;rw [h];rfl
theorem gz (b:Nat) (s:ByteArray) (k:Nat) (h:k<s.size) (hd:∀c∈s.data.toList.take k,cK b c=true) (hc:cK b s[k]=true):∀c∈s.data.toList.take (k+1),cK b c=true:=by
 rw [kP s k h]
 intro c hm
 rcases List.mem_append.1 hm with hm|hm
 ·exact hd c hm
 ·rw [List.mem_singleton.1 hm];exact hc
theorem Eg (s:ByteArray) (x:Bool) (w:World) (hs:s.size≤1099511627776):Calls Tryz.prog 212 #[.string s,.bool x] w fun e w'=>e= .returned (.complex .f64 (fl (ip (cC x) (eX (cC x) s.data.toList))) (fl (eX (cC x) s.data.toList).length))∧w=w':=by
 obtain ⟨b,hb⟩:∃b,cC x=b:=⟨_,rfl⟩
 obtain ⟨V,hV⟩:∃V,fl (ip b (eX b s.data.toList))=V:=⟨_,rfl⟩
 obtain ⟨C,hC⟩:∃C,fl (eX b s.data.toList).length=C:=⟨_,rfl⟩
 have HV:=Lib.hid hV
 have HC:=Lib.hid hC
 have HB:b≤16:=by rw [←hb];exact ub x
 have HM:Hid (∀n,n≤1114112→∀t w,(binOp .mul t (.float .f64 (fl n)) (.float .f64 (oD x))).run Tryz.prog w= .ok (.float .f64 (fl (n*b))) w):=Lib.hid (by rw [←hb];exact J2 x)
 have HG:Hid (∀d,d<16→(FloatKind.f64.format.order (fl d) (oD x)==some .gt||FloatKind.f64.format.order (fl d) (oD x)==some .eq)=decide (b≤d)):=Lib.hid (by rw [←hb];exact Hw x)
 rw [hb,hV,hC]
 obtain ⟨B,hB⟩:∃B,oD x=B:=⟨_,rfl⟩
 rw [hB] at HM HG
 have hx:x=false∧B=4621819117588971520∨x=true∧B=4625196817309499392:=by
  cases x
  ·exact .inl ⟨rfl,hB.symm⟩
  ·exact .inr ⟨rfl,hB.symm⟩
 clear hV hC hb hB
 have F0:Hid (fl 0=0):=Lib.hid DM
 rcases hx with ⟨rfl,rfl⟩|⟨rfl,rfl⟩
 all_goals
  go_enter Tryz.func212,Tryz.ntmps212
  go_wp2
  go_loopw [6,12] (fun z v wr=>∃k:Nat,k≤s.size∧v= .int .i64 (k:Int)∧z= .complex .f64 (fl (ip b (s.data.toList.take k))) (fl k)∧(∀c∈s.data.toList.take k,cK b c=true)∧w=wr) (fun _ v _=>s.size-(ae v).toNat)
  case atStart=>exact ⟨0,Nat.zero_le _,rfl,by rw [List.take_zero,show ip b []=0 from rfl,F0.out],by simp,rfl⟩
  case round=>
   obtain ⟨k,hk,rfl,rfl,hd,rfl⟩:=hrel
   have HD:=Lib.hid hd
   clear hd
   obtain ⟨n,hn⟩:∃n,ip b (s.data.toList.take k)=n:=⟨_,rfl⟩
   have hn0:n≤1114112:=by rw [←hn];exact ju _ _
   have HN:=Lib.hid hn
   rw [hn]
   clear hn
   by_cases hlt:k<s.size
   ·have hc:=s[k].toNat_lt
    rcases iG (s[k].toNat:Int) (by omega) (by omega) with h|h
    ·have HX:=Lib.hid h
     have hl:=G3
     clear h
     go_wp2_with (fail)
     refine (GV _ _ (by omega) (by omega)).mono ?_
     rintro e w1 ⟨rfl,rfl⟩
     rw [HX.out]
     go_wp2
     go_ret
     have e:=eN b s k HD.out (fun h=>qh b _ HX.out)
     exact ⟨by rw [←HV.out,←HC.out,e,HN.out,List.length_take,Nat.min_eq_left (by rw [←Lib.size_eq];exact hk)];rfl,rfl⟩
    ·obtain ⟨d,hd⟩:∃d:Nat,bY (s[k].toNat:Int)=(d:Int):=⟨(bY (s[k].toNat:Int)).toNat,by omega⟩
     rw [hd] at h
     have hd16:d<16:=by omega
     have HX:=Lib.hid hd
     clear h hd
     have hfo:=DL d
     have hz:=Hv d hd16
     by_cases hlb:b≤d
     ·have hg:(FloatKind.f64.format.order (fl d) _==some .gt||FloatKind.f64.format.order (fl d) _==some .eq)=true:=(HG.out d hd16).trans (decide_eq_true hlb)
      go_wp2_with (fail)
      refine (GV _ _ (by omega) (by omega)).mono ?_
      rintro e w1 ⟨rfl,rfl⟩
      rw [HX.out]
      go_wp2
      go_ret
      have e:=eN b s k HD.out (fun h=>qi b _ d HX.out hlb)
      exact ⟨by rw [←HV.out,←HC.out,e,HN.out,List.length_take,Nat.min_eq_left (by rw [←Lib.size_eq];exact hk)];rfl,rfl⟩
     ·have hg:(FloatKind.f64.format.order (fl d) _==some .gt||FloatKind.f64.format.order (fl d) _==some .eq)=false:=(HG.out d hd16).trans (decide_eq_false hlb)
      have hm:=HM.out n hn0
      have hnb:n*b≤1114112*16:=Nat.mul_le_mul hn0 HB
      have hsm:=J3 (n*b) d k (by omega) hd16 (by omega)
      have hmost:=Hx (n*b+d) (by omega)
      have HY:=Lib.hid (mu b s[k] d HX.out (by omega))
      have HS:Hid (ip b (s.data.toList.take (k+1))=jt (n*b+d)):=Lib.hid (by rw [kP s k hlt,nH,HN.out,uc b n _ d HX.out])
      by_cases hcap:1114111<n*b+d
      ·rw [decide_eq_true hcap] at hmost
       have HK:=Lib.hid (show jt (n*b+d)=1114112 by unfold jt;rw [if_pos hcap])
       clear hcap hnb
       go_wp2_with (fail)
       refine (GV _ _ (by omega) (by omega)).mono ?_
       rintro e w1 ⟨rfl,rfl⟩
       rw [HX.out]
       go_wp2
       go_roundw
       case rel=>exact ⟨k+1,by omega,by go_num,by rw [HS.out,HK.out,G0],gz b s k hlt HD.out HY.out,trivial⟩
       case measure=>simp [ae];omega
      ·rw [decide_eq_false hcap] at hmost
       have HK:=Lib.hid (show jt (n*b+d)=n*b+d by unfold jt;rw [if_neg hcap])
       clear hcap hnb
       go_wp2_with (fail)
       refine (GV _ _ (by omega) (by omega)).mono ?_
       rintro e w1 ⟨rfl,rfl⟩
       rw [HX.out]
       go_wp2
       go_roundw
       case rel=>exact ⟨k+1,by omega,by go_num,by rw [HS.out,HK.out],gz b s k hlt HD.out HY.out,trivial⟩
       case measure=>simp [ae];omega
   ·go_wp2
    go_ret
    have e:=eN b s k HD.out (fun h=>absurd h hlt)
    exact ⟨by rw [←HV.out,←HC.out,e,HN.out,List.length_take,Nat.min_eq_left (by rw [←Lib.size_eq];exact hk)];rfl,rfl⟩
end Go.Proofs.YtpmdcppnlggckaaGreatDoor
namespace Go.Proofs.YtpmdcppnlggckaaGreatDoor
open Go.RowKit Go.Lib
def gN (w:World):Prop:=1<w.heap.size∧∀i,i<32→w.cell? ⟨1,i,none⟩=some (.int .i64 (o3.getD i 0))
theorem gN.below {w w':World} (h:gN w) (hb:Below w.heap.size w w'):gN w':=
 ⟨Nat.lt_of_lt_of_le h.1 hb.size,fun i hi=>by rw [hb.cell (p:=⟨1,i,none⟩) h.1];exact h.2 i hi⟩
theorem gN.drawn {w:World} (h:gN w) (n:Nat):gN (w.drewN n):=⟨h.1,h.2⟩
theorem wj (n:Int) (h:o4 n<0):fV n=⟨#[239,191,189]⟩:=by
 unfold fV;rw [encodeRune,encodeRuneZ_bad (.inl h)];rfl
theorem L0 (n:Int) (w:World) (h0: -9223372036854775808≤n) (h1:n≤9223372036854775807) (hT:gN w):Calls Tryz.prog 213 #[.int .i64 n] w fun e w'=>e= .returned (.string (fV n))∧w=w':=by
 by_cases hz:n=0
 ·subst hz
  have HB:=Lib.hid (wj 0 (by decide))
  go_enter Tryz.func213,Tryz.ntmps213
  go_wp2
  go_ret
  exact ⟨aY HB.out.symm,rfl⟩
 have hz':(n==0)=false:=by simpa using hz
 by_cases hr:128≤n∧n<160
 ·obtain ⟨i,hi⟩:∃i:Nat,n=128+(i:Int):=⟨(n-128).toNat,by omega⟩
  subst hi
  have hi:i<32:=by omega
  have HF:Hid (fV (128+(i:Int))=⟨(encodeRune (o3.getD i 0)).toArray⟩):=Lib.hid (by
   unfold fV o4;rw [if_neg hz,if_pos hr,show (128+(i:Int)-128).toNat=i by omega])
  have hc:=hT.2 i hi
  obtain ⟨q,hq⟩:∃q,o3.getD i 0=q:=⟨_,rfl⟩
  rw [hq] at hc HF
  obtain ⟨hr1,hr2⟩:=hr
  have ii:(i:Int)<32:=by omega
  clear hz hT hq
  rw [HF.out]
  go_enter Tryz.func213,Tryz.ntmps213
  go_wp2_with (fail)
  refine (mo _ _).mono ?_
  rintro e w1 ⟨rfl,rfl⟩
  go_wp2
  go_ret
  exact ⟨rfl,rfl⟩
 ·have HF:Hid (fV n=⟨(encodeRune n).toArray⟩):=Lib.hid (by
   unfold fV o4;rw [if_neg hz,if_neg hr])
  rw [HF.out]
  by_cases h2:128≤n
  ·have h3:160≤n:=by omega
   clear hz hr
   go_enter Tryz.func213,Tryz.ntmps213
   go_wp2_with (fail)
   refine (mo _ _).mono ?_
   rintro e w1 ⟨rfl,rfl⟩
   go_wp2
   go_ret
   exact ⟨rfl,rfl⟩
  ·have h3:n<128:=by omega
   clear hz hr
   go_enter Tryz.func213,Tryz.ntmps213
   go_wp2_with (fail)
   refine (mo _ _).mono ?_
   rintro e w1 ⟨rfl,rfl⟩
   go_wp2
   go_ret
   exact ⟨rfl,rfl⟩
theorem Eh (n:Nat) (hn:n<2 ^ 53) (w:World):(convert 179 3 (.float .f64 (fl n))).run Tryz.prog w= .ok (.int .i64 (n:Int)) w:=
 run_convert_float_int w 179 3 .f64 .i64 (fl n) n (by rw [Tryz.underlying179];rfl) Tryz.underlying3 (DK n hn)
theorem bm (s:ByteArray) (k:Nat):(s.extract k s.size).data.toList=s.data.toList.drop k:=by
 rw [extract_data,List.take_of_length_le (by rw [List.length_drop,←Lib.size_eq];omega)]
theorem Ay (c:Nat) (hc:c<2 ^ 53):(FloatKind.f64.format.order (fl c) 0==some .eq)=decide (c=0):=by
 have e:=jY c 0 hc (by decide)
 rw [DM] at e
 rw [e]
 by_cases h:c=0
 ·subst h;decide
 ·rw [Nat.compare_eq_gt.2 (by omega),decide_eq_false h];rfl
theorem ud (s:ByteArray) (e:Nat) (a:Int) (ha:a=(e:Int)):bb s a ⟨#[59]⟩=decide (s.data.toList.getD e 0=59):=by
 rw [ha,gM s e 59 (by decide),decide_eq_decide];exact ms _ _ (.inr rfl)
theorem BN (s:ByteArray) (k:Nat) (w:World) (hs:s.size≤1099511627776) (h35:s.data.toList.getD k 0=35) (hne:aC s.data.toList k=[]):Calls Tryz.prog 191 #[.string s,.int .i64 (k:Int)] w fun e w'=>e= .returned (.tuple #[.string ⟨#[]⟩,.int .i64 (k:Int),.bool false])∧∃n,w'=w.drewN n:=by
 have hk:k<s.size:=bV s k (by rw [h35];decide)
 have HB0:Hid (bb s (k:Int) ⟨#[35]⟩=true):=Lib.hid (by
  rw [gM s k 35 (by decide),decide_eq_true_eq];exact (ms _ _ (.inl rfl)).2 h35)
 obtain ⟨X,hX⟩:∃X,nv s.data.toList (k+1)=X:=⟨_,rfl⟩
 have HBX:Hid (bb s ((k:Int)+1) ⟨#[120]⟩=X):=Lib.hid (by
  rw [show (k:Int)+1=((k+1:Nat):Int) by omega,gM s (k+1) 120 (by decide),←hX,nv,decide_eq_decide];exact Ef _)
 have hlt:=nJ s k hk
 have hq:=(Ay 0 (by decide)).trans (decide_eq_true rfl)
 have HN:=Lib.hid hne
 rw [hne] at hlt
 clear h35 hne
 have HX:=Lib.hid hX
 clear hX
 cases X
 focus
  have HF:Hid (bC s.data.toList k=k+1):=Lib.hid (by unfold bC;rw [HX.out];rfl)
  rw [HF.out] at hlt
  have g1:(k:Int)+1≤(s.size:Int):=by omega
  have hD:eX (cC false) (s.extract (k+1) s.size).data.toList=aC s.data.toList k:=by
   rw [bm];unfold aC;rw [HX.out,HF.out]
 rotate_left
 focus
  have HF:Hid (bC s.data.toList k=k+1+1):=Lib.hid (by unfold bC;rw [HX.out];rfl)
  rw [HF.out] at hlt
  have g1:(k:Int)+1≤(s.size:Int):=by omega
  have g2:(k:Int)+1+1≤(s.size:Int):=by have:=(mt s _ HX.out);omega
  have hD:eX (cC true) (s.extract (k+1+1) s.size).data.toList=aC s.data.toList k:=by
   rw [bm];unfold aC;rw [HX.out,HF.out]
 rotate_left
 all_goals
  have HD:=Lib.hid hD
  clear hD
  go_enter Tryz.func191,Tryz.ntmps191
  go_wp2_with (fail)
  refine (cg s _ ⟨#[35]⟩ _ hs (by decide) (by omega) (by omega)).mono ?_
  rintro e w1 ⟨rfl,n1,rfl⟩
  rw [HB0.out]
  go_wp2_with (fail)
  refine (cg s _ ⟨#[120]⟩ _ hs (by decide) (by omega) (by omega)).mono ?_
  rintro e w1 ⟨rfl,n2,rfl⟩
  rw [HBX.out]
  go_wp2_with (fail)
  refine (Eg _ _ _ (by rw [ByteArray.size_extract];omega)).mono ?_
  rintro e w1 ⟨rfl,rfl⟩
  rw [HD.out,HN.out]
  go_wp2
  go_ret3
  exact ⟨rfl,_,rfl⟩
theorem Ei (s:ByteArray) (k:Nat) (w:World) (hs:s.size≤1099511627776) (hr:be s.data.toList (k:Int)=true) (hT:gN w):Calls Tryz.prog 191 #[.string s,.int .i64 (k:Int)] w fun e w'=>e= .returned (.tuple #[.string (fV (fp s.data.toList k)),.int .i64 (cw s.data.toList k:Nat),.bool true])∧∃n,w'=w.drewN n:=by
 unfold be at hr
 rw [decide_eq_true_eq,show ((k:Nat):Int).toNat=k by omega] at hr
 obtain ⟨-,h35,hne⟩:=hr
 have hk:k<s.size:=bV s k (by rw [h35];decide)
 have HB0:Hid (bb s (k:Int) ⟨#[35]⟩=true):=Lib.hid (by
  rw [gM s k 35 (by decide),decide_eq_true_eq];exact (ms _ _ (.inl rfl)).2 h35)
 obtain ⟨X,hX⟩:∃X,nv s.data.toList (k+1)=X:=⟨_,rfl⟩
 have HBX:Hid (bb s ((k:Int)+1) ⟨#[120]⟩=X):=Lib.hid (by
  rw [show (k:Int)+1=((k+1:Nat):Int) by omega,gM s (k+1) 120 (by decide),←hX,nv,decide_eq_decide];exact Ef _)
 have hlt:=nJ s k hk
 obtain ⟨R,hR⟩:∃R,fV (fp s.data.toList k)=R:=⟨_,rfl⟩
 obtain ⟨E,hE⟩:∃E,cw s.data.toList k=E:=⟨_,rfl⟩
 have hvl:=ju (cC (nv s.data.toList (k+1))) (aC s.data.toList k)
 obtain ⟨v,hv⟩:∃v,fp s.data.toList k=v:=⟨_,rfl⟩
 rw [←fp,hv] at hvl
 obtain ⟨c,hc⟩:∃c,(aC s.data.toList k).length=c:=⟨_,rfl⟩
 have hc0:c≠0:=fun h=>hne (List.length_eq_zero_iff.1 (hc.trans h))
 rw [hc] at hlt
 have HR:=Lib.hid hR
 have HE:=Lib.hid hE
 have HV:=Lib.hid hv
 have HC:=Lib.hid hc
 have hq:=(Ay c (by omega)).trans (decide_eq_false hc0)
 have hvi:=Eh v (by omega)
 have hci:=Eh c (by omega)
 rw [hR,hE]
 clear h35 hR hE hv hc hc0 hne
 have HX:=Lib.hid hX
 clear hX
 cases X
 focus
  have HF:Hid (bC s.data.toList k=k+1):=Lib.hid (by unfold bC;rw [HX.out];rfl)
  rw [HF.out] at hlt
  have g1:(k:Int)+1≤(s.size:Int):=by omega
  have hD:eX (cC false) (s.extract (k+1) s.size).data.toList=aC s.data.toList k:=by
   rw [bm];unfold aC;rw [HX.out,HF.out]
  have HD:=Lib.hid hD
  clear hD
  go_enter Tryz.func191,Tryz.ntmps191
  go_wp2_with (fail)
  refine (cg s _ ⟨#[35]⟩ _ hs (by decide) (by omega) (by omega)).mono ?_
  rintro e w1 ⟨rfl,n1,rfl⟩
  rw [HB0.out]
  go_wp2_with (fail)
  refine (cg s _ ⟨#[120]⟩ _ hs (by decide) (by omega) (by omega)).mono ?_
  rintro e w1 ⟨rfl,n2,rfl⟩
  rw [HBX.out]
  go_wp2_with (fail)
  refine (Eg _ _ _ (by rw [ByteArray.size_extract];omega)).mono ?_
  rintro e w1 ⟨rfl,rfl⟩
  rw [HD.out,HC.out,show ip (cC false) (aC s.data.toList k)=v by rw [←HV.out,fp,HX.out]]
  by_cases h59:s.data.toList.getD (k+1+c) 0=59
 focus
  have HS:Hid (bb s ((k:Int)+1+(c:Int)) ⟨#[59]⟩=true):=Lib.hid (by rw [ud s (k+1+c) _ (by omega),decide_eq_true h59])
  have HEE:Hid (E=k+1+c+1):=Lib.hid (by rw [←HE.out];unfold cw;rw [HF.out,HC.out,if_pos h59])
 rotate_left
 focus
  have HS:Hid (bb s ((k:Int)+1+(c:Int)) ⟨#[59]⟩=false):=Lib.hid (by rw [ud s (k+1+c) _ (by omega),decide_eq_false h59])
  have HEE:Hid (E=k+1+c):=Lib.hid (by rw [←HE.out];unfold cw;rw [HF.out,HC.out,if_neg h59])
 rotate_left
 focus
  have HF:Hid (bC s.data.toList k=k+1+1):=Lib.hid (by unfold bC;rw [HX.out];rfl)
  rw [HF.out] at hlt
  have g1:(k:Int)+1≤(s.size:Int):=by omega
  have g2:(k:Int)+1+1≤(s.size:Int):=by have:=(mt s _ HX.out);omega
  have hD:eX (cC true) (s.extract (k+1+1) s.size).data.toList=aC s.data.toList k:=by
   rw [bm];unfold aC;rw [HX.out,HF.out]
  have HD:=Lib.hid hD
  clear hD
  go_enter Tryz.func191,Tryz.ntmps191
  go_wp2_with (fail)
  refine (cg s _ ⟨#[35]⟩ _ hs (by decide) (by omega) (by omega)).mono ?_
  rintro e w1 ⟨rfl,n1,rfl⟩
  rw [HB0.out]
  go_wp2_with (fail)
  refine (cg s _ ⟨#[120]⟩ _ hs (by decide) (by omega) (by omega)).mono ?_
  rintro e w1 ⟨rfl,n2,rfl⟩
  rw [HBX.out]
  go_wp2_with (fail)
  refine (Eg _ _ _ (by rw [ByteArray.size_extract];omega)).mono ?_
  rintro e w1 ⟨rfl,rfl⟩
  rw [HD.out,HC.out,show ip (cC true) (aC s.data.toList k)=v by rw [←HV.out,fp,HX.out]]
  by_cases h59:s.data.toList.getD (k+1+1+c) 0=59
 focus
  have HS:Hid (bb s ((k:Int)+1+1+(c:Int)) ⟨#[59]⟩=true):=Lib.hid (by rw [ud s (k+1+1+c) _ (by omega),decide_eq_true h59])
  have HEE:Hid (E=k+1+1+c+1):=Lib.hid (by rw [←HE.out];unfold cw;rw [HF.out,HC.out,if_pos h59])
 rotate_left
 focus
  have HS:Hid (bb s ((k:Int)+1+1+(c:Int)) ⟨#[59]⟩=false):=Lib.hid (by rw [ud s (k+1+1+c) _ (by omega),decide_eq_false h59])
  have HEE:Hid (E=k+1+1+c):=Lib.hid (by rw [←HE.out];unfold cw;rw [HF.out,HC.out,if_neg h59])
 rotate_left
 all_goals
  clear h59
  go_wp2_with (fail)
  refine (cg s _ ⟨#[59]⟩ _ hs (by decide) (by omega) (by omega)).mono ?_
  rintro e w1 ⟨rfl,n3,rfl⟩
  rw [HS.out]
  go_wp2_with (fail)
  refine (L0 v _ (by omega) (by omega) (hT.drawn _)).mono ?_
  rintro e w1 ⟨rfl,rfl⟩
  go_wp2
  go_ret3
  exact ⟨by rw [←HR.out,HV.out,HEE.out];simp,_,rfl⟩
def rI (l:List UInt8) (a:Int):ByteArray:=if be l a then fV (fp l a.toNat) else ⟨#[]⟩
def rJ (l:List UInt8) (a:Int):Int:=if be l a then (cw l a.toNat:Nat) else a
theorem jv {l:List UInt8} {a:Int} (h:be l a=false):rI l a=⟨#[]⟩:=by unfold rI;rw [h];rfl
theorem jw {l:List UInt8} {a:Int} (h:be l a=false):rJ l a=a:=by unfold rJ;rw [h];rfl
theorem mv {l:List UInt8} {k:Nat} (h:be l (k:Int)=true):rI l (k:Int)=fV (fp l k):=by unfold rI;rw [h];rfl
theorem mw {l:List UInt8} {k:Nat} (h:be l (k:Int)=true):rJ l (k:Int)=(cw l k:Nat):=by unfold rJ;rw [h];rfl
theorem read (s:ByteArray) (a:Int) (w:World) (hs:s.size≤1099511627776) (ha: -9223372036854775808≤a) (hb:a≤9223372036854775807) (hT:gN w):Calls Tryz.prog 191 #[.string s,.int .i64 a] w fun e w'=>e= .returned (.tuple #[.string (rI s.data.toList a),.int .i64 (rJ s.data.toList a),.bool (be s.data.toList a)])∧∃n,w'=w.drewN n:=by
 by_cases hr:be s.data.toList a=true
 ·have h0:0≤a:=by
   unfold be at hr
   rw [decide_eq_true_eq] at hr
   exact hr.1
  obtain ⟨k,rfl⟩:∃k:Nat,a=k:=⟨a.toNat,by omega⟩
  rw [mv hr,mw hr,hr]
  exact Ei s k w hs hr hT
 ·have hr':be s.data.toList a=false:=by simpa using hr
  rw [jv hr',jw hr',hr']
  by_cases hq:0≤a∧s.data.toList.getD a.toNat 0=35
  ·obtain ⟨h0,h35⟩:=hq
   obtain ⟨k,rfl⟩:∃k:Nat,a=k:=⟨a.toNat,by omega⟩
   rw [show ((k:Nat):Int).toNat=k by omega] at h35
   refine BN s k w hs h35 ?_
   unfold be at hr'
   rw [decide_eq_false_iff_not,show ((k:Nat):Int).toNat=k by omega] at hr'
   by_cases hd:aC s.data.toList k=[]
   ·exact hd
   ·exact absurd ⟨h0,h35,hd⟩ hr'
  ·have HB:Hid (bb s a ⟨#[35]⟩=false):=Lib.hid (by
    by_cases h0:a<0
    ·exact wh s a _ h0
    ·obtain ⟨k,rfl⟩:∃k:Nat,a=k:=⟨a.toNat,by omega⟩
     rw [gM s k 35 (by decide),decide_eq_false_iff_not]
     intro h
     refine hq ⟨by omega,?_⟩
     rw [show ((k:Nat):Int).toNat=k by omega]
     exact (ms _ _ (.inl rfl)).1 h)
   clear hr hr' hq
   go_enter Tryz.func191,Tryz.ntmps191
   go_wp2_with (fail)
   refine (cg s _ ⟨#[35]⟩ _ hs (by decide) ha hb).mono ?_
   rintro e w1 ⟨rfl,n1,rfl⟩
   rw [HB.out]
   go_wp2
   go_ret3
   exact ⟨rfl,_,rfl⟩
end Go.Proofs.YtpmdcppnlggckaaGreatDoor
namespace Go.Proofs.YtpmdcppnlggckaaGreatDoor
open Go.RowKit Go.Lib
theorem ue (n:Int) (w:World) (h0: -9223372036854775808≤n) (h1:n≤9223372036854775807):Calls Tryz.prog 203 #[.int .i64 n] w fun e w'=>e= .returned (.string (fV n))∧Below w.heap.size w w':=by
 by_cases hz:n<1
 ·have HB:=Lib.hid (wj n (by unfold o4;split;decide;rw [if_neg (by omega)];omega))
  go_enter Tryz.func203,Tryz.ntmps203
  go_wp2
  go_ret
  exact ⟨aY HB.out.symm,Below.refl _ _⟩
 by_cases hm:1114111<n
 ·have HB:Hid (fV n=⟨#[239,191,189]⟩):=Lib.hid (by
   unfold fV o4;rw [if_neg (by omega),if_neg (by omega),encodeRune,encodeRuneZ_bad (.inr (.inr hm))];rfl)
  go_enter Tryz.func203,Tryz.ntmps203
  go_wp2
  go_ret
  exact ⟨aY HB.out.symm,Below.refl _ _⟩
 by_cases hr:128≤n∧n<160
 ·obtain ⟨i,hi⟩:∃i:Nat,n=128+(i:Int):=⟨(n-128).toNat,by omega⟩
  subst hi
  have hi:i<32:=by omega
  have HF:Hid (fV (128+(i:Int))=⟨(encodeRune (o3.getD i 0)).toArray⟩):=Lib.hid (by
   unfold fV o4;rw [if_neg (by omega),if_pos hr,show (128+(i:Int)-128).toNat=i by omega])
  obtain ⟨q,hq⟩:∃q,o3.getD i 0=q:=⟨_,rfl⟩
  have hc:∀W:World,(W.alloc (.cells (o3.map (Value.int .i64)).toArray 3)).cell? ⟨W.heap.size,i,none⟩=some (.int .i64 q):=by
   intro W
   rw [World.cell?_alloc_mark,List.getElem?_toArray,List.getElem?_map,List.getElem?_eq_getElem (by exact hi),←hq,List.getD_eq_getElem?_getD,List.getElem?_eq_getElem (by exact hi)]
   rfl
  simp only [o3,List.map_cons,List.map_nil] at hc
  rw [hq] at HF
  obtain ⟨hr1,hr2⟩:=hr
  have ii:(i:Int)<32:=by omega
  clear hz hm hq
  rw [HF.out]
  go_enter Tryz.func203,Tryz.ntmps203
  go_wp2_with (fail)
  refine (gJ q _).mono ?_
  rintro e w1 ⟨rfl,hb1⟩
  go_wp2
  go_ret
  exact ⟨rfl,((Below.refl _ w).alloc (Nat.le_refl _) _).trans (hb1.mono (by simp))⟩
 ·have HF:Hid (fV n=⟨(encodeRune n).toArray⟩):=Lib.hid (by
   unfold fV o4;rw [if_neg (by omega),if_neg hr])
  rw [HF.out]
  have g0:1≤n:=by omega
  have g1:n≤1114111:=by omega
  by_cases h2:128≤n
  ·have h3:160≤n:=by omega
   clear hz hr hm
   go_enter Tryz.func203,Tryz.ntmps203
   go_wp2_with (fail)
   refine (gJ n _).mono ?_
   rintro e w1 ⟨rfl,hb1⟩
   go_wp2
   go_ret
   exact ⟨rfl,((Below.refl _ w).alloc (Nat.le_refl _) _).trans (hb1.mono (by simp))⟩
  ·have h3:n<128:=by omega
   clear hz hr hm
   go_enter Tryz.func203,Tryz.ntmps203
   go_wp2_with (fail)
   refine (gJ n _).mono ?_
   rintro e w1 ⟨rfl,hb1⟩
   go_wp2
   go_ret
   exact ⟨rfl,((Below.refl _ w).alloc (Nat.le_refl _) _).trans (hb1.mono (by simp))⟩
theorem eY (s:ByteArray) (x:Bool) (w:World) (hs:s.size≤1099511627776):Calls Tryz.prog 202 #[.string s,.bool x] w fun e w'=>e= .returned (.int .i64 (kh x s.data.toList))∧w=w':=by
 obtain ⟨V,hV⟩:∃V,kh x s.data.toList=V:=⟨_,rfl⟩
 have HV:=Lib.hid hV
 rw [hV]
 clear hV
 have hlen:s.data.toList.length=s.size:=(Lib.size_eq s).symm
 have HL:=Lib.hid hlen
 clear hlen
 by_cases hz:s.size=0
 ·have hz0:(s.size:Int)=0:=by omega
  have HA:Hid (V= -1):=Lib.hid (by rw [←HV.out,kh];exact if_pos (.inl (List.length_eq_zero_iff.1 (by rw [HL.out];exact hz))))
  clear hz
  cases x
  all_goals
   go_enter Tryz.func202,Tryz.ntmps202
   go_wp2
   go_ret
   exact ⟨av HA.out.symm,rfl⟩
 ·have hz0:((s.size:Int)==0)=false:=by rw [beq_eq_false_iff_ne];omega
  have hne:s.data.toList≠[]:=fun h=>hz (by rw [←HL.out,h];rfl)
  have HNE:=Lib.hid hne
  obtain ⟨b,hb⟩:∃b,cC x=b:=⟨_,rfl⟩
  have HW:Hid (V=if s.data.toList=[]∨(eX b s.data.toList).length<s.data.toList.length then-1 else (ip b s.data.toList:Int)):=Lib.hid (by rw [←HV.out,←hb];rfl)
  have hx:x=false∧b=10∨x=true∧b=16:=by
   cases x
   ·exact .inl ⟨rfl,hb.symm⟩
   ·exact .inr ⟨rfl,hb.symm⟩
  clear hz hb hne HV
  rcases hx with ⟨rfl,rfl⟩|⟨rfl,rfl⟩
  ·go_enter Tryz.func202,Tryz.ntmps202
   go_wp2
   go_loopw [6,7] (fun z v wr=>∃k n:Nat,k≤s.size∧v= .int .i64 (k:Int)∧z= .int .i64 (n:Int)∧n≤1114112∧ip 10 (s.data.toList.take k)=n∧(∀c∈s.data.toList.take k,cK 10 c=true)∧w=wr) (fun _ v _=>s.size-(ae v).toNat)
   case atStart=>exact ⟨0,0,Nat.zero_le _,rfl,rfl,Nat.zero_le _,rfl,by simp,rfl⟩
   case round=>
    obtain ⟨k,n,hk,rfl,rfl,hn0,hn,hd,rfl⟩:=hrel
    have HD:=Lib.hid hd
    have HN:=Lib.hid hn
    clear hd hn
    by_cases hlt:k<s.size
    ·have hc:=s[k].toNat_lt
     rcases iG (s[k].toNat:Int) (by omega) (by omega) with h|h
     ·have HX:=Lib.hid h
      clear h
      go_wp2_with (fail)
      refine (eg _ _ (by omega) (by omega)).mono ?_
      rintro e w1 ⟨rfl,rfl⟩
      rw [HX.out]
      go_wp2
      go_ret
      have e:=eN 10 s k HD.out (fun h=>qh 10 _ HX.out)
      exact ⟨av (by rw [HW.out];exact (if_pos (.inr (by rw [e,List.length_take,HL.out,Nat.min_eq_left hk];exact hlt))).symm),rfl⟩
     ·obtain ⟨d,hd⟩:∃d:Nat,bY (s[k].toNat:Int)=(d:Int):=⟨(bY (s[k].toNat:Int)).toNat,by omega⟩
      rw [hd] at h
      have hd16:d<16:=by omega
      have HX:=Lib.hid hd
      clear h hd
      by_cases hlb:10≤d
      ·go_wp2_with (fail)
       refine (eg _ _ (by omega) (by omega)).mono ?_
       rintro e w1 ⟨rfl,rfl⟩
       rw [HX.out]
       go_wp2
       go_ret
       have e:=eN 10 s k HD.out (fun h=>qi 10 _ d HX.out hlb)
       exact ⟨av (by rw [HW.out];exact (if_pos (.inr (by rw [e,List.length_take,HL.out,Nat.min_eq_left hk];exact hlt))).symm),rfl⟩
      ·have hlt2:d<10:=by omega
       have HY:=Lib.hid (mu 10 s[k] d HX.out hlt2)
       have HS:Hid (ip 10 (s.data.toList.take (k+1))=jt (n*10+d)):=Lib.hid (by rw [kP s k hlt,nH,HN.out,uc 10 n _ d HX.out])
       by_cases hcap:1114112<(n:Int)*10+(d:Int)
       ·have HK:=Lib.hid (show jt (n*10+d)=1114112 by unfold jt;rw [if_pos (by omega)])
        go_wp2_with (fail)
        refine (eg _ _ (by omega) (by omega)).mono ?_
        rintro e w1 ⟨rfl,rfl⟩
        rw [HX.out]
        go_wp2
        go_roundw
        case rel=>exact ⟨k+1,1114112,by omega,by go_num,rfl,Nat.le_refl _,by rw [HS.out,HK.out],gz 10 s k hlt HD.out HY.out,trivial⟩
        case measure=>simp [ae];omega
       ·have HK:=Lib.hid (show jt (n*10+d)=n*10+d by unfold jt;split<;>omega)
        go_wp2_with (fail)
        refine (eg _ _ (by omega) (by omega)).mono ?_
        rintro e w1 ⟨rfl,rfl⟩
        rw [HX.out]
        go_wp2
        go_roundw
        case rel=>exact ⟨k+1,n*10+d,by omega,by go_num,by go_num,by omega,by rw [HS.out,HK.out],gz 10 s k hlt HD.out HY.out,trivial⟩
        case measure=>simp [ae];omega
    ·go_wp2
     go_ret
     have e:=eN 10 s k HD.out (fun h=>absurd h hlt)
     have e2:s.data.toList.take k=s.data.toList:=List.take_of_length_le (by rw [HL.out];omega)
     exact ⟨av (by rw [HW.out,if_neg (by rw [e,e2];rintro (h|h);exact HNE.out h;exact Nat.lt_irrefl _ h),←HN.out,e2]),rfl⟩
  ·go_enter Tryz.func202,Tryz.ntmps202
   go_wp2
   go_loopw [6,7] (fun z v wr=>∃k n:Nat,k≤s.size∧v= .int .i64 (k:Int)∧z= .int .i64 (n:Int)∧n≤1114112∧ip 16 (s.data.toList.take k)=n∧(∀c∈s.data.toList.take k,cK 16 c=true)∧w=wr) (fun _ v _=>s.size-(ae v).toNat)
   case atStart=>exact ⟨0,0,Nat.zero_le _,rfl,rfl,Nat.zero_le _,rfl,by simp,rfl⟩
   case round=>
    obtain ⟨k,n,hk,rfl,rfl,hn0,hn,hd,rfl⟩:=hrel
    have HD:=Lib.hid hd
    have HN:=Lib.hid hn
    clear hd hn
    by_cases hlt:k<s.size
    ·have hc:=s[k].toNat_lt
     rcases iG (s[k].toNat:Int) (by omega) (by omega) with h|h
     ·have HX:=Lib.hid h
      clear h
      go_wp2_with (fail)
      refine (eg _ _ (by omega) (by omega)).mono ?_
      rintro e w1 ⟨rfl,rfl⟩
      rw [HX.out]
      go_wp2
      go_ret
      have e:=eN 16 s k HD.out (fun h=>qh 16 _ HX.out)
      exact ⟨av (by rw [HW.out];exact (if_pos (.inr (by rw [e,List.length_take,HL.out,Nat.min_eq_left hk];exact hlt))).symm),rfl⟩
     ·obtain ⟨d,hd⟩:∃d:Nat,bY (s[k].toNat:Int)=(d:Int):=⟨(bY (s[k].toNat:Int)).toNat,by omega⟩
      rw [hd] at h
      have hd16:d<16:=by omega
      have HX:=Lib.hid hd
      clear h hd
      by_cases hlb:16≤d
      ·exact absurd hlb (by omega)
      ·have hlt2:d<16:=by omega
       have HY:=Lib.hid (mu 16 s[k] d HX.out hlt2)
       have HS:Hid (ip 16 (s.data.toList.take (k+1))=jt (n*16+d)):=Lib.hid (by rw [kP s k hlt,nH,HN.out,uc 16 n _ d HX.out])
       by_cases hcap:1114112<(n:Int)*16+(d:Int)
       ·have HK:=Lib.hid (show jt (n*16+d)=1114112 by unfold jt;rw [if_pos (by omega)])
        go_wp2_with (fail)
        refine (eg _ _ (by omega) (by omega)).mono ?_
        rintro e w1 ⟨rfl,rfl⟩
        rw [HX.out]
        go_wp2
        go_roundw
        case rel=>exact ⟨k+1,1114112,by omega,by go_num,rfl,Nat.le_refl _,by rw [HS.out,HK.out],gz 16 s k hlt HD.out HY.out,trivial⟩
        case measure=>simp [ae];omega
       ·have HK:=Lib.hid (show jt (n*16+d)=n*16+d by unfold jt;split<;>omega)
        go_wp2_with (fail)
        refine (eg _ _ (by omega) (by omega)).mono ?_
        rintro e w1 ⟨rfl,rfl⟩
        rw [HX.out]
        go_wp2
        go_roundw
        case rel=>exact ⟨k+1,n*16+d,by omega,by go_num,by go_num,by omega,by rw [HS.out,HK.out],gz 16 s k hlt HD.out HY.out,trivial⟩
        case measure=>simp [ae];omega
    ·go_wp2
     go_ret
     have e:=eN 16 s k HD.out (fun h=>absurd h hlt)
     have e2:s.data.toList.take k=s.data.toList:=List.take_of_length_le (by rw [HL.out];omega)
     exact ⟨av (by rw [HW.out,if_neg (by rw [e,e2];rintro (h|h);exact HNE.out h;exact Nat.lt_irrefl _ h),←HN.out,e2]),rfl⟩
end Go.Proofs.YtpmdcppnlggckaaGreatDoor
namespace Go.Proofs.YtpmdcppnlggckaaGreatDoor
open Go.RowKit Go.Lib
theorem jx (b:Nat) (L:List UInt8) (j:Nat) (hd:∀c∈L.take j,cK b c=true) (h:L.drop j=[]∨∃c t,L.drop j=c::t∧cK b c=false):eX b L=L.take j:=by
 have e:eX b (L.take j++L.drop j)=L.take j:=by
  unfold eX
  rw [List.takeWhile_append_of_pos hd]
  rcases h with h|⟨c,t,h,hc⟩
  ·rw [h,List.takeWhile_nil,List.append_nil]
  ·rw [h,List.takeWhile_cons_of_neg (by rw [hc];exact Bool.false_ne_true),List.append_nil]
 rwa [List.take_append_drop] at e
theorem wk (L:List UInt8) (j:Nat) (c:UInt8) (t:List UInt8) (h:L.drop j=c::t):L.take (j+1)=L.take j++[c]:=by
 have hj:j<L.length:=by
  rcases Nat.lt_or_ge j L.length with h1|h1
  ·exact h1
  ·rw [List.drop_eq_nil_of_le h1] at h;cases h
 rw [List.drop_eq_getElem_cons hj] at h
 injection h with h1 h2
 rw [List.take_succ_eq_append_getElem hj,h1]
theorem gO (b:Nat) (L:List UInt8):eX b (eX b L)=eX b L:=by
 have h:=jx b (eX b L) (eX b L).length (by
  intro c hc
  rw [List.take_length] at hc
  have:=List.all_takeWhile (l:=L) (p:=cK b)
  exact List.all_eq_true.1 this c hc) (.inl List.drop_length)
 rwa [List.take_length] at h
theorem iH (x:Bool) (L:List UInt8) (h:eX (cC x) L=L) (hne:L≠[]):kh x L=(ip (cC x) L:Int):=by
 unfold kh
 rw [if_neg]
 rintro (e|e)
 ·exact hne e
 ·rw [h] at e;exact Nat.lt_irrefl _ e
theorem iI (x:Bool):kh x []= -1:=by unfold kh;exact if_pos (.inl rfl)
theorem rK (s:ByteArray) (f j:Nat):(s.extract f (f+j)).data.toList=(s.data.toList.drop f).take j:=by
 rw [extract_data,show f+j-f=j by omega]
theorem gP (s:ByteArray) (f j:Nat) (h:f+j<s.size):(s.data.toList.drop f).drop j=s[f+j]::s.data.toList.drop (f+j+1):=by
 rw [List.drop_drop];exact aj s (f+j) h
theorem nK (s:ByteArray) (f j:Nat) (h:¬f+j<s.size):(s.data.toList.drop f).drop j=[]:=by
 rw [List.drop_drop];exact List.drop_eq_nil_of_le (by rw [←Lib.size_eq];omega)
theorem qj {l:List UInt8} {k:Nat} (hRD:be l (k:Int)=decide (aC l k≠[])) (h:aC l k=[]):rI l (k:Int)=⟨#[]⟩∧rJ l (k:Int)=(k:Int)∧be l (k:Int)=false:=by
 have hf:be l (k:Int)=false:=by rw [hRD,h];rfl
 exact ⟨jv hf,jw hf,hf⟩
theorem my {l:List UInt8} {k:Nat} (hRD:be l (k:Int)=decide (aC l k≠[])) (h:aC l k≠[]):rI l (k:Int)=fV (fp l k)∧rJ l (k:Int)=(cw l k:Nat)∧be l (k:Int)=true:=by
 have hf:be l (k:Int)=true:=by rw [hRD];exact decide_eq_true h
 exact ⟨mv hf,mw hf,hf⟩
theorem dy (s:ByteArray) (f j:Nat) (h:f+j≤s.size):((s.data.toList.drop f).take j).length=j:=by
 rw [List.length_take,List.length_drop,←Lib.size_eq];omega
theorem yS (s:ByteArray) (k:Nat) (w:World) (hs:s.size≤1099511627776) (h35:s.data.toList.getD k 0=35):Calls Tryz.prog 180 #[.string s,.int .i64 (k:Int)] w fun e w'=>e= .returned (.tuple #[.string (rI s.data.toList (k:Int)),.int .i64 (rJ s.data.toList (k:Int)),.bool (be s.data.toList (k:Int))])∧Below w.heap.size w w':=by
 have hk:k<s.size:=bV s k (by rw [h35];decide)
 have i35:((s[k].toNat:Nat):Int)=35:=by rw [←cM s k hk,h35];rfl
 have hRD:be s.data.toList (k:Int)=decide (aC s.data.toList k≠[]):=by
  unfold be
  rw [show ((k:Nat):Int).toNat=k by omega,decide_eq_decide]
  exact ⟨fun h=>h.2.2,fun h=>⟨by omega,h35,h⟩⟩
 obtain ⟨T,hT⟩:∃T,rI s.data.toList (k:Int)=T:=⟨_,rfl⟩
 obtain ⟨N,hN⟩:∃N,rJ s.data.toList (k:Int)=N:=⟨_,rfl⟩
 obtain ⟨O,hO⟩:∃O,be s.data.toList (k:Int)=O:=⟨_,rfl⟩
 have HT:=Lib.hid hT
 have HN:=Lib.hid hN
 have HO:=Lib.hid hO
 have HRD:=Lib.hid hRD
 rw [hT,hN,hO]
 have hfl:=ua s k hk
 obtain ⟨X,hX⟩:∃X,nv s.data.toList (k+1)=X:=⟨_,rfl⟩
 have HX:=Lib.hid hX
 clear h35 hRD hT hN hO hX
 have I35:=Lib.hid i35
 have b35:(((s[k].toNat:Nat):Int) != 35)=false:=by rw [i35];rfl
 clear i35
 have hk0:decide ((k:Int)<0)=false:=decide_eq_false (by omega)
 have i1:(k:Int)<(s.size:Int):=by omega
 cases X
 ·have HF:Hid (bC s.data.toList k=k+1):=Lib.hid (by unfold bC;rw [HX.out];rfl)
  rw [HF.out] at hfl
  by_cases h1:k+1<s.size
  ·have n1:(((s[k+1].toNat:Nat):Int)==120)=false:=by
    rw [beq_eq_false_iff_ne];intro h
    have:=HX.out
    unfold nv at this
    rw [cM s _ h1,decide_eq_false_iff_not] at this
    exact this (.inl (aQ _ 120 (by decide) h))
   have n2:(((s[k+1].toNat:Nat):Int)==88)=false:=by
    rw [beq_eq_false_iff_ne];intro h
    have:=HX.out
    unfold nv at this
    rw [cM s _ h1,decide_eq_false_iff_not] at this
    exact this (.inr (aQ _ 88 (by decide) h))
   have i2:(k:Int)+1<(s.size:Int):=by omega
   go_enter Tryz.func180,Tryz.ntmps180
   go_wp2
   clear hk0
   clear n1 n2 b35
   go_loopw [9] (fun v wr=>∃j:Nat,k+1+j≤s.size∧v= .int .i64 ((k:Int)+1+(j:Int))∧(∀c∈(s.data.toList.drop (k+1)).take j,cK 10 c=true)∧w=wr) (fun v _=>s.size-(ae v).toNat)
   case atStart=>exact ⟨0,by omega,by go_num,by simp,rfl⟩
   case round=>
    obtain ⟨j,hj,rfl,hd,rfl⟩:=hrel
    have HD:=Lib.hid hd
    clear hd
    have j1:(k:Int)+1+(j:Int)≤(s.size:Int):=by omega
    have j2:(k:Int)+1≤(k:Int)+1+(j:Int):=by omega
    by_cases hlt:k+1+j<s.size
    ·have hc:=s[k+1+j].toNat_lt
     have j3:(k:Int)+1+(j:Int)<(s.size:Int):=by omega
     rcases iG (s[k+1+j].toNat:Int) (by omega) (by omega) with h|h
     focus
      have HH:=Lib.hid h
      clear h
      have e:=jx 10 (s.data.toList.drop (k+1)) j HD.out (.inr ⟨_,_,gP s (k+1) j hlt,qh 10 _ HH.out⟩)
     rotate_left
     focus
      obtain ⟨d,hd⟩:∃d:Nat,bY (s[k+1+j].toNat:Int)=(d:Int):=⟨(bY (s[k+1+j].toNat:Int)).toNat,by omega⟩
      rw [hd] at h
      have hd16:d<16:=by omega
      have HH:=Lib.hid hd
      clear h hd
      by_cases h9:9<d
     focus
      have e:=jx 10 (s.data.toList.drop (k+1)) j HD.out (.inr ⟨_,_,gP s (k+1) j hlt,qi 10 _ d HH.out (by omega)⟩)
     rotate_left
     ·have HY:=Lib.hid (mu 10 s[k+1+j] d HH.out (by omega))
      go_wp2_with (fail)
      refine (eg _ _ (by omega) (by omega)).mono ?_
      rintro e w1 ⟨rfl,rfl⟩
      rw [HH.out]
      go_wp2
      go_roundw
      case rel=>exact ⟨j+1,by omega,by go_num,by (rw [wk _ _ _ _ (gP s (k+1) j hlt)];intro c hm;rcases List.mem_append.1 hm with hm|hm;exact HD.out c hm;rw [List.mem_singleton.1 hm];exact HY.out),trivial⟩
      case measure=>simp [ae];omega
     all_goals
      have HDA:Hid (aC s.data.toList k=(s.data.toList.drop (k+1)).take j):=Lib.hid (by unfold aC;rw [HX.out,HF.out];exact e)
      have HTW:Hid (eX 10 ((s.data.toList.drop (k+1)).take j)=(s.data.toList.drop (k+1)).take j):=Lib.hid (by rw [←e];exact gO _ _)
      clear e
      by_cases hj0:j=0
      ·have HVAL:Hid (kh false (s.extract (k+1) (k+1+j)).data.toList= -1):=Lib.hid (by rw [rK,hj0,List.take_zero];exact iI _)
       have HA:=Lib.hid (qj HRD.out (by rw [HDA.out,hj0,List.take_zero]))
       clear hj0
       go_wp2_with (fail)
       refine (eg _ _ (by omega) (by omega)).mono ?_
       rintro e w1 ⟨rfl,rfl⟩
       rw [HH.out]
       go_wp2_with (fail)
       refine (eY _ _ _ (by rw [ByteArray.size_extract];omega)).mono ?_
       rintro e w1 ⟨rfl,rfl⟩
       rw [HVAL.out]
       go_wp2
       go_ret3
       exact ⟨by rw [←HT.out,←HN.out,←HO.out,HA.out.1,HA.out.2.1,HA.out.2.2];rfl,Below.refl _ _⟩
      ·have hne:(s.data.toList.drop (k+1)).take j≠[]:=fun h=>hj0 (by rw [←dy s (k+1) j hj,h];rfl)
       obtain ⟨v,hv⟩:∃v,fp s.data.toList k=v:=⟨_,rfl⟩
       have hvl:v≤1114112:=by rw [←hv];exact ju _ _
       have HV:=Lib.hid hv
       have HVAL:Hid (kh false (s.extract (k+1) (k+1+j)).data.toList=(v:Int)):=Lib.hid (by rw [rK,iH false _ HTW.out hne,←hv,fp,HX.out,HDA.out])
       have HA:=Lib.hid (my HRD.out (by rw [HDA.out];exact hne))
       clear hj0 hne hv
       by_cases h59:((s[k+1+j].toNat:Nat):Int)=59
       focus
        have b59:(((s[k+1+j].toNat:Nat):Int)==59)=true:=by rw [h59];rfl
        have H59:Hid (s.data.toList.getD (k+1+j) 0=59):=Lib.hid (by rw [cM s _ hlt];exact aQ _ 59 (by decide) h59)
        clear h59
        have HEN:Hid (cw s.data.toList k=k+1+j+1):=Lib.hid (by unfold cw;rw [HF.out,HDA.out,dy s (k+1) j hj];exact if_pos H59.out)
       rotate_left
       focus
        have b59:(((s[k+1+j].toNat:Nat):Int)==59)=false:=by rw [beq_eq_false_iff_ne];exact h59
        have H59:Hid (s.data.toList.getD (k+1+j) 0≠59):=Lib.hid (by rw [cM s _ hlt];exact ef _ 59 (by decide) h59)
        clear h59
        have HEN:Hid (cw s.data.toList k=k+1+j):=Lib.hid (by unfold cw;rw [HF.out,HDA.out,dy s (k+1) j hj];exact if_neg H59.out)
       rotate_left
       all_goals
        go_wp2_with (fail)
        refine (eg _ _ (by omega) (by omega)).mono ?_
        rintro e w1 ⟨rfl,rfl⟩
        rw [HH.out]
        go_wp2_with (fail)
        refine (eY _ _ _ (by rw [ByteArray.size_extract];omega)).mono ?_
        rintro e w1 ⟨rfl,rfl⟩
        rw [HVAL.out]
        go_wp2_with (fail)
        refine (ue v _ (by omega) (by omega)).mono ?_
        rintro e w1 ⟨rfl,hb1⟩
        go_wp2
        go_ret3
        exact ⟨by rw [←HT.out,←HN.out,←HO.out,HA.out.1,HA.out.2.1,HA.out.2.2,HV.out,HEN.out];simp,hb1⟩
    ·have e:=jx 10 (s.data.toList.drop (k+1)) j HD.out (.inl (nK s (k+1) j hlt))
     have HDA:Hid (aC s.data.toList k=(s.data.toList.drop (k+1)).take j):=Lib.hid (by unfold aC;rw [HX.out,HF.out];exact e)
     have HTW:Hid (eX 10 ((s.data.toList.drop (k+1)).take j)=(s.data.toList.drop (k+1)).take j):=Lib.hid (by rw [←e];exact gO _ _)
     clear e
     by_cases hj0:j=0
     ·have HVAL:Hid (kh false (s.extract (k+1) (k+1+j)).data.toList= -1):=Lib.hid (by rw [rK,hj0,List.take_zero];exact iI _)
      have HA:=Lib.hid (qj HRD.out (by rw [HDA.out,hj0,List.take_zero]))
      clear hj0
      go_wp2_with (fail)
      refine (eY _ _ _ (by rw [ByteArray.size_extract];omega)).mono ?_
      rintro e w1 ⟨rfl,rfl⟩
      rw [HVAL.out]
      go_wp2
      go_ret3
      exact ⟨by rw [←HT.out,←HN.out,←HO.out,HA.out.1,HA.out.2.1,HA.out.2.2];rfl,Below.refl _ _⟩
     ·have hne:(s.data.toList.drop (k+1)).take j≠[]:=fun h=>hj0 (by rw [←dy s (k+1) j hj,h];rfl)
      obtain ⟨v,hv⟩:∃v,fp s.data.toList k=v:=⟨_,rfl⟩
      have hvl:v≤1114112:=by rw [←hv];exact ju _ _
      have HV:=Lib.hid hv
      have HVAL:Hid (kh false (s.extract (k+1) (k+1+j)).data.toList=(v:Int)):=Lib.hid (by rw [rK,iH false _ HTW.out hne,←hv,fp,HX.out,HDA.out])
      have HA:=Lib.hid (my HRD.out (by rw [HDA.out];exact hne))
      clear hj0 hne hv
      have H59:Hid (s.data.toList.getD (k+1+j) 0≠59):=Lib.hid (fun h=>hlt (bV s _ (by rw [h];decide)))
      have HEN:Hid (cw s.data.toList k=k+1+j):=Lib.hid (by unfold cw;rw [HF.out,HDA.out,dy s (k+1) j hj];exact if_neg H59.out)
      go_wp2_with (fail)
      refine (eY _ _ _ (by rw [ByteArray.size_extract];omega)).mono ?_
      rintro e w1 ⟨rfl,rfl⟩
      rw [HVAL.out]
      go_wp2_with (fail)
      refine (ue v _ (by omega) (by omega)).mono ?_
      rintro e w1 ⟨rfl,hb1⟩
      go_wp2
      go_ret3
      exact ⟨by rw [←HT.out,←HN.out,←HO.out,HA.out.1,HA.out.2.1,HA.out.2.2,HV.out,HEN.out];simp,hb1⟩
  ·have i2:(s.size:Int)≤(k:Int)+1:=by omega
   go_enter Tryz.func180,Tryz.ntmps180
   go_wp2
   clear hk0
   clear b35
   go_loopw [9] (fun v wr=>∃j:Nat,k+1+j≤s.size∧v= .int .i64 ((k:Int)+1+(j:Int))∧(∀c∈(s.data.toList.drop (k+1)).take j,cK 10 c=true)∧w=wr) (fun v _=>s.size-(ae v).toNat)
   case atStart=>exact ⟨0,by omega,by go_num,by simp,rfl⟩
   case round=>
    obtain ⟨j,hj,rfl,hd,rfl⟩:=hrel
    have HD:=Lib.hid hd
    clear hd
    have j1:(k:Int)+1+(j:Int)≤(s.size:Int):=by omega
    have j2:(k:Int)+1≤(k:Int)+1+(j:Int):=by omega
    by_cases hlt:k+1+j<s.size
    ·exact absurd hlt (by omega)
    ·have e:=jx 10 (s.data.toList.drop (k+1)) j HD.out (.inl (nK s (k+1) j hlt))
     have HDA:Hid (aC s.data.toList k=(s.data.toList.drop (k+1)).take j):=Lib.hid (by unfold aC;rw [HX.out,HF.out];exact e)
     have HTW:Hid (eX 10 ((s.data.toList.drop (k+1)).take j)=(s.data.toList.drop (k+1)).take j):=Lib.hid (by rw [←e];exact gO _ _)
     clear e
     by_cases hj0:j=0
     ·have HVAL:Hid (kh false (s.extract (k+1) (k+1+j)).data.toList= -1):=Lib.hid (by rw [rK,hj0,List.take_zero];exact iI _)
      have HA:=Lib.hid (qj HRD.out (by rw [HDA.out,hj0,List.take_zero]))
      clear hj0
      go_wp2_with (fail)
      refine (eY _ _ _ (by rw [ByteArray.size_extract];omega)).mono ?_
      rintro e w1 ⟨rfl,rfl⟩
      rw [HVAL.out]
      go_wp2
      go_ret3
      exact ⟨by rw [←HT.out,←HN.out,←HO.out,HA.out.1,HA.out.2.1,HA.out.2.2];rfl,Below.refl _ _⟩
     ·have hne:(s.data.toList.drop (k+1)).take j≠[]:=fun h=>hj0 (by rw [←dy s (k+1) j hj,h];rfl)
      obtain ⟨v,hv⟩:∃v,fp s.data.toList k=v:=⟨_,rfl⟩
      have hvl:v≤1114112:=by rw [←hv];exact ju _ _
      have HV:=Lib.hid hv
      have HVAL:Hid (kh false (s.extract (k+1) (k+1+j)).data.toList=(v:Int)):=Lib.hid (by rw [rK,iH false _ HTW.out hne,←hv,fp,HX.out,HDA.out])
      have HA:=Lib.hid (my HRD.out (by rw [HDA.out];exact hne))
      clear hj0 hne hv
      have H59:Hid (s.data.toList.getD (k+1+j) 0≠59):=Lib.hid (fun h=>hlt (bV s _ (by rw [h];decide)))
      have HEN:Hid (cw s.data.toList k=k+1+j):=Lib.hid (by unfold cw;rw [HF.out,HDA.out,dy s (k+1) j hj];exact if_neg H59.out)
      go_wp2_with (fail)
      refine (eY _ _ _ (by rw [ByteArray.size_extract];omega)).mono ?_
      rintro e w1 ⟨rfl,rfl⟩
      rw [HVAL.out]
      go_wp2_with (fail)
      refine (ue v _ (by omega) (by omega)).mono ?_
      rintro e w1 ⟨rfl,hb1⟩
      go_wp2
      go_ret3
      exact ⟨by rw [←HT.out,←HN.out,←HO.out,HA.out.1,HA.out.2.1,HA.out.2.2,HV.out,HEN.out];simp,hb1⟩
 ·have HF:Hid (bC s.data.toList k=k+1+1):=Lib.hid (by unfold bC;rw [HX.out];rfl)
  rw [HF.out] at hfl
  have h1:k+1<s.size:=mt s _ HX.out
  have i2:(k:Int)+1<(s.size:Int):=by omega
  have hcs:((s[k+1].toNat:Nat):Int)=120∨((s[k+1].toNat:Nat):Int)=88:=by
   have:=HX.out
   unfold nv at this
   rw [cM s _ h1,decide_eq_true_eq] at this
   rcases this with h|h<;>rw [h]
   ·exact .inl rfl
   ·exact .inr rfl
  rcases hcs with h|h
  focus
   have n1:(((s[k+1].toNat:Nat):Int)==120)=true:=by rw [h];rfl
   clear h
   go_enter Tryz.func180,Tryz.ntmps180
   go_wp2
   clear hk0
   clear n1 b35
  rotate_left
  focus
   have n1:(((s[k+1].toNat:Nat):Int)==120)=false:=by rw [h];rfl
   have n2:(((s[k+1].toNat:Nat):Int)==88)=true:=by rw [h];rfl
   clear h
   go_enter Tryz.func180,Tryz.ntmps180
   go_wp2
   clear hk0
   clear n1 n2 b35
  rotate_left
  all_goals
   go_loopw [9] (fun v wr=>∃j:Nat,k+1+1+j≤s.size∧v= .int .i64 ((k:Int)+1+1+(j:Int))∧(∀c∈(s.data.toList.drop (k+1+1)).take j,cK 16 c=true)∧w=wr) (fun v _=>s.size-(ae v).toNat)
   case atStart=>exact ⟨0,by omega,by go_num,by simp,rfl⟩
   case round=>
    obtain ⟨j,hj,rfl,hd,rfl⟩:=hrel
    have HD:=Lib.hid hd
    clear hd
    have j1:(k:Int)+1+1+(j:Int)≤(s.size:Int):=by omega
    have j2:(k:Int)+1+1≤(k:Int)+1+1+(j:Int):=by omega
    by_cases hlt:k+1+1+j<s.size
    focus
     have hc:=s[k+1+1+j].toNat_lt
     have j3:(k:Int)+1+1+(j:Int)<(s.size:Int):=by omega
     rcases iG (s[k+1+1+j].toNat:Int) (by omega) (by omega) with h|h
    focus
     have HH:=Lib.hid h
     clear h
     have e:=jx 16 (s.data.toList.drop (k+1+1)) j HD.out (.inr ⟨_,_,gP s (k+1+1) j hlt,qh 16 _ HH.out⟩)
     have HDA:Hid (aC s.data.toList k=(s.data.toList.drop (k+1+1)).take j):=Lib.hid (by unfold aC;rw [HX.out,HF.out];exact e)
     have HTW:Hid (eX 16 ((s.data.toList.drop (k+1+1)).take j)=(s.data.toList.drop (k+1+1)).take j):=Lib.hid (by rw [←e];exact gO _ _)
     clear e
     by_cases hj0:j=0
    ·have HVAL:Hid (kh true (s.extract (k+1+1) (k+1+1+j)).data.toList= -1):=Lib.hid (by rw [rK,hj0,List.take_zero];exact iI _)
     have HA:=Lib.hid (qj HRD.out (by rw [HDA.out,hj0,List.take_zero]))
     clear hj0
     go_wp2_with (fail)
     refine (eg _ _ (by omega) (by omega)).mono ?_
     rintro e w1 ⟨rfl,rfl⟩
     rw [HH.out]
     go_wp2_with (fail)
     refine (eY _ _ _ (by rw [ByteArray.size_extract];omega)).mono ?_
     rintro e w1 ⟨rfl,rfl⟩
     rw [HVAL.out]
     go_wp2
     go_ret3
     exact ⟨by rw [←HT.out,←HN.out,←HO.out,HA.out.1,HA.out.2.1,HA.out.2.2];rfl,Below.refl _ _⟩
    focus
     have hne:(s.data.toList.drop (k+1+1)).take j≠[]:=fun h=>hj0 (by rw [←dy s (k+1+1) j hj,h];rfl)
     obtain ⟨v,hv⟩:∃v,fp s.data.toList k=v:=⟨_,rfl⟩
     have hvl:v≤1114112:=by rw [←hv];exact ju _ _
     have HV:=Lib.hid hv
     have HVAL:Hid (kh true (s.extract (k+1+1) (k+1+1+j)).data.toList=(v:Int)):=Lib.hid (by rw [rK,iH true _ HTW.out hne,←hv,fp,HX.out,HDA.out])
     have HA:=Lib.hid (my HRD.out (by rw [HDA.out];exact hne))
     clear hj0 hne hv
     by_cases h59:((s[k+1+1+j].toNat:Nat):Int)=59
    focus
     have b59:(((s[k+1+1+j].toNat:Nat):Int)==59)=true:=by rw [h59];rfl
     have H59:Hid (s.data.toList.getD (k+1+1+j) 0=59):=Lib.hid (by rw [cM s _ hlt];exact aQ _ 59 (by decide) h59)
     clear h59
     have HEN:Hid (cw s.data.toList k=k+1+1+j+1):=Lib.hid (by unfold cw;rw [HF.out,HDA.out,dy s (k+1+1) j hj];exact if_pos H59.out)
     go_wp2_with (fail)
     refine (eg _ _ (by omega) (by omega)).mono ?_
     rintro e w1 ⟨rfl,rfl⟩
     rw [HH.out]
    rotate_left
    focus
     have b59:(((s[k+1+1+j].toNat:Nat):Int)==59)=false:=by rw [beq_eq_false_iff_ne];exact h59
     have H59:Hid (s.data.toList.getD (k+1+1+j) 0≠59):=Lib.hid (by rw [cM s _ hlt];exact ef _ 59 (by decide) h59)
     clear h59
     have HEN:Hid (cw s.data.toList k=k+1+1+j):=Lib.hid (by unfold cw;rw [HF.out,HDA.out,dy s (k+1+1) j hj];exact if_neg H59.out)
     go_wp2_with (fail)
     refine (eg _ _ (by omega) (by omega)).mono ?_
     rintro e w1 ⟨rfl,rfl⟩
     rw [HH.out]
    rotate_left
    ·obtain ⟨d,hd⟩:∃d:Nat,bY (s[k+1+1+j].toNat:Int)=(d:Int):=⟨(bY (s[k+1+1+j].toNat:Int)).toNat,by omega⟩
     rw [hd] at h
     have hd16:d<16:=by omega
     have HH:=Lib.hid hd
     clear h hd
     have HY:=Lib.hid (mu 16 s[k+1+1+j] d HH.out (by omega))
     go_wp2_with (fail)
     refine (eg _ _ (by omega) (by omega)).mono ?_
     rintro e w1 ⟨rfl,rfl⟩
     rw [HH.out]
     go_wp2
     all_goals
      go_roundw
      case rel=>exact ⟨j+1,by omega,by go_num,by (rw [wk _ _ _ _ (gP s (k+1+1) j hlt)];intro c hm;rcases List.mem_append.1 hm with hm|hm;exact HD.out c hm;rw [List.mem_singleton.1 hm];exact HY.out),trivial⟩
      case measure=>simp [ae];omega
    focus
     have e:=jx 16 (s.data.toList.drop (k+1+1)) j HD.out (.inl (nK s (k+1+1) j hlt))
     have HDA:Hid (aC s.data.toList k=(s.data.toList.drop (k+1+1)).take j):=Lib.hid (by unfold aC;rw [HX.out,HF.out];exact e)
     have HTW:Hid (eX 16 ((s.data.toList.drop (k+1+1)).take j)=(s.data.toList.drop (k+1+1)).take j):=Lib.hid (by rw [←e];exact gO _ _)
     clear e
     by_cases hj0:j=0
    ·have HVAL:Hid (kh true (s.extract (k+1+1) (k+1+1+j)).data.toList= -1):=Lib.hid (by rw [rK,hj0,List.take_zero];exact iI _)
     have HA:=Lib.hid (qj HRD.out (by rw [HDA.out,hj0,List.take_zero]))
     clear hj0
     go_wp2_with (fail)
     refine (eY _ _ _ (by rw [ByteArray.size_extract];omega)).mono ?_
     rintro e w1 ⟨rfl,rfl⟩
     rw [HVAL.out]
     go_wp2
     go_ret3
     exact ⟨by rw [←HT.out,←HN.out,←HO.out,HA.out.1,HA.out.2.1,HA.out.2.2];rfl,Below.refl _ _⟩
    focus
     have hne:(s.data.toList.drop (k+1+1)).take j≠[]:=fun h=>hj0 (by rw [←dy s (k+1+1) j hj,h];rfl)
     obtain ⟨v,hv⟩:∃v,fp s.data.toList k=v:=⟨_,rfl⟩
     have hvl:v≤1114112:=by rw [←hv];exact ju _ _
     have HV:=Lib.hid hv
     have HVAL:Hid (kh true (s.extract (k+1+1) (k+1+1+j)).data.toList=(v:Int)):=Lib.hid (by rw [rK,iH true _ HTW.out hne,←hv,fp,HX.out,HDA.out])
     have HA:=Lib.hid (my HRD.out (by rw [HDA.out];exact hne))
     clear hj0 hne hv
     have H59:Hid (s.data.toList.getD (k+1+1+j) 0≠59):=Lib.hid (fun h=>hlt (bV s _ (by rw [h];decide)))
     have HEN:Hid (cw s.data.toList k=k+1+1+j):=Lib.hid (by unfold cw;rw [HF.out,HDA.out,dy s (k+1+1) j hj];exact if_neg H59.out)
    rotate_left
    all_goals
     go_wp2_with (fail)
     refine (eY _ _ _ (by rw [ByteArray.size_extract];omega)).mono ?_
     rintro e w1 ⟨rfl,rfl⟩
     rw [HVAL.out]
     go_wp2_with (fail)
     refine (ue v _ (by omega) (by omega)).mono ?_
     rintro e w1 ⟨rfl,hb1⟩
     go_wp2
     go_ret3
     exact ⟨by rw [←HT.out,←HN.out,←HO.out,HA.out.1,HA.out.2.1,HA.out.2.2,HV.out,HEN.out];simp,hb1⟩
end Go.Proofs.YtpmdcppnlggckaaGreatDoor
namespace Go.Proofs.YtpmdcppnlggckaaGreatDoor
open Go.RowKit Go.Lib
theorem ug (s:ByteArray) (a:Int) (w:World) (hs:s.size≤1099511627776) (ha: -9223372036854775808≤a) (hb:a≤9223372036854775807):Calls Tryz.prog 180 #[.string s,.int .i64 a] w fun e w'=>e= .returned (.tuple #[.string (rI s.data.toList a),.int .i64 (rJ s.data.toList a),.bool (be s.data.toList a)])∧Below w.heap.size w w':=by
 by_cases hq:0≤a∧s.data.toList.getD a.toNat 0=35
 ·obtain ⟨h0,h35⟩:=hq
  obtain ⟨k,rfl⟩:∃k:Nat,a=k:=⟨a.toNat,by omega⟩
  rw [show ((k:Nat):Int).toNat=k by omega] at h35
  exact yS s k w hs h35
 ·have hr:be s.data.toList a=false:=by
   unfold be
   rw [decide_eq_false_iff_not]
   exact fun h=>hq ⟨h.1,h.2.1⟩
  rw [jv hr,jw hr,hr]
  clear hr
  by_cases h0:a<0
  ·clear hq
   go_enter Tryz.func180,Tryz.ntmps180
   go_wp2
   go_ret3
   exact ⟨rfl,Below.refl _ _⟩
  ·obtain ⟨k,rfl⟩:∃k:Nat,a=k:=⟨a.toNat,by omega⟩
   by_cases h1:k<s.size
   ·have b35:(((s[k].toNat:Nat):Int) != 35)=true:=by
     rw [bne_iff_ne]
     intro h
     refine hq ⟨by omega,?_⟩
     rw [show ((k:Nat):Int).toNat=k by omega,cM s k h1]
     exact aQ _ 35 (by decide) h
    clear hq
    go_enter Tryz.func180,Tryz.ntmps180
    go_wp2
    go_ret3
    exact ⟨rfl,Below.refl _ _⟩
   ·have h2:(s.size:Int)≤(k:Int):=by omega
    clear hq
    go_enter Tryz.func180,Tryz.ntmps180
    go_wp2
    go_ret3
    exact ⟨rfl,Below.refl _ _⟩
end Go.Proofs.YtpmdcppnlggckaaGreatDoor
namespace Go.Proofs.YtpmdcppnlggckaaGreatDoor
open Go.RowKit Go.Lib
theorem Ej (n:Int):1≤(fV n).size∧(fV n).size≤4:=by
 have h:=ew (o4 n)
 have e:(fV n).size=(encodeRune (o4 n)).length:=by rw [Lib.size_eq];rfl
 rw [e];exact h
theorem uh (l:List UInt8) (k:Nat):cw l k=if l.getD (bC l k+(aC l k).length) 0=59 then bC l k+(aC l k).length+1 else bC l k+(aC l k).length:=rfl
theorem Ek (s:ByteArray) (k:Nat) (hr:be s.data.toList (k:Int)=true):k+1<cw s.data.toList k∧cw s.data.toList k≤s.size∧∀(h1:cw s.data.toList k-1<s.size) (h2:cw s.data.toList k<s.size),((s[cw s.data.toList k-1].toNat:Nat):Int)≠59→¬(48≤((s[cw s.data.toList k].toNat:Nat):Int)∧((s[cw s.data.toList k].toNat:Nat):Int)≤57)∧((s[cw s.data.toList k].toNat:Nat):Int)≠59:=by
 unfold be at hr
 rw [decide_eq_true_eq,show ((k:Nat):Int).toNat=k by omega] at hr
 obtain ⟨-,h35,hne⟩:=hr
 have hk:k<s.size:=bV s k (by rw [h35];decide)
 have hlen:0<(aC s.data.toList k).length:=List.length_pos_iff.2 hne
 have he:=J0 s k hk
 have hf:=ua s k hk
 refine ⟨by omega,he.1,?_⟩
 intro h1 h2 h3
 obtain ⟨e,hee⟩:∃e,bC s.data.toList k+(aC s.data.toList k).length=e:=⟨_,rfl⟩
 have hE:cw s.data.toList k=if s.data.toList.getD e 0=59 then e+1 else e:=by rw [←hee];rfl
 by_cases h59:s.data.toList.getD e 0=59
 ·rw [if_pos h59] at hE
  exfalso
  apply h3
  have e1:s[cw s.data.toList k-1]=s.data.toList.getD e 0:=by
   rw [cM s e (by omega)]
   congr 1;omega
  rw [e1,h59];rfl
 ·rw [if_neg h59] at hE
  have hlt:e<s.size:=by omega
  have e1:s[cw s.data.toList k]=s[e]:=by congr 1
  rw [e1]
  have hd:cK (cC (nv s.data.toList (k+1))) s[e]=false:=by
   have hdp:aC s.data.toList k++(s.data.toList.drop (bC s.data.toList k)).dropWhile (cK (cC (nv s.data.toList (k+1))))=s.data.toList.drop (bC s.data.toList k):=List.takeWhile_append_dropWhile
   have hdr:(s.data.toList.drop (bC s.data.toList k)).dropWhile (cK (cC (nv s.data.toList (k+1))))=s[e]::s.data.toList.drop (e+1):=by
    have:=congrArg (List.drop (aC s.data.toList k).length) hdp
    rw [List.drop_left' rfl,List.drop_drop,hee,aj s e hlt] at this
    exact this
   have h4:=List.head?_dropWhile_not (cK (cC (nv s.data.toList (k+1)))) (s.data.toList.drop (bC s.data.toList k))
   rw [hdr] at h4
   simpa using h4
  constructor
  ·intro h
   have hh:bY (s[e].toNat:Int)=(s[e].toNat:Int)-48:=by unfold bY;rw [if_pos h]
   unfold cK at hd
   rw [hh,decide_eq_false_iff_not] at hd
   have:(10:Int)≤(cC (nv s.data.toList (k+1)):Int):=by cases nv s.data.toList (k+1)<;>decide
   omega
  ·intro h
   apply h59
   rw [cM s e hlt]
   exact aQ _ 59 (by decide) h
end Go.Proofs.YtpmdcppnlggckaaGreatDoor
namespace Go.Proofs.YtpmdcppnlggckaaGreatDoor
open Go.RowKit Go.Lib
end Go.Proofs.YtpmdcppnlggckaaGreatDoor
