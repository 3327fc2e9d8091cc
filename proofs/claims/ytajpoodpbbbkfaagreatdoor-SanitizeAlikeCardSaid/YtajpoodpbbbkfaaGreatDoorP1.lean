/-
  Texts laid together: Small, SignMath, SignCode, SignBeg, SignRef, SignRefB, FloatMath, UtfMath, UtfMathB, UtfSgn.
-/
import Derived.WalkKit
import Derived.RowKit
import Derived.Lib.Bytes
import Derived.Lib.Hide
import Derived.Lib.Strings
import Derived.WalkSpells
import Derived.WalkLawsBesides
import Derived.Test.YtajpoodpbbbkfaaGreatDoorProg
import Derived.Deep.QuietTactic
import Derived.BigQuiet
import Derived.Laws.IdiomStrings
import Derived.Below
import Derived.Deep.RegionHeld3
import Derived.Laws.FloatArith
import Derived.Laws.ComplexArith
import Derived.Lib.MapLaws
import Derived.Lib.ValidLaws
import Derived.Lib.QuoteLoop
set_option maxHeartbeats 4000000
set_option maxRecDepth 100000
namespace Go.Proofs.YtajpoodpbbbkfaaGreatDoor
open Go.RowKit Go.Lib
def ae:Value→Int| .int _ q=>q|_=>0
theorem aO {a b:ByteArray} (h:a=b):Ending.returned (.string a)= .returned (.string b):=by rw [h]
theorem az {k:IntKind} {a b:Int} (h:a=b):Ending.returned (.int k a)= .returned (.int k b):=by rw [h]
theorem au {a b:Bool} (h:a=b):Ending.returned (.bool a)= .returned (.bool b):=by rw [h]
theorem aj (s:ByteArray) (i:Nat) (h:i<s.size):s.data.toList.drop i=s[i]::s.data.toList.drop (i+1):=by
 rw [List.drop_eq_getElem_cons (by rw [←Lib.size_eq];exact h)]
 rfl
theorem eR (c:UInt8) (n:Nat) (hn:n<256) (h:¬((c.toNat:Nat):Int)=(n:Int)):c≠UInt8.ofNat n:=by
 intro e;apply h;subst e
 rw [UInt8.toNat_ofNat'];omega
theorem aT (c:UInt8) (n:Nat) (hn:n<256) (h:((c.toNat:Nat):Int)=(n:Int)):c=UInt8.ofNat n:=by
 rw [←UInt8.toNat_inj,UInt8.toNat_ofNat'];omega
theorem cr (s:ByteArray) (i:Nat) (h:i<s.size):(s.extract i (i+1)).data.toList=[s[i]]:=by
 rw [extract_data,aj s i h,show i+1-i=1 by omega];rfl
theorem bl {a b:ByteArray} (h:a.data.toList=b.data.toList):a=b:=by
 cases a;cases b;congr 1;exact Array.toList_inj.1 h
theorem ib (A B:ByteArray):(A.toList==B.toList)=decide (A.data.toList=B.data.toList):=by
 rw [ByteArray.toList_eq,ByteArray.toList_eq,Bool.eq_iff_iff,beq_iff_eq,decide_eq_true_iff]
end Go.Proofs.YtajpoodpbbbkfaaGreatDoor
namespace Go.Proofs.YtajpoodpbbbkfaaGreatDoor
open Go.RowKit Go.Lib
def Dj (q:Int):Prop:=65≤q∧q≤90
instance (q:Int):Decidable (Dj q):=by unfold Dj;exact inferInstance
def gZ (q:Int):Int:=if 65≤q∧q≤90 then 14 else if 97≤q∧q≤122 then 12 else if 48≤q∧q≤57 then 8 else if q=9∨q=10∨q=12∨q=32 then 1 else 0
def cG (q:Int):Bool:=decide (q=9∨q=10∨q=12∨q=32)
def bF (q:Int):Bool:=decide (65≤q∧q≤90∨97≤q∧q≤122)
def k8 (q:Int):Bool:=decide (48≤q∧q≤57)
def rJ (q:Int):Bool:=bF q||k8 q
def cq (q:Int):Int:=if 48≤q∧q≤57 then q-48 else if 65≤q∧q≤70 then q-55 else if 97≤q∧q≤102 then q-87 else-1
def fY (q:Int):Int:=if 65≤q∧q≤90 then q+32 else q
def ct (c:UInt8):UInt8:=UInt8.ofNat (fY (c.toNat:Int)).toNat
theorem Bo (q:Int) (h0:0≤q) (h1:q<256):0≤fY q∧fY q<256:=by unfold fY;split<;>omega
theorem cU (c:UInt8):((ct c).toNat:Int)=fY (c.toNat:Int):=by
 have h:=Bo (c.toNat:Int) (by omega) (by have:=c.toNat_lt;omega)
 unfold ct
 rw [UInt8.toNat_ofNat']
 omega
def aF (l:List UInt8):List UInt8:=l.map ct
theorem ej (l:List UInt8):(aF l).length=l.length:=List.length_map _
theorem yq (a b:List UInt8):aF (a++b)=aF a++aF b:=List.map_append
theorem Eu (l:List UInt8) (k:Nat):aF (l.drop k)=(aF l).drop k:=List.map_drop
theorem aM (c:UInt8) (l:List UInt8):aF (c::l)=ct c::aF l:=rfl
def qV (s:ByteArray):ByteArray:=⟨(aF s.data.toList).toArray⟩
theorem fo (s:ByteArray):(qV s).data.toList=aF s.data.toList:=by simp [qV]
theorem jw (s:ByteArray):(qV s).size=s.size:=by rw [Lib.size_eq,Lib.size_eq,fo,ej]
def bf (s:ByteArray) (at_:Int) (low:ByteArray):Bool:=
 decide (0≤at_∧at_≤(s.size:Int))&&low.data.toList.isPrefixOf (aF (s.data.toList.drop at_.toNat))
theorem yt (s low:ByteArray) (a k:Nat) (h1:k<low.size) (h2:a+k<s.size):(low.data.toList.drop k).isPrefixOf (aF (s.data.toList.drop (a+k)))=(low[k]==ct s[a+k]&&(low.data.toList.drop (k+1)).isPrefixOf (aF (s.data.toList.drop (a+(k+1))))):=by
 rw [aj low k h1,aj s (a+k) h2,aM,List.isPrefixOf_cons_cons];rfl
theorem Dk (s low:ByteArray) (a k:Nat) (T:Bool) (h1:k<low.size) (h2:a+k<s.size) (he:fY (s[a+k].toNat:Int)=(low[k].toNat:Int)) (h:(low.data.toList.drop k).isPrefixOf (aF (s.data.toList.drop (a+k)))=T):(low.data.toList.drop (k+1)).isPrefixOf (aF (s.data.toList.drop (a+(k+1))))=T:=by
 have e:low[k]=ct s[a+k]:=by
  have:=cU s[a+k]
  rw [←UInt8.toNat_inj];omega
 rw [←h,yt s low a k h1 h2,beq_iff_eq.2 e,Bool.true_and]
theorem GQ (s low:ByteArray) (a k:Nat) (T:Bool) (h1:k<low.size) (h2:a+k<s.size) (he:¬fY (s[a+k].toNat:Int)=(low[k].toNat:Int)) (h:(low.data.toList.drop k).isPrefixOf (aF (s.data.toList.drop (a+k)))=T):false=T:=by
 have e:low[k]≠ct s[a+k]:=by
  intro e
  have:=cU s[a+k]
  rw [←e] at this
  omega
 rw [←h,yt s low a k h1 h2,beq_eq_false_iff_ne.2 e,Bool.false_and]
theorem Dl (s low:ByteArray) (a k:Nat) (h1:k=low.size):(low.data.toList.drop k).isPrefixOf (aF (s.data.toList.drop (a+k)))=true:=by
 rw [List.drop_eq_nil_of_le (by rw [←Lib.size_eq];omega)];exact List.isPrefixOf_nil_left
theorem Ev (s low:ByteArray) (a k:Nat) (h1:k<low.size) (h2:s.size≤a+k):(low.data.toList.drop k).isPrefixOf (aF (s.data.toList.drop (a+k)))=false:=by
 have e:s.data.toList.drop (a+k)=[]:=List.drop_eq_nil_of_le (by rw [←Lib.size_eq];omega)
 rw [aj low k h1,e];rfl
theorem GR (s low:ByteArray) (a:Nat) (h:s.size<a+low.size) (ha:a≤s.size):low.data.toList.isPrefixOf (aF (s.data.toList.drop a))=false:=by
 rw [Bool.eq_false_iff]
 intro e
 have:=(List.isPrefixOf_iff_prefix.1 e).length_le
 rw [ej,List.length_drop,←Lib.size_eq,←Lib.size_eq] at this
 omega
end Go.Proofs.YtajpoodpbbbkfaaGreatDoor
namespace Go.Proofs.YtajpoodpbbbkfaaGreatDoor
open Go.RowKit Go.Lib
theorem nS (q:Int) (w:World) (h0:0≤q) (h1:q<256):Calls Tryz.prog 156 #[.int .u8 q] w fun e w'=>e= .returned (.int .u8 (gZ q))∧w'=w:=by
 by_cases hA:65≤q∧q≤90
 ·rw [show gZ q=14 from if_pos hA]
  obtain ⟨ha,hb⟩:=hA
  go_enter Tryz.func156,Tryz.ntmps156
  go_wp2
  go_ret
  exact ⟨az (by decide),rfl⟩
 ·by_cases hB:97≤q∧q≤122
  ·rw [show gZ q=12 by unfold gZ;rw [if_neg hA,if_pos hB]]
   obtain ⟨ha,hb⟩:=hB
   go_enter Tryz.func156,Tryz.ntmps156
   go_wp2
   go_ret
   exact ⟨az (by decide),rfl⟩
  ·by_cases hC:48≤q∧q≤57
   ·rw [show gZ q=8 by unfold gZ;rw [if_neg hA,if_neg hB,if_pos hC]]
    obtain ⟨ha,hb⟩:=hC
    go_enter Tryz.func156,Tryz.ntmps156
    go_wp2
    go_ret
    exact ⟨az (by decide),rfl⟩
   ·obtain ⟨k,hk⟩:∃k,gZ q=k:=⟨_,rfl⟩
    have HK:=Lib.hid hk
    rw [hk]
    clear hk
    go_enter Tryz.func156,Tryz.ntmps156
    go_wp2
    all_goals go_ret
    all_goals refine ⟨az ?_,rfl⟩
    all_goals rw [←HK.out,gZ,if_neg hA,if_neg hB,if_neg hC]
    all_goals try simp only [beq_iff_eq] at*
    all_goals first
     |(rw [if_pos (by omega)];decide)
     |rw [if_neg (by omega)]
     |rw [if_neg (by simp_all)]
     |(rw [if_pos (by simp_all)];decide)
theorem Bp (q:Int):(bits .and .u8 (gZ q) 1 != 0)=cG q:=by
 unfold gZ cG
 by_cases hA:65≤q∧q≤90
 ·rw [if_pos hA,decide_eq_false (by omega)];decide
 ·rw [if_neg hA]
  by_cases hB:97≤q∧q≤122
  ·rw [if_pos hB,decide_eq_false (by omega)];decide
  ·rw [if_neg hB]
   by_cases hC:48≤q∧q≤57
   ·rw [if_pos hC,decide_eq_false (by omega)];decide
   ·rw [if_neg hC]
    by_cases hD:q=9∨q=10∨q=12∨q=32
    ·rw [if_pos hD,decide_eq_true hD];decide
    ·rw [if_neg hD,decide_eq_false hD];decide
theorem yu (q:Int):(bits .and .u8 (gZ q) 4 != 0)=bF q:=by
 unfold gZ bF
 by_cases hA:65≤q∧q≤90
 ·rw [if_pos hA,decide_eq_true (by omega)];decide
 ·rw [if_neg hA]
  by_cases hB:97≤q∧q≤122
  ·rw [if_pos hB,decide_eq_true (by omega)];decide
  ·rw [if_neg hB,decide_eq_false (by omega)]
   by_cases hC:48≤q∧q≤57
   ·rw [if_pos hC];decide
   ·rw [if_neg hC]
    by_cases hD:q=9∨q=10∨q=12∨q=32
    ·rw [if_pos hD];decide
    ·rw [if_neg hD];decide
theorem Ew (q:Int):(bits .and .u8 (gZ q) 8 != 0)=rJ q:=by
 unfold gZ rJ bF k8
 rw [←Bool.decide_or]
 by_cases hA:65≤q∧q≤90
 ·rw [if_pos hA,decide_eq_true (by omega)];decide
 ·rw [if_neg hA]
  by_cases hB:97≤q∧q≤122
  ·rw [if_pos hB,decide_eq_true (by omega)];decide
  ·rw [if_neg hB]
   by_cases hC:48≤q∧q≤57
   ·rw [if_pos hC,decide_eq_true (by omega)];decide
   ·rw [if_neg hC,decide_eq_false (by omega)]
    by_cases hD:q=9∨q=10∨q=12∨q=32
    ·rw [if_pos hD];decide
    ·rw [if_neg hD];decide
theorem Br (q:Int):(bits .and .u8 (gZ q) 2 != 0)=decide (65≤q∧q≤90):=by
 unfold gZ
 by_cases hA:65≤q∧q≤90
 ·rw [if_pos hA,decide_eq_true (by omega)];decide
 ·rw [if_neg hA,decide_eq_false hA]
  by_cases hB:97≤q∧q≤122
  ·rw [if_pos hB];decide
  ·rw [if_neg hB]
   by_cases hC:48≤q∧q≤57
   ·rw [if_pos hC];decide
   ·rw [if_neg hC]
    by_cases hD:q=9∨q=10∨q=12∨q=32
    ·rw [if_pos hD];decide
    ·rw [if_neg hD];decide
theorem yv (q:Int) (w:World) (h0:0≤q) (h1:q<256):Calls Tryz.prog 150 #[.int .u8 q] w fun e w'=>e= .returned (.bool (cG q))∧w'=w:=by
 go_enter Tryz.func150,Tryz.ntmps150
 go_wp2_with (go_at_call 156;refine (nS _ _ h0 h1).mono ?_;rintro e w' ⟨rfl,rfl⟩)
 go_ret
 exact ⟨au (Bp q),rfl⟩
theorem GS (q:Int) (w:World) (h0:0≤q) (h1:q<256):Calls Tryz.prog 148 #[.int .u8 q] w fun e w'=>e= .returned (.bool (bF q))∧w'=w:=by
 go_enter Tryz.func148,Tryz.ntmps148
 go_wp2_with (go_at_call 156;refine (nS _ _ h0 h1).mono ?_;rintro e w' ⟨rfl,rfl⟩)
 go_ret
 exact ⟨au (yu q),rfl⟩
theorem word (q:Int) (w:World) (h0:0≤q) (h1:q<256):Calls Tryz.prog 221 #[.int .u8 q] w fun e w'=>e= .returned (.bool (rJ q))∧w'=w:=by
 go_enter Tryz.func221,Tryz.ntmps221
 go_wp2_with (go_at_call 156;refine (nS _ _ h0 h1).mono ?_;rintro e w' ⟨rfl,rfl⟩)
 go_ret
 exact ⟨au (Ew q),rfl⟩
theorem GT (q:Int) (w:World) (h0:0≤q) (h1:q<256):Calls Tryz.prog 106 #[.int .u8 q] w fun e w'=>e= .returned (.int .u8 (fY q))∧w'=w:=by
 have hk:=Br q
 by_cases hA:65≤q∧q≤90
 ·rw [decide_eq_true hA] at hk
  rw [show fY q=q+32 from if_pos hA]
  obtain ⟨ha,hb⟩:=hA
  go_enter Tryz.func106,Tryz.ntmps106
  go_wp2_with (go_at_call 156;refine (nS _ _ h0 h1).mono ?_;rintro e w' ⟨rfl,rfl⟩)
  go_ret
  exact ⟨az (by simp),rfl⟩
 ·rw [decide_eq_false hA] at hk
  rw [show fY q=q from if_neg hA]
  go_enter Tryz.func106,Tryz.ntmps106
  go_wp2_with (go_at_call 156;refine (nS _ _ h0 h1).mono ?_;rintro e w' ⟨rfl,rfl⟩)
  go_ret
  exact ⟨az rfl,rfl⟩
theorem KN (q:Int) (w:World) (h0:0≤q) (h1:q<256):Calls Tryz.prog 233 #[.int .u8 q] w fun e w'=>e= .returned (.int .i64 (cq q))∧w'=w:=by
 by_cases hA:65≤q∧q≤70
 ·rw [show cq q=q-55 by unfold cq;rw [if_neg (by omega),if_pos hA]]
  obtain ⟨ha,hb⟩:=hA
  go_enter Tryz.func233,Tryz.ntmps233
  go_wp2
  go_ret
  exact ⟨az (by omega),rfl⟩
 ·by_cases hB:97≤q∧q≤102
  ·rw [show cq q=q-87 by unfold cq;rw [if_neg (by omega),if_neg hA,if_pos hB]]
   obtain ⟨ha,hb⟩:=hB
   go_enter Tryz.func233,Tryz.ntmps233
   go_wp2
   go_ret
   exact ⟨az (by omega),rfl⟩
  ·by_cases hC:48≤q∧q≤57
   ·rw [show cq q=q-48 by unfold cq;rw [if_pos hC]]
    obtain ⟨ha,hb⟩:=hC
    go_enter Tryz.func233,Tryz.ntmps233
    go_wp2
    go_ret
    exact ⟨az (by omega),rfl⟩
   ·rw [show cq q= -1 by unfold cq;rw [if_neg hC,if_neg hA,if_neg hB]]
    go_enter Tryz.func233,Tryz.ntmps233
    go_wp2
    all_goals go_ret
    all_goals exact ⟨az rfl,rfl⟩
end Go.Proofs.YtajpoodpbbbkfaaGreatDoor
namespace Go.Proofs.YtajpoodpbbbkfaaGreatDoor
open Go.RowKit Go.Lib
theorem cB (s : ByteArray) (a : Int) (low : ByteArray) (w : World) (hs : s.size ≤ 1099511627776) (hl : low.size ≤ 1099511627776) (ha : -9223372036854775808 ≤ a) (hb : a ≤ 9223372036854775807) :
    Calls Tryz.prog 57 #[.string s, .int .i64 a, .string low] w fun e w' => e = .returned (.bool (bf s a low)) ∧ ∃ n, w' = w.drewN n := by
  by_cases h0 : a < 0
  · have HT := Lib.hid (show bf s a low = false by unfold bf; rw [decide_eq_false (by omega)]; rfl)
    rw [HT.out]
    go_enter Tryz.func57, Tryz.ntmps57
    go_wp2
    go_ret
    exact ⟨rfl, 0, rfl⟩
  obtain ⟨k, rfl⟩ : ∃ k : Nat, a = k := ⟨a.toNat, by omega⟩
  by_cases h1 : (s.size : Int) - (k : Int) < (low.size : Int)
  · have HT := Lib.hid (show bf s k low = false by
      unfold bf
      by_cases h2 : k ≤ s.size
      · rw [show ((k : Nat) : Int).toNat = k by omega, GR s low k (by omega) h2, Bool.and_false]
      · rw [decide_eq_false (by omega)]; rfl)
    rw [HT.out]
    go_enter Tryz.func57, Tryz.ntmps57
    go_wp2
    go_ret
    exact ⟨rfl, 0, rfl⟩
  · obtain ⟨T, hT⟩ : ∃ T, bf s k low = T := ⟨_, rfl⟩
    have HT : Hid ((low.data.toList.drop 0).isPrefixOf (aF (s.data.toList.drop (k + 0))) = T) := Lib.hid (by
      rw [← hT]; unfold bf
      rw [show ((k : Nat) : Int).toNat = k by omega, decide_eq_true (by omega)]; rfl)
    rw [hT]
    clear hT
    have hkl : k + low.size ≤ s.size := by omega
    go_enter Tryz.func57, Tryz.ntmps57
    go_wp2
    go_loopw [21] (fun v wr => ∃ (j n : Nat), v = .int .i64 (j : Int) ∧ wr = w.drewN n ∧ j ≤ low.size ∧ (low.data.toList.drop j).isPrefixOf (aF (s.data.toList.drop (k + j))) = T) (fun v _ => low.size - (ae v).toNat)
    case atStart => exact ⟨0, 0, rfl, rfl, Nat.zero_le _, HT.out⟩
    case round =>
      obtain ⟨j, n, rfl, rfl, hj, hT⟩ := hrel
      have HJ := Lib.hid hT
      clear hT HT
      by_cases hlt : j < low.size
      · have hk : k + j < s.size := by omega
        have i1 : (k : Int) + (j : Int) < (s.size : Int) := by omega
        have i2 : (j : Int) < (low.size : Int) := by omega
        have i3 : (0 : Int) ≤ (k : Int) + (j : Int) := by omega
        have i4 : IntKind.i64.wrap ((k : Int) + (j : Int)) = (k : Int) + (j : Int) := by rw [IntKind.wrap_i64]; omega
        have i5 : ((k : Int) + (j : Int)).toNat = k + j := by omega
        have hb1 := (s[k + j]'hk).toNat_lt
        by_cases he : fY (s[k + j].toNat : Int) = (low[j].toNat : Int)
        · have hb : (fY (s[k + j].toNat : Int) != (low[j].toNat : Int)) = false := by simpa using he
          have HE := Lib.hid he
          clear he
          go_wp2
          go_quiet ((go_at_call 106; refine (GT _ _ (by omega) (by omega)).mono ?_; rintro e w'' ⟨rfl, rfl⟩; exact ⟨rfl, _, rfl⟩))
          go_wp2
          go_roundw
          case rel => exact ⟨j + 1, _, rfl, rfl, by omega, Dk s low k j T hlt hk HE.out HJ.out⟩
          case measure => simp [ae]; omega
        · have hb : (fY (s[k + j].toNat : Int) != (low[j].toNat : Int)) = true := by simpa using he
          go_wp2
          go_quiet ((go_at_call 106; refine (GT _ _ (by omega) (by omega)).mono ?_; rintro e w'' ⟨rfl, rfl⟩; exact ⟨rfl, _, rfl⟩))
          go_wp2
          go_ret
          exact ⟨au (GQ s low k j T hlt hk he HJ.out), _, World.drewN_drewN ..⟩
      · go_wp2
        go_ret
        exact ⟨au (by rw [← HJ.out, Dl s low k j (by omega)]), _, rfl⟩
end Go.Proofs.YtajpoodpbbbkfaaGreatDoor
namespace Go.Proofs.YtajpoodpbbbkfaaGreatDoor
open Go.RowKit Go.Lib
theorem nT (q:Int) (w:World):Calls Tryz.prog 164 #[.int .u8 q] w fun e w'=>e= .returned (.bool (cG q))∧w'=w:=by
 obtain ⟨k,hk⟩:∃k,cG q=k:=⟨_,rfl⟩
 have HK:=Lib.hid hk
 rw [hk]
 clear hk
 go_enter Tryz.func164,Tryz.ntmps164
 go_wp2
 all_goals go_ret
 all_goals refine ⟨au ?_,rfl⟩
 all_goals rw [←HK.out,cG]
 all_goals rw [Bool.eq_iff_iff]
 all_goals simp only [beq_eq_false_iff_ne,beq_iff_eq,ne_eq,decide_eq_true_eq,Bool.false_eq_true,true_iff,false_iff] at*
 all_goals omega
theorem pu (q:Int) (w:World) (h0:0≤q) (h1:q<256):Calls Tryz.prog 167 #[.int .u8 q] w fun e w'=>e= .returned (.bool (bF q))∧w'=w:=by
 obtain ⟨k,hk⟩:∃k,bF q=k:=⟨_,rfl⟩
 have HK:=Lib.hid hk
 rw [hk]
 clear hk
 go_enter Tryz.func167,Tryz.ntmps167
 go_wp2
 all_goals go_ret
 all_goals refine ⟨au ?_,rfl⟩
 all_goals rw [←HK.out,bF]
 all_goals rw [Bool.eq_iff_iff]
 all_goals simp only [Bool.or_eq_true,decide_eq_true_eq,Bool.false_eq_true,true_iff,false_iff] at*
 all_goals omega
theorem GU (q:Int) (w:World) (h0:0≤q) (h1:q<256):Calls Tryz.prog 227 #[.int .u8 q] w fun e w'=>e= .returned (.bool (k8 q))∧w'=w:=by
 obtain ⟨k,hk⟩:∃k,k8 q=k:=⟨_,rfl⟩
 have HK:=Lib.hid hk
 rw [hk]
 clear hk
 go_enter Tryz.func227,Tryz.ntmps227
 go_wp2
 all_goals go_ret
 all_goals refine ⟨au ?_,rfl⟩
 all_goals rw [←HK.out,k8]
 all_goals rw [Bool.eq_iff_iff]
 all_goals simp only [decide_eq_true_eq,Bool.false_eq_true,false_iff] at*
 all_goals omega
theorem eS (q:Int) (w:World) (h0:0≤q) (h1:q<256):Calls Tryz.prog 237 #[.int .u8 q] w fun e w'=>e= .returned (.int .i64 (cq q))∧w'=w:=by
 by_cases hA:65≤q∧q≤70
 ·rw [show cq q=q-55 by unfold cq;rw [if_neg (by omega),if_pos hA]]
  obtain ⟨ha,hb⟩:=hA
  go_enter Tryz.func237,Tryz.ntmps237
  go_wp2
  go_ret
  exact ⟨rfl,rfl⟩
 ·by_cases hB:97≤q∧q≤102
  ·rw [show cq q=q-87 by unfold cq;rw [if_neg (by omega),if_neg hA,if_pos hB]]
   obtain ⟨ha,hb⟩:=hB
   go_enter Tryz.func237,Tryz.ntmps237
   go_wp2
   go_ret
   exact ⟨rfl,rfl⟩
  ·by_cases hC:48≤q∧q≤57
   ·rw [show cq q=q-48 by unfold cq;rw [if_pos hC]]
    obtain ⟨ha,hb⟩:=hC
    go_enter Tryz.func237,Tryz.ntmps237
    go_wp2
    go_ret
    exact ⟨rfl,rfl⟩
   ·rw [show cq q= -1 by unfold cq;rw [if_neg hC,if_neg hA,if_neg hB]]
    go_enter Tryz.func237,Tryz.ntmps237
    go_wp2
    all_goals go_ret
    all_goals exact ⟨az rfl,rfl⟩
theorem Bt (s:ByteArray) (i:Nat) (h:i<s.size) (O c:ByteArray) (L:List UInt8) (hc:c.data.toList=[ct s[i]]) (heq:O.data.toList++aF (s.data.toList.drop i)=L):(O++c).data.toList++aF (s.data.toList.drop (i+1))=L:=by
 rw [←heq,aj s i h,aM,ByteArray.data_append,Array.toList_append,hc,List.append_assoc];rfl
theorem Dm (w:World) (q:Int) (c:UInt8) (h:(c.toNat:Int)=q):(convert 22 9 (.slice (some ⟨w.heap.size,0,none⟩) 1 1)).run Tryz.prog (w.alloc (.cells #[.int .u8 q] 5))= .ok (.string ⟨#[c]⟩) (w.alloc (.cells #[.int .u8 q] 5)):=by
 refine run_convert_bytes_back (P:=Tryz.prog) _ 22 9 5 ⟨w.heap.size,0,none⟩ 1 [c] Tryz.underlying22 Tryz.underlying5 Tryz.underlying9 ?_
 intro j hj
 have:j=0:=by simp at hj;exact hj
 subst this
 rw [show ((⟨w.heap.size,0,none⟩:Addr).add 0)=⟨w.heap.size,0,none⟩ from rfl,Lib.cell_of_heap (heap_alloc_new w _),←h]
 rfl
theorem nU (s:ByteArray) (w:World) (hs:s.size≤1099511627776):Calls Tryz.prog 166 #[.string s] w fun e w'=>e= .returned (.string (qV s))∧Below w.heap.size w w':=by
 go_enter Tryz.func166,Tryz.ntmps166
 go_wp2
 go_loopw [3,4] (fun o v wr=>∃(i:Nat) (O:ByteArray),o= .string O∧v= .int .i64 (i:Int)∧Below w.heap.size w wr∧i≤s.size∧O.data.toList++aF (s.data.toList.drop i)=aF s.data.toList∧O.size=i) (fun _ v _=>s.size-(ae v).toNat)
 case atStart=>exact ⟨0,⟨#[]⟩,rfl,rfl,Below.refl _ w,Nat.zero_le _,rfl,rfl⟩
 case round=>
  obtain ⟨i,O,rfl,rfl,hbw,hle,heq,hO⟩:=hrel
  have HE:=Lib.hid heq
  have HO:O.size≤1099511627776:=by omega
  have HO':=Lib.hid hO
  clear heq hO
  by_cases hlt:i<s.size
  ·by_cases hA:65≤(s[i].toNat:Int)∧(s[i].toNat:Int)≤90
   ·obtain ⟨ha,hb⟩:=hA
    have hc:((ct s[i]).toNat:Int)=(s[i].toNat:Int)+32:=by rw [cU,fY,if_pos ⟨ha,hb⟩]
    have HC:=Lib.hid hc
    clear hc
    go_wp2
    rw [Dm _ _ _ HC.out]
    simp only [Result.andThen]
    rw [Oper.upon_value]
    go_wp2
    go_roundw
    case rel=>exact ⟨i+1,_,rfl,rfl,hbw.alloc hbw.size _,by omega,Bt s i hlt O _ _ rfl HE.out,by rw [ByteArray.size_append,HO'.out];rfl⟩
    case measure=>simp [ae];omega
   ·have hc:((ct s[i]).toNat:Int)=(s[i].toNat:Int):=by rw [cU,fY,if_neg hA]
    have HC:=Lib.hid hc
    clear hc
    go_wp2
    all_goals rw [Dm _ _ _ HC.out]
    all_goals simp only [Result.andThen]
    all_goals rw [Oper.upon_value]
    all_goals go_wp2
    all_goals go_roundw
    case rel=>exact ⟨i+1,_,rfl,rfl,hbw.alloc hbw.size _,by omega,Bt s i hlt O _ _ rfl HE.out,by rw [ByteArray.size_append,HO'.out];rfl⟩
    case measure=>simp [ae];omega
    case rel=>exact ⟨i+1,_,rfl,rfl,hbw.alloc hbw.size _,by omega,Bt s i hlt O _ _ rfl HE.out,by rw [ByteArray.size_append,HO'.out];rfl⟩
    case measure=>simp [ae];omega
  ·go_wp2
   go_ret
   refine ⟨aO (bl ?_),hbw⟩
   have:=HE.out
   rw [List.drop_eq_nil_of_le (by rw [←Lib.size_eq];omega),aF,List.map_nil,List.append_nil] at this
   rw [this,fo]
end Go.Proofs.YtajpoodpbbbkfaaGreatDoor
namespace Go.Proofs.YtajpoodpbbbkfaaGreatDoor
open Go.RowKit Go.Lib
theorem rK (x:Int) (h0: -9223372036854775808≤x) (h1:x≤9223372036854775807):IntKind.i64.wrap x=x:=by rw [IntKind.wrap_i64];omega
theorem Dn (s low:ByteArray) (a k:Nat) (h1:k<low.size) (h2:a+k<s.size):((qV (s.extract (a+k) (a+k+1))).toList==(low.extract k (k+1)).toList)=decide (fY (s[a+k].toNat:Int)=(low[k].toNat:Int)):=by
 rw [ib,fo,cr s (a+k) h2,cr low k h1]
 congr 1
 have:=cU s[a+k]
 rw [←this,show aF [s[a+k]]=[ct s[a+k]] from rfl]
 simp only [List.cons.injEq,and_true]
 rw [←UInt8.toNat_inj,Int.ofNat_inj]
theorem gh (s : ByteArray) (a : Int) (low : ByteArray) (w : World) (hs : s.size ≤ 1099511627776) (hl : low.size ≤ 1099511627776) (ha : -9223372036854775808 ≤ a) (hb : a ≤ 9223372036854775807) :
    Calls Tryz.prog 127 #[.string s, .int .i64 a, .string low] w fun e w' => e = .returned (.bool (bf s a low)) ∧ Below w.heap.size w w' := by
  by_cases h0 : a < 0
  · have HT := Lib.hid (show bf s a low = false by unfold bf; rw [decide_eq_false (by omega)]; rfl)
    rw [HT.out]
    go_enter Tryz.func127, Tryz.ntmps127
    go_wp2
    go_ret
    exact ⟨rfl, Below.refl _ w⟩
  obtain ⟨k, rfl⟩ : ∃ k : Nat, a = k := ⟨a.toNat, by omega⟩
  by_cases h1 : (s.size : Int) < (k : Int)
  · have HT := Lib.hid (show bf s k low = false by
      unfold bf
      rw [decide_eq_false (by omega)]; rfl)
    rw [HT.out]
    go_enter Tryz.func127, Tryz.ntmps127
    go_wp2
    go_ret
    exact ⟨rfl, Below.refl _ w⟩
  · obtain ⟨T, hT⟩ : ∃ T, bf s k low = T := ⟨_, rfl⟩
    have HT : Hid ((low.data.toList.drop 0).isPrefixOf (aF (s.data.toList.drop (k + 0))) = T) := Lib.hid (by
      rw [← hT]; unfold bf
      rw [show ((k : Nat) : Int).toNat = k by omega, decide_eq_true (by omega)]; rfl)
    rw [hT]
    clear hT
    go_enter Tryz.func127, Tryz.ntmps127
    go_wp2
    go_loopw [7] (fun v wr => ∃ (j : Nat), v = .int .i64 (j : Int) ∧ Below w.heap.size w wr ∧ j ≤ low.size ∧ (low.data.toList.drop j).isPrefixOf (aF (s.data.toList.drop (k + j))) = T) (fun v _ => low.size - (ae v).toNat)
    case atStart => exact ⟨0, rfl, Below.refl _ w, Nat.zero_le _, HT.out⟩
    case round =>
      obtain ⟨j, rfl, hbw, hj, hT⟩ := hrel
      have HJ := Lib.hid hT
      clear hT HT
      by_cases hlt : j < low.size
      · by_cases hk : k + j < s.size
        · have i1 : (k : Int) + (j : Int) < (s.size : Int) := by omega
          have i1' : (k : Int) + (j : Int) + 1 ≤ (s.size : Int) := by omega
          have i2 : (j : Int) < (low.size : Int) := by omega
          have i2' : (j : Int) + 1 ≤ (low.size : Int) := by omega
          have i3 : (0 : Int) ≤ (k : Int) + (j : Int) := by omega
          have i3' : (0 : Int) ≤ (k : Int) + (j : Int) + 1 := by omega
          have i4 : IntKind.i64.wrap ((k : Int) + (j : Int)) = (k : Int) + (j : Int) := rK _ (by omega) (by omega)
          have i5 : IntKind.i64.wrap ((k : Int) + (j : Int) + 1) = (k : Int) + (j : Int) + 1 := rK _ (by omega) (by omega)
          have i6 : IntKind.i64.wrap ((j : Int) + 1) = (j : Int) + 1 := rK _ (by omega) (by omega)
          have i7 : ((k : Int) + (j : Int)).toNat = k + j := by omega
          have i8 : ((k : Int) + (j : Int) + 1).toNat = k + j + 1 := by omega
          have i9 : (k : Int) + (j : Int) ≤ (k : Int) + (j : Int) + 1 := by omega
          have i10 : (j : Int) ≤ (j : Int) + 1 := by omega
          have i11 : ((j : Int) + 1).toNat = j + 1 := by omega
          obtain ⟨X, hX⟩ : ∃ X, qV (s.extract (k + j) (k + j + 1)) = X := ⟨_, rfl⟩
          have HX := Lib.hid hX
          have cL : Hid (∀ w', Below w.heap.size w w' → Calls Tryz.prog 166 #[.string (s.extract (k + j) (k + j + 1))] w' fun e w'' => e = .returned (.string X) ∧ Below w.heap.size w w'') := Lib.hid (fun w' hb => by
            refine (nU _ w' (by simp; omega)).mono ?_
            rintro e w'' ⟨rfl, hb''⟩
            exact ⟨by rw [HX.out], hb.trans (hb''.mono hb.size)⟩)
          clear hX
          have hd : Below w.heap.size w wr.drew := hbw.drew
          have FF : Hid (∀ w', Below w.heap.size w w' → Below w.heap.size w w') := Lib.hid (fun _ h => h)
          go_wp2
          go_region_held3 (fun w' => Below w.heap.size w w')
            (first | exact hd | assumption)
            (first
              | (go_at_call 166; (with_reducible refine (cL.out _ ‹_›).mono ?_); rintro e w' ⟨rfl, hb⟩))
          by_cases he : fY (s[k + j].toNat : Int) = (low[j].toNat : Int)
          · have hE : (X.toList == (low.extract j (j + 1)).toList) = true := by rw [← HX.out, Dn s low k j hlt hk]; exact decide_eq_true he
            have HE := Lib.hid he
            clear he
            rw [hE]
            clear hE
            go_wp2
            go_roundw
            case rel => exact ⟨j + 1, rfl, ‹_›, by omega, Dk s low k j T hlt hk HE.out HJ.out⟩
            case measure => simp [ae]; omega
          · have hE : (X.toList == (low.extract j (j + 1)).toList) = false := by rw [← HX.out, Dn s low k j hlt hk]; exact decide_eq_false he
            rw [hE]
            clear hE
            go_wp2
            go_ret
            exact ⟨au (GQ s low k j T hlt hk he HJ.out), ‹_›⟩
        · have hk' : (s.size : Int) ≤ (k : Int) + (j : Int) := by omega
          go_wp2
          go_ret
          exact ⟨au (by rw [← HJ.out, Ev s low k j hlt (by omega)]), hbw⟩
      · go_wp2
        go_ret
        exact ⟨au (by rw [← HJ.out, Dl s low k j (by omega)]), hbw⟩
end Go.Proofs.YtajpoodpbbbkfaaGreatDoor
namespace Go.Proofs.YtajpoodpbbbkfaaGreatDoor
open Ieee
def fl (n:Nat):Nat:=Ieee.double.write (.number false n 0)
def GV (d:Datum) (n:Nat):Prop:=∃k:Nat,d= .number false (n*2 ^ k) (-(k:Int))
theorem GW (n k:Nat) (h:k≤(n*2 ^ k).log2+2):Toward.even.cut false (n*2 ^ k) k=n:=by
 have hm:min k ((n*2 ^ k).log2+2)=k:=Nat.min_eq_left h
 have hp:0<2 ^ k:=Nat.two_pow_pos k
 simp only [Toward.cut,hm,Nat.shiftLeft_eq,Nat.one_mul,Nat.mul_mod_left,Nat.mul_div_cancel _ hp]
 have h2:((2 ^ k:Nat)==2*0)=false:=by simp
 simp [h2]
theorem GX (n k:Nat) (h:k≤(n*2 ^ k).log2+2):Toward.zero.cut false (n*2 ^ k) k=n:=by
 have hm:min k ((n*2 ^ k).log2+2)=k:=Nat.min_eq_left h
 have hp:0<2 ^ k:=Nat.two_pow_pos k
 simp [Toward.cut,hm,Nat.shiftLeft_eq,Nat.mul_div_cancel _ hp]
theorem ki (n k:Nat) (h:n≠0):(n*2 ^ k).log2=n.log2+k:=by
 have hp:0<2 ^ k:=Nat.two_pow_pos k
 have hn:n*2 ^ k≠0:=by
  intro e
  rcases Nat.mul_eq_zero.1 e with e|e<;>omega
 rw [Nat.log2_eq_iff hn]
 have h1:=Nat.log2_self_le h
 have h2:=@Nat.lt_log2_self n
 constructor
 ·rw [Nat.pow_add];exact Nat.mul_le_mul_right _ h1
 ·rw [show n.log2+k+1=n.log2+1+k by omega,Nat.pow_add];exact Nat.mul_lt_mul_of_pos_right h2 hp
def rL (n:Nat):Nat:=if n=0 then 0 else (n.log2+1022)*2 ^ 52+n*2 ^ (52-n.log2)
theorem Dp (n:Nat) (hn:n<2 ^ 53):n.log2≤52:=by
 by_cases h:n=0
 ·subst h;decide
 ·have:=(Nat.log2_lt h).2 hn
  omega
theorem uT (n k:Nat) (hn:n<2 ^ 53):Ieee.double.write (.number false (n*2 ^ k) (-(k:Int)))=rL n:=by
 have hL:=Dp n hn
 by_cases h:n=0
 ·subst h
  simp [Format.write,Format.nearest,rL,Format.word]
 ·have hp:0<2 ^ k:=Nat.two_pow_pos k
  have hn0:n*2 ^ k≠0:=by
   intro e
   rcases Nat.mul_eq_zero.1 e with e|e<;>omega
  have hl:=ki n k h
  have hleast:Ieee.double.leastPlace= -1074:=by decide
  have hfr:Ieee.double.fractionBits=52:=rfl
  have hmax:max (-(k:Int)+((n.log2+k:Nat):Int)-(52:Nat)) (-1074)=(n.log2:Int)-52:=by omega
  have hk:(n*2 ^ k)<<<(-(k:Int)-((n.log2:Int)-52)).toNat=(n*2 ^ (52-n.log2))*2 ^ ((n.log2:Int)-52- -(k:Int)).toNat:=by
   rw [Nat.shiftLeft_eq]
   by_cases hc:k≤52-n.log2
   ·rw [show ((n.log2:Int)-52- -(k:Int)).toNat=0 by omega,show (-(k:Int)-((n.log2:Int)-52)).toNat=52-n.log2-k by omega,Nat.pow_zero,Nat.mul_one,Nat.mul_assoc,←Nat.pow_add]
    congr 2;omega
   ·rw [show (-(k:Int)-((n.log2:Int)-52)).toNat=0 by omega,show ((n.log2:Int)-52- -(k:Int)).toNat=k-(52-n.log2) by omega,Nat.pow_zero,Nat.mul_one,Nat.mul_assoc,←Nat.pow_add]
    congr 2;omega
  have hcut:Toward.even.cut false ((n*2 ^ (52-n.log2))*2 ^ ((n.log2:Int)-52- -(k:Int)).toNat) ((n.log2:Int)-52- -(k:Int)).toNat=n*2 ^ (52-n.log2):=by
   refine GW _ _ ?_
   rw [ki _ _ (by
    intro e
    rcases Nat.mul_eq_zero.1 e with e|e
    ·exact h e
    ·have:=Nat.two_pow_pos (52-n.log2);omega)]
   omega
  have hK:n*2 ^ (52-n.log2)<2 ^ 53:=by
   have h2:=@Nat.lt_log2_self n
   have h3:n*2 ^ (52-n.log2)<2 ^ (n.log2+1)*2 ^ (52-n.log2):=Nat.mul_lt_mul_of_pos_right h2 (Nat.two_pow_pos _)
   rw [←Nat.pow_add,show n.log2+1+(52-n.log2)=53 by omega] at h3
   exact h3
  have hinf:Ieee.double.infRung=2047*2 ^ 52:=by decide
  have hbin:Ieee.double.binade=2 ^ 52:=by decide
  simp only [Format.write,Format.nearest,if_neg hn0,hl,hleast,hfr,hmax,hk,hcut,hinf,hbin,Format.word,rL,if_neg h]
  rw [show ((n.log2:Int)-52- -1074).toNat=n.log2+1022 by omega]
  simp only [Bool.false_eq_true,if_false]
  refine Nat.min_eq_left ?_
  omega
theorem Dq (n:Nat) (hn:n<2 ^ 53):fl n=rL n:=by
 have:=uT n 0 hn
 simpa [fl] using this
theorem kj (n:Nat) (hn:n<2 ^ 53):GV (Ieee.double.read (fl n)) n:=by
 rw [Dq n hn]
 have hL:=Dp n hn
 have hleast:Ieee.double.leastPlace= -1074:=by decide
 have hinf:Ieee.double.infRung=2047*2 ^ 52:=by decide
 have hbin:Ieee.double.binade=2 ^ 52:=by decide
 have hsw:Ieee.double.signWeight=2 ^ 63:=by decide
 by_cases h:n=0
 ·subst h
  obtain ⟨k,hk⟩:∃k:Nat,k=1074:=⟨_,rfl⟩
  refine ⟨k,?_⟩
  rw [Nat.zero_mul,hk]
  decide
 ·have hK:n*2 ^ (52-n.log2)<2 ^ 53:=by
   have h2:=@Nat.lt_log2_self n
   have h3:n*2 ^ (52-n.log2)<2 ^ (n.log2+1)*2 ^ (52-n.log2):=Nat.mul_lt_mul_of_pos_right h2 (Nat.two_pow_pos _)
   rw [←Nat.pow_add,show n.log2+1+(52-n.log2)=53 by omega] at h3
   exact h3
  have hK0:2 ^ 52≤n*2 ^ (52-n.log2):=by
   have h1:=Nat.log2_self_le h
   have h3:2 ^ n.log2*2 ^ (52-n.log2)≤n*2 ^ (52-n.log2):=Nat.mul_le_mul_right _ h1
   rw [←Nat.pow_add,show n.log2+(52-n.log2)=52 by omega] at h3
   exact h3
  obtain ⟨K,hKe⟩:∃K,n*2 ^ (52-n.log2)=K:=⟨_,rfl⟩
  obtain ⟨l,hl⟩:∃l,n.log2=l:=⟨_,rfl⟩
  refine ⟨52-l,?_⟩
  simp only [rL,if_neg h]
  rw [hKe] at hK hK0
  rw [hKe,hl]
  rw [hl] at hKe hL
  rw [hKe]
  clear h hn hKe hl
  have e1:((l+1022)*2 ^ 52+K)/2 ^ 63%2=0:=by omega
  have e2:((l+1022)*2 ^ 52+K)%2 ^ 63=(l+1022)*2 ^ 52+K:=by omega
  have e3:¬(l+1022)*2 ^ 52+K<2 ^ 52:=by omega
  have e4:(l+1022)*2 ^ 52+K<2047*2 ^ 52:=by omega
  have e5:((l+1022)*2 ^ 52+K)%2 ^ 52=K-2 ^ 52:=by omega
  have e6:((l+1022)*2 ^ 52+K)/2 ^ 52=l+1023:=by omega
  simp only [Format.read,hsw,hbin,hinf,hleast,e1,e2,if_neg e3,if_pos e4,e5,e6]
  have e7:2 ^ 52+(K-2 ^ 52)=K:=by omega
  have e8:(-1074:Int)+((l+1023-1:Nat):Int)= -((52-l:Nat):Int):=by omega
  rw [e7,e8,show ((0:Nat)==1)=false from rfl]
theorem uU {d:Datum} {n:Nat} (h:GV d n) (hn:n<2 ^ 53):Ieee.double.write d=fl n:=by
 obtain ⟨k,rfl⟩:=h
 rw [uT n k hn,Dq n hn]
theorem Dr (n k l:Nat) (b:Int) (hb:b= -(l:Int)) (h:k≤l):(n*2 ^ k)<<<(-(k:Int)-b).toNat=n*2 ^ l:=by
 rw [Nat.shiftLeft_eq,show (-(k:Int)-b).toNat=l-k by omega,Nat.mul_assoc,←Nat.pow_add,show k+(l-k)=l by omega]
theorem KO {d e:Datum} {a b:Nat} (hd:GV d a) (he:GV e b):∃c,d.sum e=some c∧GV c (a+b):=by
 obtain ⟨k,rfl⟩:=hd
 obtain ⟨l,rfl⟩:=he
 have hb:min (-(k:Int)) (-(l:Int))= -((max k l:Nat):Int):=by omega
 have e1:=Dr a k (max k l) _ hb (Nat.le_max_left ..)
 have e2:=Dr b l (max k l) _ hb (Nat.le_max_right ..)
 have e3:((a*2 ^ max k l:Nat):Int)+((b*2 ^ max k l:Nat):Int)=(((a+b)*2 ^ max k l:Nat):Int):=by
  rw [Nat.add_mul];omega
 refine ⟨.number false ((a+b)*2 ^ max k l) (-((max k l:Nat):Int)),?_,max k l,rfl⟩
 rw [hb] at e1 e2
 simp only [Datum.sum,signed,hb,e1,e2,e3,Bool.false_eq_true,if_false,Bool.and_false,Int.natAbs_natCast]
 congr 2
 split
 ·rfl
 ·exact decide_eq_false (by omega)
theorem yw {d e:Datum} {a b:Nat} (hd:GV d a) (he:GV e b):∃c,d.product e=some c∧GV c (a*b):=by
 obtain ⟨k,rfl⟩:=hd
 obtain ⟨l,rfl⟩:=he
 refine ⟨_,rfl,k+l,?_⟩
 simp only [Bool.xor_false]
 congr 1
 ·rw [Nat.pow_add,Nat.mul_mul_mul_comm]
 ·omega
theorem NG {x y:Int} (h:x<y):compare x y= .lt:=by
 show compareOfLessAndEq x y= .lt
 unfold compareOfLessAndEq
 rw [if_pos h]
theorem NH {x y:Int} (h:x=y):compare x y= .eq:=by
 show compareOfLessAndEq x y= .eq
 unfold compareOfLessAndEq
 rw [if_neg (by omega),if_pos h]
theorem NI {x y:Int} (h:y<x):compare x y= .gt:=by
 show compareOfLessAndEq x y= .gt
 unfold compareOfLessAndEq
 rw [if_neg (by omega),if_neg (by omega)]
theorem Ey {d e:Datum} {a b:Nat} (hd:GV d a) (he:GV e b):d.order e=some (compare a b):=by
 obtain ⟨k,rfl⟩:=hd
 obtain ⟨l,rfl⟩:=he
 have hb:min (-(k:Int)) (-(l:Int))= -((max k l:Nat):Int):=by omega
 have e1:=Dr a k (max k l) _ hb (Nat.le_max_left ..)
 have e2:=Dr b l (max k l) _ hb (Nat.le_max_right ..)
 have hp:=Nat.two_pow_pos (max k l)
 rw [hb] at e1 e2
 simp only [Datum.order,signed,hb,e1,e2,Bool.false_eq_true,if_false]
 congr 1
 rcases Nat.lt_trichotomy a b with h|h|h
 ·rw [Nat.compare_eq_lt.2 h]
  exact NG (Int.ofNat_lt.2 (Nat.mul_lt_mul_of_pos_right h hp))
 ·subst h
  rw [Nat.compare_eq_eq.2 rfl]
  exact NH rfl
 ·rw [Nat.compare_eq_gt.2 h]
  exact NI (Int.ofNat_lt.2 (Nat.mul_lt_mul_of_pos_right h hp))
theorem KP {d:Datum} {n:Nat} (h:GV d n):d.toInt .zero=some (n:Int):=by
 obtain ⟨k,rfl⟩:=h
 have h1:(-(k:Int)).toNat=0:=by omega
 have h2:(-(-(k:Int))).toNat=k:=by omega
 simp only [Datum.toInt,Datum.integral,h1,h2,Nat.shiftLeft_zero]
 rw [show Toward.zero.cut false (n*2 ^ k) k=n by
  by_cases h:n=0
  ·subst h;simp [Toward.cut]
  ·exact GX n k (by rw [ki n k h];omega)]
 simp [signed]
theorem GY (a b:Nat) (h:a+b<2 ^ 53):floatBits .add .f64 (fl a) (fl b)=some (fl (a+b)):=by
 obtain ⟨c,hc,hn⟩:=KO (kj a (by omega)) (kj b (by omega))
 show Ieee.double.add (fl a) (fl b)=_
 unfold Format.add
 rw [hc,Option.map_some,uU hn h]
theorem NJ (a b:Nat) (ha:a<2 ^ 53) (hb:b<2 ^ 53) (h:a*b<2 ^ 53):floatBits .mul .f64 (fl a) (fl b)=some (fl (a*b)):=by
 obtain ⟨c,hc,hn⟩:=yw (kj a ha) (kj b hb)
 show Ieee.double.mul (fl a) (fl b)=_
 unfold Format.mul
 rw [hc,Option.map_some,uU hn h]
theorem lc (a b:Nat) (ha:a<2 ^ 53) (hb:b<2 ^ 53):FloatKind.f64.format.order (fl a) (fl b)=some (compare a b):=
 Ey (kj a ha) (kj b hb)
theorem G0 (n:Nat) (h:n<2 ^ 53):floatToIntVal .f64 (fl n) .i64=some (n:Int):=by
 have h1:(FloatKind.f64.decode (fl n)).toInt .zero=some (n:Int):=KP (kj n h)
 unfold floatToIntVal
 rw [h1]
 have h2:IntKind.i64.min= -9223372036854775808:=by decide
 have h3:IntKind.i64.max=9223372036854775807:=by decide
 simp only [h2,h3]
 rw [if_pos (by omega)]
theorem G3 (n:Nat):floatOfInt .f64 (n:Int)=fl n:=by
 show FloatKind.f64.nearest (n:Int)=fl n
 unfold FloatKind.nearest FloatKind.encode fl
 rw [show decide ((n:Int)<0)=false from decide_eq_false (by omega),Int.natAbs_natCast]
 rfl
theorem G4:fl 0=0:=by decide
theorem Pt:fl 1=4607182418800017408:=by decide
theorem OU:fl 10=4621819117588971520:=by decide
theorem OV:fl 16=4625196817309499392:=by decide
theorem KR:fl 1114111=4697535882029170688:=by decide
theorem KS:fl 1114112=4697535886324137984:=by decide
theorem KT:FloatKind.f64.format.order (floatOfInt .f64 (-1)) 0=some .lt:=by decide
end Go.Proofs.YtajpoodpbbbkfaaGreatDoor
namespace Go.Proofs.YtajpoodpbbbkfaaGreatDoor
open Go.Lib
def iF:List UInt8:=[239,191,189]
def bw:List UInt8:=[239,187,191]
def dT (n b0 b1 b2:Nat):Nat:=
 if b0<224∨247<b0 then 1
 else if b0<240 then
  (if 1<n∧b1/64=2∧(2048≤b0%16*4096+b1%64*64∧(b0%16*4096+b1%64*64<55296∨57343<b0%16*4096+b1%64*64)) then 2 else 1)
 else if 1<n∧b1/64=2∧(65536≤b0%8*262144+b1%64*4096∧b0%8*262144+b1%64*4096≤1114111) then
  (if 2<n∧b2/64=2 then 3 else 2)
 else 1
def dv (l:List UInt8):Nat:=dT l.length (l.getD 0 0).toNat (l.getD 1 0).toNat (l.getD 2 0).toNat
def brk (l:List UInt8):Bool:=decide ((decodeL l).1=65533∧(decodeL l).2=1)
def yx:Nat→List UInt8→List UInt8
 |0,_=>[]
 |f+1,l=>if l=[] then [] else if brk l then iF++yx f (l.drop (dv l)) else l.take (decodeL l).2++yx f (l.drop (decodeL l).2)
def fD (l:List UInt8):List UInt8:=yx l.length l
def gi (l:List UInt8):List UInt8:=fD (trimPrefix l bw)
theorem Ds (n b0 b1 b2:Nat):1≤dT n b0 b1 b2:=by
 unfold dT;repeat' split
 all_goals omega
theorem Dt (n b0 b1 b2:Nat) (h:1≤n):dT n b0 b1 b2≤n∧dT n b0 b1 b2≤3:=by
 unfold dT;repeat' split
 all_goals omega
theorem l8 (l:List UInt8):1≤dv l:=Ds _ _ _ _
theorem wD (l:List UInt8) (h:l≠[]):dv l≤l.length∧dv l≤3:=Dt _ _ _ _ (List.length_pos_iff.2 h)
theorem l9:∀(n m:Nat) (l:List UInt8),l.length≤n→l.length≤m→yx n l=yx m l
 |0,m,l,hn,_=>by
  have:l=[]:=List.eq_nil_of_length_eq_zero (by omega)
  subst this
  cases m<;>simp [yx]
 |n+1,0,l,_,hm=>by
  have:l=[]:=List.eq_nil_of_length_eq_zero (by omega)
  subst this
  simp [yx]
 |n+1,m+1,l,hn,hm=>by
  unfold yx
  by_cases hne:l=[]
  ·simp [hne]
  ·have hw:=decodeL_width l
   have hb:=l8 l
   have hl:0<l.length:=List.length_pos_iff.2 hne
   rw [if_neg hne,if_neg hne,l9 n m (l.drop (decodeL l).2) (by rw [List.length_drop];omega) (by rw [List.length_drop];omega),l9 n m (l.drop (dv l)) (by rw [List.length_drop];omega) (by rw [List.length_drop];omega)]
theorem ld:fD []=[]:=rfl
theorem iw (l:List UInt8) (hne:l≠[]):fD l=if brk l then iF++fD (l.drop (dv l)) else l.take (decodeL l).2++fD (l.drop (decodeL l).2):=by
 have hl:0<l.length:=List.length_pos_iff.2 hne
 have hw:=decodeL_width l
 have hb:=l8 l
 obtain ⟨n,hn⟩:∃n,l.length=n+1:=⟨l.length-1,by omega⟩
 unfold fD
 rw [hn]
 show (if l=[] then [] else _)=_
 rw [if_neg hne,l9 n (l.drop (decodeL l).2).length _ (by rw [List.length_drop];omega) (Nat.le_refl _),l9 n (l.drop (dv l)).length _ (by rw [List.length_drop];omega) (Nat.le_refl _)]
theorem ek (l:List UInt8) (hne:l≠[]):validD l=if brk l then false else validD (l.drop (decodeL l).2):=by
 rw [validD_step l hne]
 simp [brk]
theorem nV (l:List UInt8) (hne:l≠[]):(decodeL l).2≤l.length:=decodeL_le l hne
theorem dK (b:UInt8):b.toNat<256:=b.toNat_lt
theorem nW (l:List UInt8):brk l=true↔decodeL l=(65533,1):=by
 unfold brk
 rw [decide_eq_true_iff]
 constructor
 ·intro h;exact Prod.ext h.1 h.2
 ·intro h;rw [h];exact ⟨rfl,rfl⟩
theorem ja (l:List UInt8) (hne:l≠[]) (h:brk l=false):encodeRune ((decodeL l).1:Int)=l.take (decodeL l).2:=
 encode_decode l hne (by intro h2;simp [brk,h2] at h)
theorem yy (x:UInt8) (t:List UInt8):(x::t).getD 0 0=x:=rfl
theorem wE (x:UInt8) (t:List UInt8) (k:Nat):(x::t).getD (k+1) 0=t.getD k 0:=rfl
theorem t8 (n n' b0 b1 b2 b3 c1 c2 c3:Nat) (hn:1≤n) (hnn:n≤n') (h1:1<n→b1=c1) (h2:2<n→b2=c2) (h3:3<n→b3=c3) (g1:n=1→1<n'→c1<128) (g2:n=2→2<n'→c2<128) (g3:n=3→3<n'→c3<128):decodeN n b0 b1 b2 b3=decodeN n' b0 c1 c2 c3:=by
 by_cases e1:1<n
 ·have e:=h1 e1;subst e
  by_cases e2:2<n
  ·have e:=h2 e2;subst e
   by_cases e3:3<n
   ·have e:=h3 e3;subst e
    have a1:1<n':=by omega
    have a2:2<n':=by omega
    have a3:3<n':=by omega
    simp only [decodeN,e1,e2,e3,a1,a2,a3]
   ·have hn3:n=3:=by omega
    subst hn3
    have g:=g3 rfl
    have a1:1<n':=by omega
    have a2:2<n':=by omega
    have a:¬(3<n'∧c3/64=2):=by omega
    have a':¬(3<3∧b3/64=2):=by omega
    simp only [decodeN,e1,e2,a1,a2,a,a',and_false,if_false]
  ·have hn2:n=2:=by omega
   subst hn2
   have g:=g2 rfl
   have a1:1<n':=by omega
   have a:¬(2<n'∧c2/64=2):=by omega
   have a':¬(2<2∧b2/64=2):=by omega
   simp only [decodeN,e1,a1,a,a',and_false,false_and,if_false]
 ·have hn1:n=1:=by omega
  subst hn1
  have g:=g1 rfl
  have a:¬(1<n'∧c1/64=2):=by omega
  have a':¬(1<1∧b1/64=2):=by omega
  simp only [decodeN,a,a',and_false,false_and,if_false]
theorem km (a t:List UInt8) (k:Nat) (h:k<a.length):(a++t).getD k 0=a.getD k 0:=by
 simp only [List.getD,List.getElem?_append_left h]
theorem nl (a t:List UInt8):(a++t).getD a.length 0=t.getD 0 0:=by
 simp only [List.getD]
 rw [List.getElem?_append_right (Nat.le_refl _),Nat.sub_self]
theorem qu (a t:List UInt8) (hne:a≠[]) (ht:t=[]∨(t.getD 0 0).toNat<128):decodeL (a++t)=decodeL a:=by
 rcases ht with rfl|ht
 ·rw [List.append_nil]
 have hl:0<a.length:=List.length_pos_iff.2 hne
 rw [decodeL_N,decodeL_N,km a t 0 hl]
 refine (t8 _ _ _ _ _ _ _ _ _ hl (by simp) ?_ ?_ ?_ ?_ ?_ ?_).symm
 ·intro h;rw [km a t 1 h]
 ·intro h;rw [km a t 2 h]
 ·intro h;rw [km a t 3 h]
 ·intro h _;rw [←h,nl];exact ht
 ·intro h _;rw [←h,nl];exact ht
 ·intro h _;rw [←h,nl];exact ht
theorem KU (a t:List UInt8) (hne:a≠[]) (ht:t=[]∨(t.getD 0 0).toNat<128):brk (a++t)=brk a:=by
 unfold brk
 rw [qu a t hne ht]
theorem rM (t:List UInt8) (ht:t=[]∨(t.getD 0 0).toNat<128):∀(n:Nat) (a:List UInt8),a.length≤n→validD (a++t)=(validD a&&validD t)
 |0,a,h=>by
  have:a=[]:=List.eq_nil_of_length_eq_zero (by omega)
  subst this
  simp [validD_nil]
 |n+1,a,h=>by
  by_cases hne:a=[]
  ·subst hne;simp [validD_nil]
  ·have hl:0<a.length:=List.length_pos_iff.2 hne
   have hw:=decodeL_width a
   have hwl:=nV a hne
   rw [ek (a++t) (by simp [hne]),ek a hne,KU a t hne ht,qu a t hne ht,List.drop_append_of_le_length hwl,rM t ht n (a.drop (decodeL a).2) (by rw [List.length_drop];omega)]
   split<;>simp
end Go.Proofs.YtajpoodpbbbkfaaGreatDoor
namespace Go.Proofs.YtajpoodpbbbkfaaGreatDoor
open Go.Lib
theorem eU (x:Int) (h0:0≤x) (h1:x<256):(x.toNat.toUInt8).toNat=x.toNat:=by
 have:x.toNat<256:=by omega
 simp [Nat.toUInt8];omega
def bP (r:Nat):Prop:=r<55296∨(57343<r∧r≤1114111)
theorem ic (l:List UInt8) (_hne:l≠[]):bP (decodeL l).1:=by
 rw [decodeL_N]
 exact decodeN_valid _ _ _ _ _ (l.getD 0 0).toNat_lt
theorem fp (r:Nat) (h:bP r) (t:List UInt8):decodeL (encodeRune (r:Int)++t)=(r,(encodeRune (r:Int)).length):=by
 unfold bP at h
 rw [decodeL_N]
 by_cases h1:r≤127
 ·rw [encodeRune,encodeRuneZ_one (by omega) (by omega)]
  simp only [List.map_cons,List.map_nil,List.cons_append,List.nil_append,yy,List.length_cons,List.length_nil]
  rw [eU _ (by omega) (by omega),decodeN_ascii _ _ _ _ _ (by omega)]
  simp
 by_cases h2:r≤2047
 ·rw [encodeRune,encodeRuneZ_two (by omega) (by omega)]
  simp only [List.map_cons,List.map_nil,List.cons_append,List.nil_append,yy,wE,List.length_cons,List.length_nil]
  rw [eU _ (by omega) (by omega),eU _ (by omega) (by omega)]
  generalize hb0:(192+(r:Int)/64).toNat=b0
  generalize hb1:(128+(r:Int)%64).toNat=b1
  have e0:b0=192+r/64:=by omega
  have e1:b1=128+r%64:=by omega
  clear hb0 hb1
  unfold decodeN
  rw [if_neg (by omega),if_pos ⟨by omega,by omega,by omega⟩,if_pos (by omega)]
  exact Prod.ext (by simp only;omega) rfl
 by_cases h3:r≤65535
 ·rw [encodeRune,encodeRuneZ_three (by omega)]
  simp only [List.map_cons,List.map_nil,List.cons_append,List.nil_append,yy,wE,List.length_cons,List.length_nil]
  rw [eU _ (by omega) (by omega),eU _ (by omega) (by omega),eU _ (by omega) (by omega)]
  generalize hb0:(224+(r:Int)/4096).toNat=b0
  generalize hb1:(128+(r:Int)/64%64).toNat=b1
  generalize hb2:(128+(r:Int)%64).toNat=b2
  have e0:b0=224+r/4096:=by omega
  have e1:b1=128+r/64%64:=by omega
  have e2:b2=128+r%64:=by omega
  clear hb0 hb1 hb2
  unfold decodeN
  rw [if_neg (by omega),if_neg (by omega),if_pos ⟨by omega,⟨by omega,by omega⟩,by omega,by omega⟩,if_pos ⟨by omega,by omega⟩]
  exact Prod.ext (by simp only;omega) rfl
 ·rw [encodeRune,encodeRuneZ_four (by omega) (by omega)]
  simp only [List.map_cons,List.map_nil,List.cons_append,List.nil_append,yy,wE,List.length_cons,List.length_nil]
  rw [eU _ (by omega) (by omega),eU _ (by omega) (by omega),eU _ (by omega) (by omega),eU _ (by omega) (by omega)]
  generalize hb0:(240+(r:Int)/262144).toNat=b0
  generalize hb1:(128+(r:Int)/4096%64).toNat=b1
  generalize hb2:(128+(r:Int)/64%64).toNat=b2
  generalize hb3:(128+(r:Int)%64).toNat=b3
  have e0:b0=240+r/262144:=by omega
  have e1:b1=128+r/4096%64:=by omega
  have e2:b2=128+r/64%64:=by omega
  have e3:b3=128+r%64:=by omega
  clear hb0 hb1 hb2 hb3
  unfold decodeN
  rw [if_neg (by omega),if_neg (by omega),if_neg (by omega),if_pos ⟨by omega,⟨by omega,by omega⟩,⟨by omega,by omega⟩,by omega,by omega⟩,if_pos ⟨by omega,by omega⟩]
  exact Prod.ext (by simp only;omega) rfl
theorem eL (r:Int):1≤(encodeRune r).length∧(encodeRune r).length≤4:=by
 have:=encodeRuneZ_length r
 simpa [encodeRune] using this
theorem wF (r:Int):encodeRune r≠[]:=by
 intro h;have:=(eL r).1;rw [h] at this;simp at this
theorem G5 (n:Int):∃r:Nat,bP r∧encodeRune n=encodeRune (r:Int)∧((0≤n∧bP n.toNat∧(r:Int)=n)∨(¬(0≤n∧bP n.toNat)∧r=65533)):=by
 by_cases h:0≤n∧bP n.toNat
 ·exact ⟨n.toNat,h.2,by rw [Int.toNat_of_nonneg h.1],.inl ⟨h.1,h.2,by omega⟩⟩
 ·refine ⟨65533,by unfold bP;omega,?_,.inr ⟨h,rfl⟩⟩
  unfold bP at h
  have e:encodeRuneZ n=[239,191,189]:=encodeRuneZ_bad (by omega)
  have e2:encodeRuneZ ((65533:Nat):Int)=[239,191,189]:=by decide
  rw [encodeRune,encodeRune,e,e2]
theorem Du (r:Nat) (h:bP r) (t:List UInt8):brk (encodeRune (r:Int)++t)=false:=by
 unfold brk
 rw [fp r h t,decide_eq_false_iff_not]
 rintro ⟨e1,e2⟩
 simp only at e1 e2
 subst e1
 have:(encodeRune ((65533:Nat):Int)).length=3:=by decide
 omega
theorem nX (l:List UInt8) (hne:l≠[]) (h:brk l=false):l=encodeRune ((decodeL l).1:Int)++l.drop (decodeL l).2:=by
 rw [ja l hne h,List.take_append_drop]
theorem uW (l:List UInt8) (hne:l≠[]) (h:brk l=false):(encodeRune ((decodeL l).1:Int)).length=(decodeL l).2:=by
 rw [ja l hne h,List.length_take]
 have:=nV l hne
 omega
theorem G6 (r:Nat) (h:bP r) (t:List UInt8):fD (encodeRune (r:Int)++t)=encodeRune (r:Int)++fD t:=by
 rw [iw _ (by simp [wF]),Du r h t,fp r h t]
 simp
theorem kn (r:Nat) (h:bP r) (t:List UInt8):validD (encodeRune (r:Int)++t)=validD t:=by
 rw [ek _ (by simp [wF]),Du r h t,fp r h t]
 simp
theorem rO (t:List UInt8):validD (iF++t)=validD t:=by
 have:=kn 65533 (by unfold bP;omega) t
 rwa [show encodeRune ((65533:Nat):Int)=iF by decide] at this
theorem jb:∀(n:Nat) (l:List UInt8),l.length≤n→validD (fD l)=true
 |0,l,h=>by
  have:l=[]:=List.eq_nil_of_length_eq_zero (by omega)
  subst this;rfl
 |n+1,l,h=>by
  by_cases hne:l=[]
  ·subst hne;rfl
  ·have hl:0<l.length:=List.length_pos_iff.2 hne
   have hw:=decodeL_width l
   have hb:=l8 l
   rw [iw l hne]
   cases hk:brk l with
   |true=>
    rw [if_pos rfl,rO]
    exact jb n _ (by rw [List.length_drop];omega)
   |false=>
    rw [if_neg (by simp),←ja l hne hk,kn _ (ic l hne)]
    exact jb n _ (by rw [List.length_drop];omega)
theorem rP (t:List UInt8):∀(n:Nat) (a:List UInt8),a.length≤n→validD a=true→fD (a++t)=a++fD t
 |0,a,h,_=>by
  have:a=[]:=List.eq_nil_of_length_eq_zero (by omega)
  subst this;rfl
 |n+1,a,h,hv=>by
  by_cases hne:a=[]
  ·subst hne;rfl
  ·have hl:0<a.length:=List.length_pos_iff.2 hne
   have hw:=decodeL_width a
   rw [ek a hne] at hv
   cases hk:brk a with
   |true=>rw [hk] at hv;simp at hv
   |false=>
    rw [hk,if_neg (by simp)] at hv
    have ih:=rP t n (a.drop (decodeL a).2) (by rw [List.length_drop];omega) hv
    conv=>lhs;rw [nX a hne hk]
    rw [List.append_assoc,G6 _ (ic a hne),ih,←List.append_assoc,←nX a hne hk]
theorem nZ (t:List UInt8):∀(n:Nat) (a:List UInt8),a.length≤n→validD a=true→validD (a++t)=validD t
 |0,a,h,_=>by
  have:a=[]:=List.eq_nil_of_length_eq_zero (by omega)
  subst this;rfl
 |n+1,a,h,hv=>by
  by_cases hne:a=[]
  ·subst hne;rfl
  ·have hl:0<a.length:=List.length_pos_iff.2 hne
   have hw:=decodeL_width a
   rw [ek a hne] at hv
   cases hk:brk a with
   |true=>rw [hk] at hv;simp at hv
   |false=>
    rw [hk,if_neg (by simp)] at hv
    have ih:=nZ t n (a.drop (decodeL a).2) (by rw [List.length_drop];omega) hv
    conv=>lhs;rw [nX a hne hk]
    rw [List.append_assoc,kn _ (ic a hne),ih]
theorem Ez (a:List UInt8) (hv:validD a=true):fD a=a:=by
 have:=rP [] a.length a (Nat.le_refl _) hv
 rwa [List.append_nil,ld,List.append_nil] at this
theorem G7 (t:List UInt8):decodeL (bw++t)=(65279,3):=by
 have:=fp 65279 (by unfold bP;omega) t
 rwa [show encodeRune ((65279:Nat):Int)=bw by decide] at this
theorem wG (l:List UInt8):hasPrefix l bw=true↔∃t,l=bw++t:=by
 unfold hasPrefix
 rw [List.isPrefixOf_iff_prefix]
 exact ⟨fun ⟨t,h⟩=>⟨t,h.symm⟩,fun ⟨t,h⟩=>⟨t,h.symm⟩⟩
theorem gj (l:List UInt8) (h:hasPrefix l bw=false):gi l=fD l:=by
 unfold gi trimPrefix;rw [h];rfl
theorem rQ (l:List UInt8) (h:hasPrefix l bw=true):gi l=fD (l.drop 3):=by
 unfold gi trimPrefix;rw [h];rfl
theorem yz (l:List UInt8) (hne:l≠[]):brk l=(decide ((decodeL l).1=65533)&& !hasPrefix l iF):=by
 rw [Bool.eq_iff_iff]
 constructor
 ·intro h
  have e:=(nW l).1 h
  rw [e]
  simp only [decide_true,Bool.true_and,Bool.not_eq_true']
  rw [Bool.eq_false_iff]
  intro hp
  unfold hasPrefix at hp
  rw [List.isPrefixOf_iff_prefix] at hp
  obtain ⟨t,ht⟩:=hp
  have:=fp 65533 (by unfold bP;omega) t
  rw [show encodeRune ((65533:Nat):Int)=iF by decide,ht,e] at this
  exact absurd (congrArg Prod.snd this) (by decide)
 ·intro h
  rw [Bool.and_eq_true,decide_eq_true_iff,Bool.not_eq_true'] at h
  obtain ⟨h1,h2⟩:=h
  cases hk:brk l with
  |true=>rfl
  |false=>
   have he:=ja l hne hk
   rw [h1,show encodeRune ((65533:Nat):Int)=iF by decide] at he
   have:hasPrefix l iF=true:=by
    unfold hasPrefix
    rw [List.isPrefixOf_iff_prefix]
    exact ⟨l.drop (decodeL l).2,by rw [he,List.take_append_drop]⟩
   rw [this] at h2
   exact absurd h2 (by simp)
theorem EA (l:List UInt8) (i:Nat) (h1:1≤i) (h2:i<dv l):(l.getD i 0).toNat/64=2:=by
 unfold dv dT at h2
 repeat' split at h2
 all_goals first|omega|skip
 ·have:i=1:=by omega
  subst this;omega
 ·rename_i a b
  have:i=1∨i=2:=by omega
  rcases this with rfl|rfl
  ·omega
  ·omega
 ·have:i=1:=by omega
  subst this;omega
theorem wH (l:List UInt8) (h:(l.getD 0 0).toNat/64=2):decodeL l=(65533,1):=by
 rw [decodeL_N]
 exact decodeN_cont _ _ _ _ _ h
end Go.Proofs.YtajpoodpbbbkfaaGreatDoor
namespace Go.Proofs.YtajpoodpbbbkfaaGreatDoor
open Go.RowKit Go.Lib
theorem d5 (a:Nat) (x:Int) (h:x.toNat=a):UInt8.ofNat a=x.toNat.toUInt8:=by rw [h]
theorem Bu (n:Int):Utf8.encode n=⟨(encodeRune n).toArray⟩:=by
 by_cases h:0≤n∧bP n.toNat
 ·obtain ⟨hn,hs⟩:=h
  obtain ⟨r,rfl⟩:=Int.eq_ofNat_of_zero_le hn
  unfold bP at hs
  rw [Int.toNat_natCast] at hs
  have v:Utf8.valid (r:Int)=true:=by
   unfold Utf8.valid
   simp
   omega
  unfold Utf8.encode encodeRune
  simp only [v,if_true,Int.toNat_natCast]
  by_cases h1:r≤127
  ·rw [if_pos (by omega),encodeRuneZ_one (by omega) (by omega)]
   simp only [List.map_cons,List.map_nil]
   rw [d5 r (r:Int) (by omega)]
  by_cases h2:r≤2047
  ·rw [if_neg (by omega),if_pos (by omega),encodeRuneZ_two (by omega) (by omega)]
   simp only [List.map_cons,List.map_nil]
   rw [d5 _ (192+(r:Int)/64) (by omega),d5 _ (128+(r:Int)%64) (by omega)]
  by_cases h3:r≤65535
  ·rw [if_neg (by omega),if_neg (by omega),if_pos (by omega),encodeRuneZ_three (by omega)]
   simp only [List.map_cons,List.map_nil]
   rw [d5 _ (224+(r:Int)/4096) (by omega),d5 _ (128+(r:Int)/64%64) (by omega),d5 _ (128+(r:Int)%64) (by omega)]
  ·rw [if_neg (by omega),if_neg (by omega),if_neg (by omega),encodeRuneZ_four (by omega) (by omega)]
   simp only [List.map_cons,List.map_nil]
   rw [d5 _ (240+(r:Int)/262144) (by omega),d5 _ (128+(r:Int)/4096%64) (by omega),d5 _ (128+(r:Int)/64%64) (by omega),d5 _ (128+(r:Int)%64) (by omega)]
 ·unfold bP at h
  have v:Utf8.valid n=false:=by
   unfold Utf8.valid
   simp
   omega
  unfold Utf8.encode encodeRune
  simp only [v,Bool.false_eq_true,if_false,Utf8.runeError]
  rw [encodeRuneZ_bad (by omega),if_neg (by omega),if_neg (by omega),if_pos (by omega)]
  rfl
theorem n8 (n:Int) (w:World):Calls Tryz.prog 85 #[.int .i64 n] w fun e w'=>e= .returned (.string ⟨(encodeRune n).toArray⟩)∧w=w':=by
 have E:=Lib.hid (Bu n)
 by_cases h0:n<0
 ·have B:Hid (encodeRune n=iF):=Lib.hid (by rw [encodeRune,encodeRuneZ_bad (.inl h0)];rfl)
  go_enter Tryz.func85,Tryz.ntmps85
  go_wp2
  go_ret
  exact ⟨aO (by rw [B.out];rfl),rfl⟩
 ·by_cases h1:1114111<n
  ·have B:Hid (encodeRune n=iF):=Lib.hid (by rw [encodeRune,encodeRuneZ_bad (.inr (.inr h1))];rfl)
   go_enter Tryz.func85,Tryz.ntmps85
   go_wp2
   go_ret
   exact ⟨aO (by rw [B.out];rfl),rfl⟩
  ·have g0:0≤n:=by omega
   have g1:n≤1114111:=by omega
   go_enter Tryz.func85,Tryz.ntmps85
   go_wp2
   go_ret
   exact ⟨aO E.out,rfl⟩
theorem lg (n:Int) (k:Nat) (C:Array Value) (hz:(encodeRuneZ n).map (Value.int .u8)=C.toList) (hk:(encodeRuneZ n).length=k) (w:World):(convert 22 9 (.slice (some ⟨w.heap.size,0,none⟩) k k)).run Tryz.prog (w.alloc (.cells C 5))= .ok (.string ⟨(encodeRune n).toArray⟩) (w.alloc (.cells C 5)):=by
 have hl:(encodeRune n).length=k:=by rw [←hk];simp [encodeRune]
 subst hl
 refine run_convert_bytes_back (P:=Tryz.prog) (w.alloc (.cells C 5)) 22 9 5 ⟨w.heap.size,0,none⟩ (encodeRune n).length (encodeRune n) Tryz.underlying22 Tryz.underlying5 Tryz.underlying9 ?_
 intro i hi
 have e:(⟨w.heap.size,0,none⟩:Addr).add i=⟨w.heap.size,i,none⟩:=by simp [Addr.add];omega
 rw [e,World.cell?_alloc_mark,←Array.getElem?_toList,←hz,←runeCells,←byteCells_encodeRune,byteCells,List.getElem?_map,List.getElem?_eq_getElem hi]
 rfl
theorem iG (n:Int) (w:World):Calls Tryz.prog 134 #[.int .i64 n] w fun e w'=>e= .returned (.string ⟨(encodeRune n).toArray⟩)∧Below w.heap.size w w':=by
 by_cases hb:n<0∨1114111<n∨(55296≤n∧n≤57343)
 ·have B:Hid (encodeRune n=iF):=Lib.hid (by rw [encodeRune,encodeRuneZ_bad (by omega)];rfl)
  rcases hb with h|h|⟨h1,h2⟩
  ·go_enter Tryz.func134,Tryz.ntmps134
   go_wp2
   go_ret
   exact ⟨aO (by rw [B.out];rfl),Below.refl _ _⟩
  ·go_enter Tryz.func134,Tryz.ntmps134
   go_wp2
   go_ret
   exact ⟨aO (by rw [B.out];rfl),Below.refl _ _⟩
  ·go_enter Tryz.func134,Tryz.ntmps134
   go_wp2
   go_ret
   exact ⟨aO (by rw [B.out];rfl),Below.refl _ _⟩
 ·have h0:0≤n:=by omega
  have hm:n≤1114111:=by omega
  by_cases h1:n<128
  ·have hs:n<55296:=by omega
   have hcv:=lg n 1 #[.int .u8 n] (by rw [encodeRuneZ_one (by omega) (by omega)];rfl) (by rw [encodeRuneZ_one (by omega) (by omega)];rfl)
   go_enter Tryz.func134,Tryz.ntmps134
   go_wp2
   go_ret
   exact ⟨rfl,(Below.refl _ w).alloc (Nat.le_refl _) _⟩
  by_cases h2:n<2048
  ·have hs:n<55296:=by omega
   have hcv:=lg n 2 #[.int .u8 (192+n/64),.int .u8 (128+n%64)] (by rw [encodeRuneZ_two (by omega) (by omega)];rfl) (by rw [encodeRuneZ_two (by omega) (by omega)];rfl)
   go_enter Tryz.func134,Tryz.ntmps134
   go_wp2
   go_ret
   exact ⟨rfl,(Below.refl _ w).alloc (Nat.le_refl _) _⟩
  by_cases h3:n<65536
  ·by_cases hs:n<55296
   ·have hcv:=lg n 3 #[.int .u8 (224+n/4096),.int .u8 (128+n/64%64),.int .u8 (128+n%64)] (by rw [encodeRuneZ_three (by omega)];rfl) (by rw [encodeRuneZ_three (by omega)];rfl)
    go_enter Tryz.func134,Tryz.ntmps134
    go_wp2
    go_ret
    exact ⟨rfl,(Below.refl _ w).alloc (Nat.le_refl _) _⟩
   ·have hs2:57343<n:=by omega
    have hcv:=lg n 3 #[.int .u8 (224+n/4096),.int .u8 (128+n/64%64),.int .u8 (128+n%64)] (by rw [encodeRuneZ_three (by omega)];rfl) (by rw [encodeRuneZ_three (by omega)];rfl)
    go_enter Tryz.func134,Tryz.ntmps134
    go_wp2
    go_ret
    exact ⟨rfl,(Below.refl _ w).alloc (Nat.le_refl _) _⟩
  ·have hs2:57343<n:=by omega
   have hcv:=lg n 4 #[.int .u8 (240+n/262144),.int .u8 (128+n/4096%64),.int .u8 (128+n/64%64),.int .u8 (128+n%64)] (by rw [encodeRuneZ_four (by omega) (by omega)];rfl) (by rw [encodeRuneZ_four (by omega) (by omega)];rfl)
   go_enter Tryz.func134,Tryz.ntmps134
   go_wp2
   go_ret
   exact ⟨rfl,(Below.refl _ w).alloc (Nat.le_refl _) _⟩
end Go.Proofs.YtajpoodpbbbkfaaGreatDoor
