/-
  Texts laid together: UtfBits, Builder, UtfCode, UtfBeg, UtfLoop, UtfDec, UtfAwake, UtfRefSign.
-/
import Derived.Test.YtajpoodpbbbkfaaGreatDoorP1
import Derived.Laws.BitsLemmas
import Derived.Laws.BitsAllLaws
import Derived.RowKit
import Derived.Test.YtajpoodpbbbkfaaGreatDoorP4
import Derived.WalkSpells
import Derived.WalkLawsBesides
import Derived.Lib.Hide
import Derived.Deep.QuietTactic
import Derived.BigQuiet
import Derived.LoopN
import Derived.Lib.OthersKept
import Derived.Laws.IdiomStrings
import Derived.Deep.DeepFit
set_option maxHeartbeats 4000000
set_option maxRecDepth 100000
namespace Go.Proofs.YtajpoodpbbbkfaaGreatDoor
open Go.RowKit Go.Lib
def eI (b0:Nat):Nat:=if b0<192∨247<b0 then 1 else if b0<224 then 2 else if b0<240 then 3 else 4
theorem CJ:∀b:Fin 256,(((b.val&&& 192:Nat):Int)==128)=decide (b.val/64=2):=by decide+kernel
theorem qk (b:Nat) (hb:b<256):(bits .and .u8 (b:Int) 192==128)=decide (b/64=2):=by
 rw [show (192:Int)=((192:Nat):Int) from rfl,u8_and_nat b 192 hb (by decide)]
 exact CJ ⟨b,hb⟩
theorem Gb (b:Nat) (hb:b<256):bits .and .i32 (b:Int) 15=(b:Int)%16:=
 bits_mask .i32 31 (by decide) wraps_i32 4 (by decide) b (by omega) (by omega)
theorem vY (b:Nat) (hb:b<256):bits .and .i32 (b:Int) 7=(b:Int)%8:=
 bits_mask .i32 31 (by decide) wraps_i32 3 (by decide) b (by omega) (by omega)
theorem Pn (x:Int) (h0:0≤x) (h1:x<2147483648):wrap32 x=x:=by unfold wrap32;omega
theorem Ek (x y:Int) (hx:0≤x) (hx1:x<33554432) (hy:0≤y) (hy1:y<256):bits .or .i32 (wrap32 (x*64)) (wrap32 (bits .and .u8 y 63))=x*64+y%64:=by
 rw [u8_and63 _ hy hy1,Pn _ (by omega) (by omega),Pn _ (by omega) (by omega)]
 exact i32_or6 _ _ (by omega) (by omega) (by omega) (by omega) (by omega)
theorem OG (b0 b1:Nat) (h0:b0<256) (h1:b1<256):wrap32 (bits .or .i32 (wrap32 (bits .and .i32 (b0:Int) 15*64)) (wrap32 (bits .and .u8 (b1:Int) 63))*64)=((b0%16*4096+b1%64*64:Nat):Int):=by
 rw [Gb b0 h0,Ek _ _ (by omega) (by omega) (by omega) (by omega),Pn _ (by omega) (by omega)]
 omega
theorem JX (b0 b1:Nat) (h0:b0<256) (h1:b1<256):wrap32 (bits .or .i32 (wrap32 (bits .and .i32 (b0:Int) 7*64)) (wrap32 (bits .and .u8 (b1:Int) 63))*4096)=((b0%8*262144+b1%64*4096:Nat):Int):=by
 rw [vY b0 h0,Ek _ _ (by omega) (by omega) (by omega) (by omega),Pn _ (by omega) (by omega)]
 omega
theorem ME (b0 b1 b2:Nat) (h0:b0<256) (h1:b1<256) (h2:b2<256):wrap32 (bits .or .i32 (wrap32 (bits .or .i32 (wrap32 (bits .and .i32 (b0:Int) 7*64)) (wrap32 (bits .and .u8 (b1:Int) 63))*64)) (wrap32 (bits .and .u8 (b2:Int) 63))*64)=((b0%8*262144+b1%64*4096+b2%64*64:Nat):Int):=by
 rw [vY b0 h0,Ek _ (b1:Int) (by omega) (by omega) (by omega) (by omega),Ek _ _ (by omega) (by omega) (by omega) (by omega),Pn _ (by omega) (by omega)]
 omega
theorem Ax (c:Nat):(runeLen (c:Int)==3)=decide (2048≤c∧(c<55296∨57343<c)∧c≤65535):=by
 unfold runeLen
 repeat' split
 all_goals simp
 all_goals omega
theorem o7 (c:Nat):(runeLen (c:Int)==4)=decide (65536≤c∧c≤1114111):=by
 unfold runeLen
 repeat' split
 all_goals simp
 all_goals omega
theorem dr (s:ByteArray) (k:Nat) (h:k<s.size):s.data.toList.getD k 0=s[k]'h:=by
 have h':k<s.data.size:=h
 rw [List.getD_eq_getElem?_getD,List.getElem?_eq_getElem (by simpa using h'),Option.getD_some]
 rfl
theorem mL (s:ByteArray):s.data.toList.length=s.size:=(size_eq s).symm
theorem Gc (s:ByteArray) (hs:0<s.size) (h:eI (s[0]'hs).toNat=1∨eI (s[0]'hs).toNat=2):dv s.data.toList=1:=by
 unfold dv
 rw [dr s 0 hs]
 unfold eI at h
 have:=(s[0]'hs).toNat_lt
 unfold dT
 repeat' split
 all_goals first|rfl|(exfalso;repeat' split at h)
 all_goals omega
theorem MF (s:ByteArray) (hs:s.size=1):dv s.data.toList=1:=by
 unfold dv
 rw [mL,hs]
 have:=Dt 1 (s.data.toList.getD 0 0).toNat (s.data.toList.getD 1 0).toNat (s.data.toList.getD 2 0).toNat (Nat.le_refl _)
 have:=Ds 1 (s.data.toList.getD 0 0).toNat (s.data.toList.getD 1 0).toNat (s.data.toList.getD 2 0).toNat
 omega
theorem OH {b:Nat} (h:eI b=3):224≤b∧b<240:=by
 unfold eI at h
 repeat' split at h
 all_goals omega
theorem MG {b:Nat} (h:eI b=4):240≤b∧b<248:=by
 unfold eI at h
 repeat' split at h
 all_goals omega
theorem MH (s:ByteArray) (hs:1<s.size) (h:eI (s[0]'(by omega)).toNat=3) (hc:(bits .and .u8 ((s[1]'hs).toNat:Int) 192==128)=false):dv s.data.toList=1:=by
 rw [qk _ (dK _),decide_eq_false_iff_not] at hc
 have ha:=OH h
 unfold dv
 rw [dr s 0 (by omega),dr s 1 hs]
 unfold dT
 rw [if_neg (by omega),if_pos (by omega),if_neg (by omega)]
theorem JY (s:ByteArray) (hs:1<s.size) (h:eI (s[0]'(by omega)).toNat=3) (hr:(runeLen (((s[0]'(by omega)).toNat%16*4096+(s[1]'hs).toNat%64*64:Nat):Int)==3)=false):dv s.data.toList=1:=by
 rw [Ax,decide_eq_false_iff_not] at hr
 have ha:=OH h
 unfold dv
 rw [dr s 0 (by omega),dr s 1 hs]
 unfold dT
 rw [if_neg (by omega),if_pos (by omega),if_neg (by omega)]
theorem JZ (s:ByteArray) (hs:1<s.size) (h:eI (s[0]'(by omega)).toNat=3) (hc:(bits .and .u8 ((s[1]'hs).toNat:Int) 192==128)=true) (hr:(runeLen (((s[0]'(by omega)).toNat%16*4096+(s[1]'hs).toNat%64*64:Nat):Int)==3)=true):dv s.data.toList=2:=by
 rw [qk _ (dK _),decide_eq_true_iff] at hc
 rw [Ax,decide_eq_true_iff] at hr
 have ha:=OH h
 unfold dv
 rw [mL,dr s 0 (by omega),dr s 1 hs]
 unfold dT
 rw [if_neg (by omega),if_pos (by omega),if_pos (by omega)]
theorem El (s:ByteArray) (hs:1<s.size) (h:eI (s[0]'(by omega)).toNat=4) (hc:(bits .and .u8 ((s[1]'hs).toNat:Int) 192==128)=false):dv s.data.toList=1:=by
 rw [qk _ (dK _),decide_eq_false_iff_not] at hc
 have ha:=MG h
 unfold dv
 rw [dr s 0 (by omega),dr s 1 hs]
 unfold dT
 rw [if_neg (by omega),if_neg (by omega),if_neg (by omega)]
theorem Ay (s:ByteArray) (hs:1<s.size) (h:eI (s[0]'(by omega)).toNat=4) (hr:(runeLen (((s[0]'(by omega)).toNat%8*262144+(s[1]'hs).toNat%64*4096:Nat):Int)==4)=false):dv s.data.toList=1:=by
 rw [o7,decide_eq_false_iff_not] at hr
 have ha:=MG h
 unfold dv
 rw [dr s 0 (by omega),dr s 1 hs]
 unfold dT
 rw [if_neg (by omega),if_neg (by omega),if_neg (by omega)]
theorem AA (s:ByteArray) (hs:1<s.size) (h:eI (s[0]'(by omega)).toNat=4) (hc:(bits .and .u8 ((s[1]'hs).toNat:Int) 192==128)=true) (hr:(runeLen (((s[0]'(by omega)).toNat%8*262144+(s[1]'hs).toNat%64*4096:Nat):Int)==4)=true) (h2:s.size=2∨∃h2:2<s.size,(bits .and .u8 ((s[2]'h2).toNat:Int) 192==128)=false):dv s.data.toList=2:=by
 rw [qk _ (dK _),decide_eq_true_iff] at hc
 rw [o7,decide_eq_true_iff] at hr
 have ha:=MG h
 unfold dv
 rw [mL,dr s 0 (by omega),dr s 1 hs]
 unfold dT
 rw [if_neg (by omega),if_neg (by omega),if_pos (by omega)]
 rcases h2 with h2|⟨h2,hd⟩
 ·rw [if_neg (by omega)]
 ·rw [qk _ (dK _),decide_eq_false_iff_not] at hd
  rw [dr s 2 h2,if_neg (by omega)]
theorem CM (s:ByteArray) (hs:2<s.size) (h:eI (s[0]'(by omega)).toNat=4) (hc:(bits .and .u8 ((s[1]'(by omega)).toNat:Int) 192==128)=true) (hr:(runeLen (((s[0]'(by omega)).toNat%8*262144+(s[1]'(by omega)).toNat%64*4096:Nat):Int)==4)=true) (hd:(bits .and .u8 ((s[2]'hs).toNat:Int) 192==128)=true):dv s.data.toList=3:=by
 rw [qk _ (dK _),decide_eq_true_iff] at hc hd
 rw [o7,decide_eq_true_iff] at hr
 have ha:=MG h
 unfold dv
 rw [mL,dr s 0 (by omega),dr s 1 (by omega),dr s 2 hs]
 unfold dT
 rw [if_neg (by omega),if_neg (by omega),if_pos (by omega),if_pos (by omega)]
theorem MI (c x:Nat) (hm:c%4096=0) (hx:x<64) (h:65536≤c∧c≤1114111):65536≤c+x*64∧c+x*64≤1114111:=by omega
theorem MJ (x y:Nat):(x*262144+y*4096)%4096=0:=by omega
theorem AB (b0 b1 b2:Nat) (h:(runeLen ((b0%8*262144+b1%64*4096:Nat):Int)==4)=true):(runeLen ((b0%8*262144+b1%64*4096+b2%64*64:Nat):Int)==4)=true:=by
 rw [o7,decide_eq_true_iff] at h⊢
 exact MI _ _ (MJ _ _) (Nat.mod_lt _ (by decide)) h
theorem n3 (a b:Nat):(runeLen ((a:Int)%16*4096+(b:Int)%64*64) != 3)= !(runeLen ((a%16*4096+b%64*64:Nat):Int)==3):=by
 rw [show ((a%16*4096+b%64*64:Nat):Int)=(a:Int)%16*4096+(b:Int)%64*64 by omega];rfl
theorem n4 (a b:Nat):(runeLen ((a:Int)%8*262144+(b:Int)%64*4096) != 4)= !(runeLen ((a%8*262144+b%64*4096:Nat):Int)==4):=by
 rw [show ((a%8*262144+b%64*4096:Nat):Int)=(a:Int)%8*262144+(b:Int)%64*4096 by omega];rfl
theorem PX (a b c:Nat) (h:(runeLen ((a:Int)%8*262144+(b:Int)%64*4096) != 4)=false):(runeLen ((a:Int)%8*262144+(b:Int)%64*4096+(c:Int)%64*64) != 4)=false:=by
 rw [n4,Bool.not_eq_false'] at h
 have:=AB a b c h
 rw [show ((a%8*262144+b%64*4096+c%64*64:Nat):Int)=(a:Int)%8*262144+(b:Int)%64*4096+(c:Int)%64*64 by omega] at this
 simp only [bne,this,Bool.not_true]
theorem PY {a b:Nat} (h:(runeLen ((a:Int)%16*4096+(b:Int)%64*64) != 3)=true):(runeLen ((a%16*4096+b%64*64:Nat):Int)==3)=false:=by
 rwa [n3,Bool.not_eq_true'] at h
theorem PI {a b:Nat} (h:(runeLen ((a:Int)%16*4096+(b:Int)%64*64) != 3)=false):(runeLen ((a%16*4096+b%64*64:Nat):Int)==3)=true:=by
 rwa [n3,Bool.not_eq_false'] at h
theorem PQ {a b:Nat} (h:(runeLen ((a:Int)%8*262144+(b:Int)%64*4096) != 4)=true):(runeLen ((a%8*262144+b%64*4096:Nat):Int)==4)=false:=by
 rwa [n4,Bool.not_eq_true'] at h
theorem Po {a b:Nat} (h:(runeLen ((a:Int)%8*262144+(b:Int)%64*4096) != 4)=false):(runeLen ((a%8*262144+b%64*4096:Nat):Int)==4)=true:=by
 rwa [n4,Bool.not_eq_false'] at h
end Go.Proofs.YtajpoodpbbbkfaaGreatDoor
namespace Go.Proofs.YtajpoodpbbbkfaaGreatDoor
open Go.RowKit Go.Shelf
theorem vZ (B b:Nat) (bs:List Value) (r:Int) (hr0: -2147483648≤r) (hr1:r≤2147483647) (w:World) (h:Lib.IsBuilderF 54 5 B b bs w) (hlen:bs.length+4≤140737488355328) (hBw:B≤w.heap.size):Calls Tryz.prog 34 #[.pointer (some ⟨b,0,none⟩),.int .i32 r] w fun e w'=>e= .returned (.tuple #[.int .i64 (Lib.runeCells r).length,.nilIface])∧Lib.BuilderAtF 54 5 B b (.pointer (some ⟨b,0,none⟩)) (bs++Lib.runeCells r) w'∧Below B w w'∧Lib.OthersKept 5 (some b) w w':=by
 have hk4:=Lib.runeCells_le r
 go_enter Tryz.func34,Tryz.ntmps34
 go_wp2_with (go_at_call 68;refine (py B b bs _ h).mono ?_)
 rintro e w1 ⟨rfl,h1,hb1,hk1⟩
 obtain ⟨hB,v,hbk,hown,hne⟩:=h1
 have hs1:=hb1.size
 obtain ⟨ao,cap,rfl⟩:∃ao cap,v= .slice ao bs.length cap:=by
  rcases hown.2 with ⟨hv,h0⟩|⟨g,cap,cur,fz,hv,_⟩
  ·exact ⟨none,0,by rw [hv,h0]⟩
  ·exact ⟨_,_,hv⟩
 have c0:w1.cell? ⟨b,0,none⟩=some (.pointer (some ⟨b,0,none⟩)):=by rw [Lib.cell_of_heap hbk];rfl
 have c1:w1.cell? ⟨b,1,none⟩=some (.slice ao bs.length cap):=by rw [Lib.cell_of_heap hbk];rfl
 go_wp2_with (go_at_call 72;refine (Tryz.utf8_AppendRune_row B _ bs.length bs r hr0 hr1 _ hown hlen (by omega)).mono ?_)
 rintro e w2 ⟨v',rfl,hown',o,hgrow⟩
 have hlt:=ll hbk
 have hb2:w2.heap[b]? =some (.cells #[.pointer (some ⟨b,0,none⟩),.slice ao bs.length cap] 54 (0,0)):=by
  rw [hgrow.block b (by simp;omega) (fun e=>hne e.symm),Lib.alloc_old w1 _ b hlt]
  exact hbk
 have d0:w2.cell? ⟨b,0,none⟩=some (.pointer (some ⟨b,0,none⟩)):=by rw [Lib.cell_of_heap hb2];rfl
 have d1:w2.cell? ⟨b,1,none⟩=some (.slice ao bs.length cap):=by rw [Lib.cell_of_heap hb2];rfl
 have f1:w2.frozen? ⟨b,1,none⟩=false:=Lib.frozen_of_heap hb2 1
 obtain ⟨g,cap',rfl⟩:∃g cap',v'= .slice (some ⟨g,0,none⟩) (bs.length+(Lib.runeCells r).length) cap':=by
  rcases hown'.2 with ⟨_,h0⟩|⟨g,cap',cur,fz,hv,_⟩
  ·omega
  ·exact ⟨g,cap',hv⟩
 go_wp2
 go_ret2
 refine ⟨?_,Lib.BuilderAtF.put (T:=54) (e:=5) hB hb2 (bs':=bs++Lib.runeCells r) (by simpa using hown') (by decide),((hb1.alloc (by omega) _).grown hgrow (by simp;omega) (fun k hk=>(hown.lt k hk).1)).setCell (p:=⟨b,1,none⟩) hB _,((hk1.alloc _).grown hgrow (Lib.ownsRowF_kind (hown.alloc _))).setCell ⟨b,1,none⟩ rfl _⟩
 have e:((bs.length:Int)+((Lib.runeCells r).length:Int)-(bs.length:Int))=((Lib.runeCells r).length:Int):=by omega
 simp [e]
end Go.Proofs.YtajpoodpbbbkfaaGreatDoor
namespace Go.Proofs.YtajpoodpbbbkfaaGreatDoor
open Go.RowKit Go.Lib
theorem j9 (c:Nat) (w:World) (hc:c<256):Calls Tryz.prog 70 #[.int .u8 (c:Int)] w fun e w'=>e= .returned (.int .i64 (eI c:Nat))∧w=w':=by
 by_cases h1:c<192
 ·have e:eI c=1:=by unfold eI;rw [if_pos (by omega)]
  rw [e]
  go_enter Tryz.func70,Tryz.ntmps70
  go_wp2
  go_ret
  exact ⟨rfl,rfl⟩
 ·by_cases h2:247<c
  ·have e:eI c=1:=by unfold eI;rw [if_pos (by omega)]
   rw [e]
   go_enter Tryz.func70,Tryz.ntmps70
   go_wp2
   go_ret
   exact ⟨rfl,rfl⟩
  ·by_cases h3:c<224
   ·have e:eI c=2:=by unfold eI;rw [if_neg (by omega),if_pos (by omega)]
    rw [e]
    go_enter Tryz.func70,Tryz.ntmps70
    go_wp2
    go_ret
    exact ⟨rfl,rfl⟩
   ·by_cases h4:c<240
    ·have e:eI c=3:=by unfold eI;rw [if_neg (by omega),if_neg (by omega),if_pos (by omega)]
     rw [e]
     go_enter Tryz.func70,Tryz.ntmps70
     go_wp2
     go_ret
     exact ⟨rfl,rfl⟩
    ·have e:eI c=4:=by unfold eI;rw [if_neg (by omega),if_neg (by omega),if_neg (by omega)]
     rw [e]
     go_enter Tryz.func70,Tryz.ntmps70
     go_wp2
     go_ret
     exact ⟨rfl,rfl⟩
theorem fd (a:Nat) (x:Int) (h:x.toNat=a):UInt8.ofNat a=x.toNat.toUInt8:=by rw [h]
theorem Gd (n:Int):Utf8.encode n=⟨(encodeRune n).toArray⟩:=by
 by_cases h:0≤n∧bP n.toNat
 ·obtain ⟨hn,hs⟩:=h
  obtain ⟨r,rfl⟩:=Int.eq_ofNat_of_zero_le hn
  unfold bP at hs
  rw [Int.toNat_natCast] at hs
  have v:Utf8.valid (r:Int)=true:=by
   unfold Utf8.valid
   simp
   omega
  unfold Utf8.encode encodeRune
  simp only [v,if_true,Int.toNat_natCast]
  by_cases h1:r≤127
  ·rw [if_pos (by omega),encodeRuneZ_one (by omega) (by omega)]
   simp only [List.map_cons,List.map_nil]
   rw [fd r (r:Int) (by omega)]
  by_cases h2:r≤2047
  ·rw [if_neg (by omega),if_pos (by omega),encodeRuneZ_two (by omega) (by omega)]
   simp only [List.map_cons,List.map_nil]
   rw [fd _ (192+(r:Int)/64) (by omega),fd _ (128+(r:Int)%64) (by omega)]
  by_cases h3:r≤65535
  ·rw [if_neg (by omega),if_neg (by omega),if_pos (by omega),encodeRuneZ_three (by omega)]
   simp only [List.map_cons,List.map_nil]
   rw [fd _ (224+(r:Int)/4096) (by omega),fd _ (128+(r:Int)/64%64) (by omega),fd _ (128+(r:Int)%64) (by omega)]
  ·rw [if_neg (by omega),if_neg (by omega),if_neg (by omega),encodeRuneZ_four (by omega) (by omega)]
   simp only [List.map_cons,List.map_nil]
   rw [fd _ (240+(r:Int)/262144) (by omega),fd _ (128+(r:Int)/4096%64) (by omega),fd _ (128+(r:Int)/64%64) (by omega),fd _ (128+(r:Int)%64) (by omega)]
 ·unfold bP at h
  have v:Utf8.valid n=false:=by
   unfold Utf8.valid
   simp
   omega
  unfold Utf8.encode encodeRune
  simp only [v,Bool.false_eq_true,if_false,Utf8.runeError]
  rw [encodeRuneZ_bad (by omega),if_neg (by omega),if_neg (by omega),if_pos (by omega)]
  rfl
theorem J0 (n:Int) (w:World):Calls Tryz.prog 85 #[.int .i64 n] w fun e w'=>e= .returned (.string ⟨(encodeRune n).toArray⟩)∧w=w':=by
 have E:=Lib.hid (Gd n)
 by_cases h0:n<0
 ·have B:Hid (encodeRune n=iF):=Lib.hid (by rw [encodeRune,encodeRuneZ_bad (.inl h0)];rfl)
  go_enter Tryz.func85,Tryz.ntmps85
  go_wp2
  go_ret
  exact ⟨aO (by rw [B.out];rfl),rfl⟩
 ·by_cases h1:1114111<n
  ·have B:Hid (encodeRune n=iF):=Lib.hid (by rw [encodeRune,encodeRuneZ_bad (.inr (.inr h1))];rfl)
   go_enter Tryz.func85,Tryz.ntmps85
   go_wp2
   go_ret
   exact ⟨aO (by rw [B.out];rfl),rfl⟩
  ·have g0:0≤n:=by omega
   have g1:n≤1114111:=by omega
   go_enter Tryz.func85,Tryz.ntmps85
   go_wp2
   go_ret
   exact ⟨aO E.out,rfl⟩
end Go.Proofs.YtajpoodpbbbkfaaGreatDoor
namespace Go.Proofs.YtajpoodpbbbkfaaGreatDoor
open Go.RowKit Go.Lib
theorem dZ {n m:Nat} (h:n=m):Ending.returned (.int .i64 (m:Int))= .returned (.int .i64 (n:Int)):=by rw [h]
theorem rh (s:ByteArray) (w:World) (hs:1<s.size) (hm:s.size≤maxLen) (h0:eI (s[0]'(by omega)).toNat=3):Calls Tryz.prog 33 #[.string s] w fun e w'=>e= .returned (.int .i64 (dv s.data.toList:Nat))∧∃n,w'=w.drewN n:=by
 have H0:=Lib.hid h0
 have hb:=(s[0]'(by omega)).toNat_lt
 have hs0:0<s.size:=by omega
 have L3:=Lib.hid (OG _ _ (dK s[0]) (dK s[1]))
 unfold maxLen at hm
 clear h0
 go_enter Tryz.func33,Tryz.ntmps33
 go_wp2_with (go_at_call 70;refine (j9 _ _ hb).mono ?_;rintro e w' ⟨rfl,rfl⟩;rw [H0.out])
 go_quiet (fail)
 go_wp2
 refine wp_loop_rounds 3 ?_
 rw [rounds_succ]
 go_wp2_with (go_at_call 71;rw [L3.out];refine (Tryz.utf8_RuneLen _ _).mono ?_;rintro e w' ⟨rfl,rfl⟩)
 ·go_ret
  exact ⟨dZ (JY s hs H0.out (PY ‹_›)),_,rfl⟩
 ·rw [rounds_succ]
  go_wp2
  go_ret
  exact ⟨dZ (JZ s hs H0.out ‹_› (PI ‹_›)),_,rfl⟩
 ·go_ret
  exact ⟨dZ (MH s hs H0.out ‹_›),_,rfl⟩
theorem tv (s:ByteArray) (w:World) (hs:2<s.size) (hm:s.size≤maxLen) (h0:eI (s[0]'(by omega)).toNat=4):Calls Tryz.prog 33 #[.string s] w fun e w'=>e= .returned (.int .i64 (dv s.data.toList:Nat))∧∃n,w'=w.drewN n:=by
 have H0:=Lib.hid h0
 have hb:=(s[0]'(by omega)).toNat_lt
 have hs0:0<s.size:=by omega
 have hs1:1<s.size:=by omega
 have L4:=Lib.hid (JX _ _ (dK s[0]) (dK s[1]))
 have L4b:=Lib.hid (ME _ _ _ (dK s[0]) (dK s[1]) (dK s[2]))
 have N4:=Lib.hid (PX s[0].toNat s[1].toNat s[2].toNat)
 unfold maxLen at hm
 clear h0
 go_enter Tryz.func33,Tryz.ntmps33
 go_wp2_with (go_at_call 70;refine (j9 _ _ hb).mono ?_;rintro e w' ⟨rfl,rfl⟩;rw [H0.out])
 go_quiet (fail)
 go_wp2
 refine wp_loop_rounds 4 ?_
 rw [rounds_succ]
 go_wp2_with (go_at_call 71;rw [L4.out];refine (Tryz.utf8_RuneLen _ _).mono ?_;rintro e w' ⟨rfl,rfl⟩)
 ·go_ret
  exact ⟨dZ (Ay s hs1 H0.out (PQ ‹_›)),_,rfl⟩
 ·rw [rounds_succ]
  have hy:(runeLen ((s[0].toNat:Int)%8*262144+(s[1].toNat:Int)%64*4096) != 4)=false:=by assumption
  have hx:=N4.out hy
  have HY:=Lib.hid (Po hy)
  go_wp2_with (go_at_call 71;rw [L4b.out];refine (Tryz.utf8_RuneLen _ _).mono ?_;rintro e w' ⟨rfl,rfl⟩)
  ·rw [rounds_succ]
   go_wp2
   go_ret
   exact ⟨dZ (CM s hs H0.out ‹_› HY.out ‹_›),_,rfl⟩
  ·go_ret
   exact ⟨dZ (AA s hs1 H0.out ‹_› HY.out (.inr ⟨hs,‹_›⟩)),_,rfl⟩
 ·go_ret
  exact ⟨dZ (El s hs1 H0.out ‹_›),_,rfl⟩
theorem ri (s:ByteArray) (w:World) (hs1:1<s.size) (hs2:s.size≤2) (h0:eI (s[0]'(by omega)).toNat=4):Calls Tryz.prog 33 #[.string s] w fun e w'=>e= .returned (.int .i64 (dv s.data.toList:Nat))∧∃n,w'=w.drewN n:=by
 have H0:=Lib.hid h0
 have HS:Hid (s.size=2):=Lib.hid (by omega)
 have hb:=(s[0]'(by omega)).toNat_lt
 have hs0:0<s.size:=by omega
 have L4:=Lib.hid (JX _ _ (dK s[0]) (dK s[1]))
 clear h0
 go_enter Tryz.func33,Tryz.ntmps33
 go_wp2_with (go_at_call 70;refine (j9 _ _ hb).mono ?_;rintro e w' ⟨rfl,rfl⟩;rw [H0.out])
 go_quiet (fail)
 go_wp2
 refine wp_loop_rounds 4 ?_
 rw [rounds_succ]
 go_wp2_with (go_at_call 71;rw [L4.out];refine (Tryz.utf8_RuneLen _ _).mono ?_;rintro e w' ⟨rfl,rfl⟩)
 ·go_ret
  exact ⟨dZ (Ay s hs1 H0.out (PQ ‹_›)),_,rfl⟩
 ·rw [rounds_succ]
  go_wp2
  go_ret
  exact ⟨dZ (AA s hs1 H0.out ‹_› (Po ‹_›) (.inl HS.out)),_,rfl⟩
 ·go_ret
  exact ⟨dZ (El s hs1 H0.out ‹_›),_,rfl⟩
theorem gC (s:ByteArray) (w:World) (hs:0<s.size) (k:Nat) (hk:k=1∨k=2) (h0:eI (s[0]'hs).toNat=k):Calls Tryz.prog 33 #[.string s] w fun e w'=>e= .returned (.int .i64 (dv s.data.toList:Nat))∧∃n,w'=w.drewN n:=by
 have H0:=Lib.hid h0
 have B:=Lib.hid (Gc s hs (by omega))
 have hb:=(s[0]'hs).toNat_lt
 clear h0
 rcases hk with rfl|rfl
 all_goals
  go_enter Tryz.func33,Tryz.ntmps33
  go_wp2_with (go_at_call 70;refine (j9 _ _ hb).mono ?_;rintro e w' ⟨rfl,rfl⟩;rw [H0.out])
  go_quiet (fail)
  go_wp2
  refine wp_loop_rounds 1 ?_
  rw [rounds_succ]
  go_wp2
  go_ret
  exact ⟨dZ B.out,_,rfl⟩
theorem kT (s:ByteArray) (w:World) (hs0:0<s.size) (hs1:s.size≤1) (k:Nat) (hk:k=3∨k=4) (h0:eI (s[0]'(by omega)).toNat=k):Calls Tryz.prog 33 #[.string s] w fun e w'=>e= .returned (.int .i64 (dv s.data.toList:Nat))∧∃n,w'=w.drewN n:=by
 have H0:=Lib.hid h0
 have B:=Lib.hid (MF s (by omega))
 have hb:=(s[0]'(by omega)).toNat_lt
 clear h0
 rcases hk with rfl|rfl
 all_goals
  go_enter Tryz.func33,Tryz.ntmps33
  go_wp2_with (go_at_call 70;refine (j9 _ _ hb).mono ?_;rintro e w' ⟨rfl,rfl⟩;rw [H0.out])
  go_quiet (fail)
  go_wp2
  refine wp_loop_rounds 1 ?_
  rw [rounds_succ]
  go_wp2
  go_ret
  exact ⟨dZ B.out,_,rfl⟩
theorem uG (s:ByteArray) (w:World) (hs:0<s.size) (hm:s.size≤maxLen):Calls Tryz.prog 33 #[.string s] w fun e w'=>e= .returned (.int .i64 (dv s.data.toList:Nat))∧∃n,w'=w.drewN n:=by
 have ha:eI (s[0]'hs).toNat=1∨eI (s[0]'hs).toNat=2∨eI (s[0]'hs).toNat=3∨eI (s[0]'hs).toNat=4:=by
  unfold eI;repeat' split
  all_goals simp
 by_cases h1:s.size=1
 ·rcases ha with h|h|h|h
  ·exact gC s w hs 1 (.inl rfl) h
  ·exact gC s w hs 2 (.inr rfl) h
  ·exact kT s w hs (by omega) 3 (.inl rfl) h
  ·exact kT s w hs (by omega) 4 (.inr rfl) h
 ·rcases ha with h|h|h|h
  ·exact gC s w hs 1 (.inl rfl) h
  ·exact gC s w hs 2 (.inr rfl) h
  ·exact rh s w (by omega) hm h
  ·by_cases h2:s.size=2
   ·exact ri s w (by omega) (by omega) h
   ·exact tv s w (by omega) hm h
theorem wb (s:ByteArray) (i:Nat) (r:Int) (w:World) (hr:r≠65533):Calls Tryz.prog 24 #[.string s,.int .i64 (i:Int),.int .i32 r] w fun e w'=>e= .returned (.bool false)∧w=w':=by
 have h:(r==65533)=false:=by simpa using hr
 clear hr
 go_enter Tryz.func24,Tryz.ntmps24
 go_wp2
 go_ret
 exact ⟨rfl,rfl⟩
theorem kL (s:ByteArray) (i:Nat) (r:Int) (w:World) (hr:r=65533) (hi:i≤s.size):Calls Tryz.prog 24 #[.string s,.int .i64 (i:Int),.int .i32 r] w fun e w'=>e= .returned (.bool (!hasPrefix (s.data.toList.drop i) iF))∧w=w':=by
 subst hr
 go_enter Tryz.func24,Tryz.ntmps24
 go_wp2_with (go_at_call 43;refine (Tryz.strings_HasPrefix _ _ _).mono ?_;rintro e w' ⟨rfl,rfl⟩)
 go_ret
 exact ⟨au (by rw [List.take_of_length_le (by rw [List.length_drop,←size_eq];exact Nat.le_refl _)];rfl),rfl⟩
end Go.Proofs.YtajpoodpbbbkfaaGreatDoor
namespace Go.Proofs.YtajpoodpbbbkfaaGreatDoor
open Go.RowKit Go.Lib
theorem fT (s:ByteArray) (pos:Nat) (h:pos<s.size):s.data.toList.drop pos≠[]:=by
 intro h0
 have:=congrArg List.length h0
 rw [List.length_drop,←size_eq] at this
 simp at this
 omega
theorem AC (s:ByteArray) (pos:Nat) (h:¬pos<s.size):s.data.toList.drop pos=[]:=
 List.drop_eq_nil_of_le (by rw [←size_eq];omega)
theorem Ge (s:ByteArray) (w:World):Calls Tryz.prog 12 #[.string s] w fun e w'=>e= .returned (.bool (validD s.data.toList))∧Below w.heap.size w w':=by
 go_enter Tryz.func12,Tryz.ntmps12
 go_wp2
 go_loopw [] (fun wr=>∃pos:Nat,wr.heap[w.heap.size]? =some (.stringIter s pos)∧Below w.heap.size w wr∧validD (s.data.toList.drop pos)=validD s.data.toList) (fun wr=>s.size-wr.iterPos w.heap.size)
 case atStart=>
  refine ⟨0,?_,(Below.refl _ w).alloc (Nat.le_refl _) _,rfl⟩
  have:=World.iter_heap w s 0
  simpa using this
 case round=>
  obtain ⟨pos,hit,hbw,hv⟩:=hrel
  have HV:=Lib.hid hv
  clear hv
  by_cases hp:pos<s.size
  ·have hnx:∀ty,(Instr.next (.pointer (some ⟨w.heap.size,0,none⟩)) true ty).run Tryz.prog wr=_:=fun ty=>Lib.run_next_any_at wr w.heap.size s pos ty hit hp
   have hwd:=width_pos s pos
   have hit2:=Lib.iterAt_heap wr w.heap.size s pos (pos+(Utf8.decode s pos).2) hit
   have hbw2:=Lib.below_iterAt hbw (k:=w.heap.size) (Nat.le_refl _) s (pos+(Utf8.decode s pos).2)
   have HB:=Lib.hid (yz (s.data.toList.drop pos) (fT s pos hp))
   have HD:=Lib.hid (ek (s.data.toList.drop pos) (fT s pos hp))
   have HL:=Lib.hid (decodeL_drop s pos)
   by_cases hr:((Utf8.decode s pos).1:Int)=65533
   ·have hr':(Utf8.decode s pos).1=65533:=by omega
    have HR:=Lib.hid hr
    have HR':=Lib.hid hr'
    clear hr hr'
    cases hk:hasPrefix (s.data.toList.drop pos) iF with
    |true=>
     have HK:=Lib.hid hk
     clear hk
     have V:Hid (validD (s.data.toList.drop (pos+(Utf8.decode s pos).2))=validD s.data.toList):=Lib.hid (by
      rw [←HV.out,HD.out,HB.out,HK.out,HL.out,List.drop_drop];simp)
     go_wp2_with (go_at_call 24;refine (kL _ _ _ _ HR.out (by omega)).mono ?_;rintro e w' ⟨rfl,rfl⟩;rw [HK.out])
     go_roundw
     case rel=>exact ⟨pos+(Utf8.decode s pos).2,hit2,hbw2,V.out⟩
     case measure=>
      simp only [World.iterPos,hit2,hit]
      omega
    |false=>
     have HK:=Lib.hid hk
     clear hk
     have V:Hid (validD s.data.toList=false):=Lib.hid (by
      rw [←HV.out,HD.out,HB.out,HK.out,HL.out,HR'.out];rfl)
     go_wp2_with (go_at_call 24;refine (kL _ _ _ _ HR.out (by omega)).mono ?_;rintro e w' ⟨rfl,rfl⟩;rw [HK.out])
     go_ret
     exact ⟨au V.out.symm,hbw2⟩
   ·have V:Hid (validD (s.data.toList.drop (pos+(Utf8.decode s pos).2))=validD s.data.toList):=Lib.hid (by
     rw [←HV.out,HD.out,HB.out,HL.out,decide_eq_false (by omega),List.drop_drop];simp)
    go_wp2_with (go_at_call 24;refine (wb _ _ _ _ hr).mono ?_;rintro e w' ⟨rfl,rfl⟩)
    go_roundw
    case rel=>exact ⟨pos+(Utf8.decode s pos).2,hit2,hbw2,V.out⟩
    case measure=>
     simp only [World.iterPos,hit2,hit]
     omega
  ·have hnx:∀ty,(Instr.next (.pointer (some ⟨w.heap.size,0,none⟩)) true ty).run Tryz.prog wr=_:=fun ty=>Lib.run_next_end_at wr w.heap.size s pos ty hit hp
   go_wp2
   go_ret
   refine ⟨au ?_,hbw⟩
   rw [←HV.out,AC s pos hp,validD_nil]
end Go.Proofs.YtajpoodpbbbkfaaGreatDoor
namespace Go.Proofs.YtajpoodpbbbkfaaGreatDoor
open Go.RowKit Go.Lib
def ar (w:World) (v:Value) (l:List UInt8):Prop:=
 (v= .slice none 0 0∧l=[])∨
 ∃x cap,v= .slice (some x) l.length cap∧l.length≤cap∧cap≤maxLen∧∀i (h:i<l.length),w.cell? (x.add i)=some (.int .u8 ((l[i]'h).toNat:Int))
theorem ar.conv {w:World} {v:Value} {l:List UInt8} (h:ar w v l):(convert 22 9 v).run Tryz.prog w= .ok (.string ⟨l.toArray⟩) w:=by
 rcases h with ⟨rfl,rfl⟩|⟨x,cap,rfl,hl,hc,hcell⟩
 ·rw [run_convert_bytes_string w 22 9 5 none 0 0 Tryz.underlying22 Tryz.underlying5 Tryz.underlying9];rfl
 ·exact run_convert_bytes_back (P:=Tryz.prog) w 22 9 5 x cap l Tryz.underlying22 Tryz.underlying5 Tryz.underlying9 hcell
theorem ML (l:List UInt8):(ByteArray.mk l.toArray).data.toList=l:=by simp
theorem xW (l:List UInt8):(ByteArray.mk l.toArray).size=l.length:=by rw [size_eq,ML]
theorem Gf (l:List UInt8) (S:ByteArray) (h:Hid ((⟨(trimPrefix l bw).toArray⟩:ByteArray)=S)) (w:World):Calls Tryz.prog 30 #[.string ⟨l.toArray⟩,.string ⟨#[239,187,191]⟩] w fun e w'=>e= .returned (.string S)∧w=w':=by
 refine (Tryz.strings_TrimPrefix _ _ w).mono ?_
 rintro e w' ⟨rfl,rfl⟩
 refine ⟨aO ?_,rfl⟩
 rw [←h.out,ML];rfl
def kV (S:ByteArray) (pos br:Nat) (acc:List UInt8):Prop:=
 br≤S.size∧(∀i,pos≤i→i<br→(S.data.toList.getD i 0).toNat/64=2)∧acc++fD (S.data.toList.drop (max pos br))=fD S.data.toList∧acc.length≤3*max pos br
theorem kV.skip {S:ByteArray} {pos br:Nat} {acc:List UInt8} (h:kV S pos br acc) (hlt:pos<br):Utf8.decode S pos=(65533,1)∧kV S (pos+1) br acc:=by
 obtain ⟨h1,h2,h3,h4⟩:=h
 refine ⟨?_,h1,fun i hi hb=>h2 i (by omega) hb,?_,?_⟩
 ·rw [←decodeL_drop]
  exact wH _ (by rw [getD_dropU,Nat.add_zero];exact h2 pos (Nat.le_refl _) hlt)
 ·rw [show max (pos+1) br=max pos br by omega];exact h3
 ·omega
theorem kV.bad {S:ByteArray} {pos br:Nat} {acc:List UInt8} (h:kV S pos br acc) (hp:pos<S.size) (hge:br≤pos) (hk:brk (S.data.toList.drop pos)=true):kV S (pos+1) (pos+dv (S.data.toList.drop pos)) (acc++iF):=by
 obtain ⟨h1,h2,h3,h4⟩:=h
 have hb:=l8 (S.data.toList.drop pos)
 have hl:=wD (S.data.toList.drop pos) (fT S pos hp)
 rw [List.length_drop,←size_eq] at hl
 rw [show max pos br=pos by omega] at h3 h4
 refine ⟨by omega,fun i hi hb=>?_,?_,?_⟩
 ·have:=EA (S.data.toList.drop pos) (i-pos) (by omega) (by omega)
  rw [getD_dropU,show pos+(i-pos)=i by omega] at this
  exact this
 ·rw [show max (pos+1) (pos+dv (S.data.toList.drop pos))=pos+dv (S.data.toList.drop pos) by omega,List.append_assoc,←h3,iw (S.data.toList.drop pos) (fT S pos hp),hk,if_pos rfl,List.drop_drop]
 ·rw [List.length_append];simp only [iF,List.length_cons,List.length_nil];omega
theorem kV.good {S:ByteArray} {pos br:Nat} {acc:List UInt8} (h:kV S pos br acc) (hp:pos<S.size) (hge:br≤pos) (hk:brk (S.data.toList.drop pos)=false):kV S (pos+(Utf8.decode S pos).2) br (acc++encodeRune ((Utf8.decode S pos).1:Int)):=by
 obtain ⟨h1,h2,h3,h4⟩:=h
 have hw:=width_pos S pos
 have hl:=uW (S.data.toList.drop pos) (fT S pos hp) hk
 rw [decodeL_drop] at hl
 rw [show max pos br=pos by omega] at h3 h4
 refine ⟨h1,fun i hi hb=>by omega,?_,?_⟩
 ·rw [show max (pos+(Utf8.decode S pos).2) br=pos+(Utf8.decode S pos).2 by omega,List.append_assoc,←h3,iw (S.data.toList.drop pos) (fT S pos hp),hk,if_neg (by simp),←ja _ (fT S pos hp) hk,decodeL_drop,List.drop_drop]
 ·rw [List.length_append,hl];omega
theorem kV.end {S:ByteArray} {pos br:Nat} {acc:List UInt8} (h:kV S pos br acc) (hp:¬pos<S.size):acc=fD S.data.toList:=by
 obtain ⟨_,_,h3,_⟩:=h
 rw [AC S _ (by omega),ld,List.append_nil] at h3
 exact h3
theorem uH:strCells ⟨#[239,191,189]⟩=byteCells iF:=rfl
theorem nf (v:Value) (l:List UInt8) (w:World) (hv:ar w v l) (hl:l.length≤1099511627776):Calls Tryz.prog 15 #[v] w fun e w'=>e= .returned (.string ⟨(gi l).toArray⟩)∧Below w.heap.size w w':=by
 have hcv:=hv.conv
 clear hv
 obtain ⟨S,hS⟩:∃S:ByteArray,(⟨(trimPrefix l bw).toArray⟩:ByteArray)=S:=⟨_,rfl⟩
 have hSl:S.size≤1099511627776:=by
  have:=trimPrefix_le l bw
  rw [←hS,xW];omega
 have HS:=Lib.hid hS
 have HD:Hid (gi l=fD S.data.toList):=Lib.hid (by unfold gi;rw [←hS,ML])
 clear hS
 go_enter Tryz.func15,Tryz.ntmps15
 go_wp2_with (go_at_call 30;refine (Gf l S HS _).mono ?_;rintro e w' ⟨rfl,rfl⟩)
 refine (Tryz.Builder_Grow_fresh w.heap.size w.heap.size S.size _ (Nat.le_refl _) (heap_alloc_new w _) (by simp) (by omega)).mono ?_
 rintro e w2 ⟨rfl,hB0,hbel0⟩
 have hI0:Lib.IsBuilderF 54 5 w.heap.size w.heap.size [] w2:=Lib.IsBuilderF.of (.inr hB0)
 have hsz0:w.heap.size+1≤w2.heap.size:=by have:=hbel0.size;simpa using this
 go_wp2_with (fail)
 go_loopw [5] (fun bh wr=>∃(pos br:Nat) (acc:List UInt8),bh= .int .i64 (br:Int)∧Lib.IsBuilderF 54 5 w.heap.size w.heap.size (byteCells acc) wr∧wr.heap[w2.heap.size]? =some (.stringIter S pos)∧Below w.heap.size w wr∧kV S pos br acc) (fun _ wr=>S.size-wr.iterPos w2.heap.size)
 case atStart=>
  refine ⟨0,0,[],rfl,hI0.alloc _,?_,(((Below.refl _ w).alloc (Nat.le_refl _) _).trans hbel0).alloc (by omega) _,Nat.zero_le _,fun i _ h=>absurd h (by omega),rfl,Nat.zero_le _⟩
  have:=World.iter_heap w2 S 0
  simpa using this
 case round=>
  obtain ⟨pos,br,acc,rfl,hI,hit,hbw,hat⟩:=hrel
  have hb1:=hat.1
  have hal:=hat.2.2.2
  have HA:=Lib.hid hat
  clear hat
  have hsz:w2.heap.size<wr.heap.size:=(Array.getElem?_eq_some_iff.1 hit).1
  by_cases hp:pos<S.size
  ·have hnx:∀ty,(Instr.next (.pointer (some ⟨w2.heap.size,0,none⟩)) true ty).run Tryz.prog wr=_:=fun ty=>Lib.run_next_any_at wr w2.heap.size S pos ty hit hp
   have hwd:=width_pos S pos
   have hd1:=decode_le S pos
   have hI2:=hI.iterAt hit (pos+(Utf8.decode S pos).2)
   have hit2:=Lib.iterAt_heap wr w2.heap.size S pos (pos+(Utf8.decode S pos).2) hit
   have hbw2:=Lib.below_iterAt hbw (k:=w2.heap.size) (by omega) S (pos+(Utf8.decode S pos).2)
   have hsz2:w.heap.size≤(wr.iterAt w2.heap.size S (pos+(Utf8.decode S pos).2)).heap.size:=by rw [Lib.iterAt_size];omega
   have HB:=Lib.hid (yz (S.data.toList.drop pos) (fT S pos hp))
   have HL:=Lib.hid (decodeL_drop S pos)
   by_cases hlt:pos<br
   ·have SK:=Lib.hid (HA.out.skip hlt)
    go_wp2
    go_roundw
    case rel=>exact ⟨pos+(Utf8.decode S pos).2,br,acc,rfl,hI2,hit2,hbw2,by rw [SK.out.1];exact SK.out.2⟩
    case measure=>
     simp only [World.iterPos,hit2,hit]
     omega
   ·by_cases hr:((Utf8.decode S pos).1:Int)=65533
    ·have hr':(Utf8.decode S pos).1=65533:=by omega
     have HR:=Lib.hid hr
     have HR':=Lib.hid hr'
     clear hr hr'
     cases hk:hasPrefix (S.data.toList.drop pos) iF with
     |true=>
      have HK:=Lib.hid hk
      clear hk
      have HG:=Lib.hid (HA.out.good hp (by omega) (by rw [HB.out,HK.out];simp))
      go_wp2_with (first
       |(go_at_call 24;refine (kL _ _ _ _ HR.out (by omega)).mono ?_;rintro e w' ⟨rfl,rfl⟩;rw [HK.out])
       |(go_at_call 34;refine (vZ w.heap.size w.heap.size _ _ (by omega) (by omega) _ hI2 (by rw [byteCells_length];omega) hsz2).mono ?_))
      rintro e W1 ⟨rfl,h1,b1,k1⟩
      go_wp2
      go_roundw
      case rel=>exact ⟨pos+(Utf8.decode S pos).2,br,acc++encodeRune ((Utf8.decode S pos).1:Int),rfl,by rw [byteCells_append,byteCells_encodeRune];exact .inr h1,k1.iter hit2 (by omega),hbw2.trans b1,HG.out⟩
      case measure=>
       simp only [World.iterPos,k1.iter hit2 (by omega),hit]
       omega
     |false=>
      have HK:=Lib.hid hk
      clear hk
      have hbk:brk (S.data.toList.drop pos)=true:=by rw [HB.out,HK.out,HL.out,HR'.out];rfl
      have HG:=Lib.hid (HA.out.bad hp (by omega) hbk)
      have hbl:=wD (S.data.toList.drop pos) (fT S pos hp)
      have HW:Hid ((Utf8.decode S pos).2=1):=Lib.hid (by rw [←HL.out,(nW _).1 hbk])
      have HE:Hid (dv (S.extract pos S.size).data.toList=dv (S.data.toList.drop pos)):=Lib.hid (by rw [extract_data,List.take_of_length_le (by rw [List.length_drop,←size_eq];exact Nat.le_refl _)])
      clear hbk
      go_wp2_with (first
       |(go_at_call 24;refine (kL _ _ _ _ HR.out (by omega)).mono ?_;rintro e w' ⟨rfl,rfl⟩;rw [HK.out])
       |(go_at_call 32;refine (et w.heap.size w.heap.size _ _ _ hI2 (by rw [byteCells_length];have:=xW [239,191,189];simp at this;omega) hsz2).mono ?_))
      rintro e W1 ⟨rfl,h1,b1,k1⟩
      go_wp2_with (go_at_call 33;refine (uG _ _ (by rw [ByteArray.size_extract];omega) (by rw [ByteArray.size_extract];unfold maxLen;omega)).mono ?_)
      rintro e w' ⟨rfl,nq,rfl⟩
      rw [HE.out]
      go_wp2
      go_roundw
      case rel=>exact ⟨pos+(Utf8.decode S pos).2,pos+dv (S.data.toList.drop pos),acc++iF,by go_num,by rw [byteCells_append,←uH];exact .inr h1,k1.iter hit2 (by omega),below_drewN (hbw2.trans b1) nq,by rw [HW.out];exact HG.out⟩
      case measure=>
       simp only [World.iterPos,World.heap_drewN,k1.iter hit2 (by omega),hit]
       omega
    ·have HG:=Lib.hid (HA.out.good hp (by omega) (by rw [HB.out,HL.out,decide_eq_false (by omega)];rfl))
     go_wp2_with (first
      |(go_at_call 24;refine (wb _ _ _ _ hr).mono ?_;rintro e w' ⟨rfl,rfl⟩)
      |(go_at_call 34;refine (vZ w.heap.size w.heap.size _ _ (by omega) (by omega) _ hI2 (by rw [byteCells_length];omega) hsz2).mono ?_))
     rintro e W1 ⟨rfl,h1,b1,k1⟩
     go_wp2
     go_roundw
     case rel=>exact ⟨pos+(Utf8.decode S pos).2,br,acc++encodeRune ((Utf8.decode S pos).1:Int),rfl,by rw [byteCells_append,byteCells_encodeRune];exact .inr h1,k1.iter hit2 (by omega),hbw2.trans b1,HG.out⟩
     case measure=>
      simp only [World.iterPos,k1.iter hit2 (by omega),hit]
      omega
  ·have hnx:∀ty,(Instr.next (.pointer (some ⟨w2.heap.size,0,none⟩)) true ty).run Tryz.prog wr=_:=fun ty=>Lib.run_next_end_at wr w2.heap.size S pos ty hit hp
   go_wp2_with (go_at_call 35;refine (Tryz.Builder_String_any_k w.heap.size w.heap.size acc _ hI (by omega)).mono ?_)
   rintro e W1 ⟨rfl,_,b1,_⟩
   go_wp2
   go_ret
   exact ⟨aO (by rw [HD.out,←HA.out.end hp]),hbw.trans b1⟩
end Go.Proofs.YtajpoodpbbbkfaaGreatDoor
namespace Go.Proofs.YtajpoodpbbbkfaaGreatDoor
open Go.RowKit Go.Lib
theorem AD (w:World) (C:Array Value) (t:TypeId) (l:List UInt8) (h:C.toList=byteCells l) (hm:l.length≤maxLen):ar (w.alloc (.cells C t)) (.slice (some ⟨w.heap.size,0,none⟩) l.length l.length) l:=by
 refine .inr ⟨_,_,rfl,Nat.le_refl _,hm,fun i hi=>?_⟩
 have e:(⟨w.heap.size,0,none⟩:Addr).add i=⟨w.heap.size,i,none⟩:=by simp [Addr.add];omega
 rw [e,World.cell?_alloc_mark,←Array.getElem?_toList,h,byteCells,List.getElem?_map,List.getElem?_eq_getElem hi]
 rfl
end Go.Proofs.YtajpoodpbbbkfaaGreatDoor
namespace Go.Proofs.YtajpoodpbbbkfaaGreatDoor
open Go.RowKit Go.Lib
theorem lR (n:Int) (k:Nat) (C:Array Value) (hz:(encodeRuneZ n).map (Value.int .u8)=C.toList) (hk:(encodeRuneZ n).length=k) (w:World):(convert 22 9 (.slice (some ⟨w.heap.size,0,none⟩) k k)).run Tryz.prog (w.alloc (.cells C 5))= .ok (.string ⟨(encodeRune n).toArray⟩) (w.alloc (.cells C 5)):=by
 have h4:=eL n
 have hl:(encodeRune n).length=k:=by rw [←hk];simp [encodeRune]
 have:=(AD w C 5 (encodeRune n) (by rw [byteCells_encodeRune,runeCells,hz]) (by unfold maxLen;omega)).conv
 rwa [hl] at this
theorem lS (n:Int) (w:World):Calls Tryz.prog 134 #[.int .i64 n] w fun e w'=>e= .returned (.string ⟨(encodeRune n).toArray⟩)∧Below w.heap.size w w':=by
 by_cases hb:n<0∨1114111<n∨(55296≤n∧n≤57343)
 ·have B:Hid (encodeRune n=iF):=Lib.hid (by rw [encodeRune,encodeRuneZ_bad (by omega)];rfl)
  rcases hb with h|h|⟨h1,h2⟩
  ·go_enter Tryz.func134,Tryz.ntmps134
   go_wp2
   go_ret
   exact ⟨aO (by rw [B.out];rfl),Below.refl _ _⟩
  ·go_enter Tryz.func134,Tryz.ntmps134
   go_wp2
   go_ret
   exact ⟨aO (by rw [B.out];rfl),Below.refl _ _⟩
  ·go_enter Tryz.func134,Tryz.ntmps134
   go_wp2
   go_ret
   exact ⟨aO (by rw [B.out];rfl),Below.refl _ _⟩
 ·have h0:0≤n:=by omega
  have hm:n≤1114111:=by omega
  by_cases h1:n<128
  ·have hs:n<55296:=by omega
   have hcv:=lR n 1 #[.int .u8 n] (by rw [encodeRuneZ_one (by omega) (by omega)];rfl) (by rw [encodeRuneZ_one (by omega) (by omega)];rfl)
   go_enter Tryz.func134,Tryz.ntmps134
   go_wp2
   go_ret
   exact ⟨rfl,(Below.refl _ w).alloc (Nat.le_refl _) _⟩
  by_cases h2:n<2048
  ·have hs:n<55296:=by omega
   have hcv:=lR n 2 #[.int .u8 (192+n/64),.int .u8 (128+n%64)] (by rw [encodeRuneZ_two (by omega) (by omega)];rfl) (by rw [encodeRuneZ_two (by omega) (by omega)];rfl)
   go_enter Tryz.func134,Tryz.ntmps134
   go_wp2
   go_ret
   exact ⟨rfl,(Below.refl _ w).alloc (Nat.le_refl _) _⟩
  by_cases h3:n<65536
  ·by_cases hs:n<55296
   ·have hcv:=lR n 3 #[.int .u8 (224+n/4096),.int .u8 (128+n/64%64),.int .u8 (128+n%64)] (by rw [encodeRuneZ_three (by omega)];rfl) (by rw [encodeRuneZ_three (by omega)];rfl)
    go_enter Tryz.func134,Tryz.ntmps134
    go_wp2
    go_ret
    exact ⟨rfl,(Below.refl _ w).alloc (Nat.le_refl _) _⟩
   ·have hs2:57343<n:=by omega
    have hcv:=lR n 3 #[.int .u8 (224+n/4096),.int .u8 (128+n/64%64),.int .u8 (128+n%64)] (by rw [encodeRuneZ_three (by omega)];rfl) (by rw [encodeRuneZ_three (by omega)];rfl)
    go_enter Tryz.func134,Tryz.ntmps134
    go_wp2
    go_ret
    exact ⟨rfl,(Below.refl _ w).alloc (Nat.le_refl _) _⟩
  ·have hs2:57343<n:=by omega
   have hcv:=lR n 4 #[.int .u8 (240+n/262144),.int .u8 (128+n/4096%64),.int .u8 (128+n/64%64),.int .u8 (128+n%64)] (by rw [encodeRuneZ_four (by omega) (by omega)];rfl) (by rw [encodeRuneZ_four (by omega) (by omega)];rfl)
   go_enter Tryz.func134,Tryz.ntmps134
   go_wp2
   go_ret
   exact ⟨rfl,(Below.refl _ w).alloc (Nat.le_refl _) _⟩
end Go.Proofs.YtajpoodpbbbkfaaGreatDoor
