/-
  Texts laid together: UtfBits, Builder, UtfCode, UtfBeg, UtfLoop, UtfDec, UtfAwake, UtfRefSign.
-/
import Derived.Test.YtpmdcppnlggckaaGreatDoorP1
import Derived.Laws.BitsLemmas
import Derived.Laws.BitsAllLaws
import Derived.RowKit
import Derived.Test.YtpmdcppnlggckaaGreatDoorP4
import Derived.WalkSpells
import Derived.WalkLawsBesides
import Derived.Lib.Hide
import Derived.Deep.QuietTactic
import Derived.BigQuiet
import Derived.LoopN
import Derived.Lib.OthersKept
import Derived.Laws.IdiomStrings
import Derived.Deep.DeepFit
set_option maxHeartbeats 4000000
set_option maxRecDepth 100000
namespace Go.Proofs.YtpmdcppnlggckaaGreatDoor
open Go.RowKit Go.Lib
def d5 (b0:Nat):Nat:=if b0<192∨247<b0 then 1 else if b0<224 then 2 else if b0<240 then 3 else 4
theorem zI:∀b:Fin 256,(((b.val&&& 192:Nat):Int)==128)=decide (b.val/64=2):=by decide+kernel
theorem oj (b:Nat) (hb:b<256):(bits .and .u8 (b:Int) 192==128)=decide (b/64=2):=by
 rw [show (192:Int)=((192:Nat):Int) from rfl,u8_and_nat b 192 hb (by decide)]
 exact zI ⟨b,hb⟩
theorem CS (b:Nat) (hb:b<256):bits .and .i32 (b:Int) 15=(b:Int)%16:=
 bits_mask .i32 31 (by decide) wraps_i32 4 (by decide) b (by omega) (by omega)
theorem tq (b:Nat) (hb:b<256):bits .and .i32 (b:Int) 7=(b:Int)%8:=
 bits_mask .i32 31 (by decide) wraps_i32 3 (by decide) b (by omega) (by omega)
theorem Lp (x:Int) (h0:0≤x) (h1:x<2147483648):wrap32 x=x:=by unfold wrap32;omega
theorem Ba (x y:Int) (hx:0≤x) (hx1:x<33554432) (hy:0≤y) (hy1:y<256):bits .or .i32 (wrap32 (x*64)) (wrap32 (bits .and .u8 y 63))=x*64+y%64:=by
 rw [u8_and63 _ hy hy1,Lp _ (by omega) (by omega),Lp _ (by omega) (by omega)]
 exact i32_or6 _ _ (by omega) (by omega) (by omega) (by omega) (by omega)
theorem KA (b0 b1:Nat) (h0:b0<256) (h1:b1<256):wrap32 (bits .or .i32 (wrap32 (bits .and .i32 (b0:Int) 15*64)) (wrap32 (bits .and .u8 (b1:Int) 63))*64)=((b0%16*4096+b1%64*64:Nat):Int):=by
 rw [CS b0 h0,Ba _ _ (by omega) (by omega) (by omega) (by omega),Lp _ (by omega) (by omega)]
 omega
theorem FY (b0 b1:Nat) (h0:b0<256) (h1:b1<256):wrap32 (bits .or .i32 (wrap32 (bits .and .i32 (b0:Int) 7*64)) (wrap32 (bits .and .u8 (b1:Int) 63))*4096)=((b0%8*262144+b1%64*4096:Nat):Int):=by
 rw [tq b0 h0,Ba _ _ (by omega) (by omega) (by omega) (by omega),Lp _ (by omega) (by omega)]
 omega
theorem IQ (b0 b1 b2:Nat) (h0:b0<256) (h1:b1<256) (h2:b2<256):wrap32 (bits .or .i32 (wrap32 (bits .or .i32 (wrap32 (bits .and .i32 (b0:Int) 7*64)) (wrap32 (bits .and .u8 (b1:Int) 63))*64)) (wrap32 (bits .and .u8 (b2:Int) 63))*64)=((b0%8*262144+b1%64*4096+b2%64*64:Nat):Int):=by
 rw [tq b0 h0,Ba _ (b1:Int) (by omega) (by omega) (by omega) (by omega),Ba _ _ (by omega) (by omega) (by omega) (by omega),Lp _ (by omega) (by omega)]
 omega
theorem xK (c:Nat):(runeLen (c:Int)==3)=decide (2048≤c∧(c<55296∨57343<c)∧c≤65535):=by
 unfold runeLen
 repeat' split
 all_goals simp
 all_goals omega
theorem nb (c:Nat):(runeLen (c:Int)==4)=decide (65536≤c∧c≤1114111):=by
 unfold runeLen
 repeat' split
 all_goals simp
 all_goals omega
theorem cX (s:ByteArray) (k:Nat) (h:k<s.size):s.data.toList.getD k 0=s[k]'h:=by
 have h':k<s.data.size:=h
 rw [List.getD_eq_getElem?_getD,List.getElem?_eq_getElem (by simpa using h'),Option.getD_some]
 rfl
theorem lj (s:ByteArray):s.data.toList.length=s.size:=(size_eq s).symm
theorem CT (s:ByteArray) (hs:0<s.size) (h:d5 (s[0]'hs).toNat=1∨d5 (s[0]'hs).toNat=2):c9 s.data.toList=1:=by
 unfold c9
 rw [cX s 0 hs]
 unfold d5 at h
 have:=(s[0]'hs).toNat_lt
 unfold dx
 repeat' split
 all_goals first|rfl|(exfalso;repeat' split at h)
 all_goals omega
theorem IR (s:ByteArray) (hs:s.size=1):c9 s.data.toList=1:=by
 unfold c9
 rw [lj,hs]
 have:=Ap 1 (s.data.toList.getD 0 0).toNat (s.data.toList.getD 1 0).toNat (s.data.toList.getD 2 0).toNat (Nat.le_refl _)
 have:=An 1 (s.data.toList.getD 0 0).toNat (s.data.toList.getD 1 0).toNat (s.data.toList.getD 2 0).toNat
 omega
theorem KB {b:Nat} (h:d5 b=3):224≤b∧b<240:=by
 unfold d5 at h
 repeat' split at h
 all_goals omega
theorem IT {b:Nat} (h:d5 b=4):240≤b∧b<248:=by
 unfold d5 at h
 repeat' split at h
 all_goals omega
theorem IU (s:ByteArray) (hs:1<s.size) (h:d5 (s[0]'(by omega)).toNat=3) (hc:(bits .and .u8 ((s[1]'hs).toNat:Int) 192==128)=false):c9 s.data.toList=1:=by
 rw [oj _ (dq _),decide_eq_false_iff_not] at hc
 have ha:=KB h
 unfold c9
 rw [cX s 0 (by omega),cX s 1 hs]
 unfold dx
 rw [if_neg (by omega),if_pos (by omega),if_neg (by omega)]
theorem FZ (s:ByteArray) (hs:1<s.size) (h:d5 (s[0]'(by omega)).toNat=3) (hr:(runeLen (((s[0]'(by omega)).toNat%16*4096+(s[1]'hs).toNat%64*64:Nat):Int)==3)=false):c9 s.data.toList=1:=by
 rw [xK,decide_eq_false_iff_not] at hr
 have ha:=KB h
 unfold c9
 rw [cX s 0 (by omega),cX s 1 hs]
 unfold dx
 rw [if_neg (by omega),if_pos (by omega),if_neg (by omega)]
theorem F6 (s:ByteArray) (hs:1<s.size) (h:d5 (s[0]'(by omega)).toNat=3) (hc:(bits .and .u8 ((s[1]'hs).toNat:Int) 192==128)=true) (hr:(runeLen (((s[0]'(by omega)).toNat%16*4096+(s[1]'hs).toNat%64*64:Nat):Int)==3)=true):c9 s.data.toList=2:=by
 rw [oj _ (dq _),decide_eq_true_iff] at hc
 rw [xK,decide_eq_true_iff] at hr
 have ha:=KB h
 unfold c9
 rw [lj,cX s 0 (by omega),cX s 1 hs]
 unfold dx
 rw [if_neg (by omega),if_pos (by omega),if_pos (by omega)]
theorem Bb (s:ByteArray) (hs:1<s.size) (h:d5 (s[0]'(by omega)).toNat=4) (hc:(bits .and .u8 ((s[1]'hs).toNat:Int) 192==128)=false):c9 s.data.toList=1:=by
 rw [oj _ (dq _),decide_eq_false_iff_not] at hc
 have ha:=IT h
 unfold c9
 rw [cX s 0 (by omega),cX s 1 hs]
 unfold dx
 rw [if_neg (by omega),if_neg (by omega),if_neg (by omega)]
theorem xL (s:ByteArray) (hs:1<s.size) (h:d5 (s[0]'(by omega)).toNat=4) (hr:(runeLen (((s[0]'(by omega)).toNat%8*262144+(s[1]'hs).toNat%64*4096:Nat):Int)==4)=false):c9 s.data.toList=1:=by
 rw [nb,decide_eq_false_iff_not] at hr
 have ha:=IT h
 unfold c9
 rw [cX s 0 (by omega),cX s 1 hs]
 unfold dx
 rw [if_neg (by omega),if_neg (by omega),if_neg (by omega)]
theorem xM (s:ByteArray) (hs:1<s.size) (h:d5 (s[0]'(by omega)).toNat=4) (hc:(bits .and .u8 ((s[1]'hs).toNat:Int) 192==128)=true) (hr:(runeLen (((s[0]'(by omega)).toNat%8*262144+(s[1]'hs).toNat%64*4096:Nat):Int)==4)=true) (h2:s.size=2∨∃h2:2<s.size,(bits .and .u8 ((s[2]'h2).toNat:Int) 192==128)=false):c9 s.data.toList=2:=by
 rw [oj _ (dq _),decide_eq_true_iff] at hc
 rw [nb,decide_eq_true_iff] at hr
 have ha:=IT h
 unfold c9
 rw [lj,cX s 0 (by omega),cX s 1 hs]
 unfold dx
 rw [if_neg (by omega),if_neg (by omega),if_pos (by omega)]
 rcases h2 with h2|⟨h2,hd⟩
 ·rw [if_neg (by omega)]
 ·rw [oj _ (dq _),decide_eq_false_iff_not] at hd
  rw [cX s 2 h2,if_neg (by omega)]
theorem zJ (s:ByteArray) (hs:2<s.size) (h:d5 (s[0]'(by omega)).toNat=4) (hc:(bits .and .u8 ((s[1]'(by omega)).toNat:Int) 192==128)=true) (hr:(runeLen (((s[0]'(by omega)).toNat%8*262144+(s[1]'(by omega)).toNat%64*4096:Nat):Int)==4)=true) (hd:(bits .and .u8 ((s[2]'hs).toNat:Int) 192==128)=true):c9 s.data.toList=3:=by
 rw [oj _ (dq _),decide_eq_true_iff] at hc hd
 rw [nb,decide_eq_true_iff] at hr
 have ha:=IT h
 unfold c9
 rw [lj,cX s 0 (by omega),cX s 1 (by omega),cX s 2 hs]
 unfold dx
 rw [if_neg (by omega),if_neg (by omega),if_pos (by omega),if_pos (by omega)]
theorem IV (c x:Nat) (hm:c%4096=0) (hx:x<64) (h:65536≤c∧c≤1114111):65536≤c+x*64∧c+x*64≤1114111:=by omega
theorem IW (x y:Nat):(x*262144+y*4096)%4096=0:=by omega
theorem xO (b0 b1 b2:Nat) (h:(runeLen ((b0%8*262144+b1%64*4096:Nat):Int)==4)=true):(runeLen ((b0%8*262144+b1%64*4096+b2%64*64:Nat):Int)==4)=true:=by
 rw [nb,decide_eq_true_iff] at h⊢
 exact IV _ _ (IW _ _) (Nat.mod_lt _ (by decide)) h
theorem n3 (a b:Nat):(runeLen ((a:Int)%16*4096+(b:Int)%64*64) != 3)= !(runeLen ((a%16*4096+b%64*64:Nat):Int)==3):=by
 rw [show ((a%16*4096+b%64*64:Nat):Int)=(a:Int)%16*4096+(b:Int)%64*64 by omega];rfl
theorem n4 (a b:Nat):(runeLen ((a:Int)%8*262144+(b:Int)%64*4096) != 4)= !(runeLen ((a%8*262144+b%64*4096:Nat):Int)==4):=by
 rw [show ((a%8*262144+b%64*4096:Nat):Int)=(a:Int)%8*262144+(b:Int)%64*4096 by omega];rfl
theorem L7 (a b c:Nat) (h:(runeLen ((a:Int)%8*262144+(b:Int)%64*4096) != 4)=false):(runeLen ((a:Int)%8*262144+(b:Int)%64*4096+(c:Int)%64*64) != 4)=false:=by
 rw [n4,Bool.not_eq_false'] at h
 have:=xO a b c h
 rw [show ((a%8*262144+b%64*4096+c%64*64:Nat):Int)=(a:Int)%8*262144+(b:Int)%64*4096+(c:Int)%64*64 by omega] at this
 simp only [bne,this,Bool.not_true]
theorem L8 {a b:Nat} (h:(runeLen ((a:Int)%16*4096+(b:Int)%64*64) != 3)=true):(runeLen ((a%16*4096+b%64*64:Nat):Int)==3)=false:=by
 rwa [n3,Bool.not_eq_true'] at h
theorem LN {a b:Nat} (h:(runeLen ((a:Int)%16*4096+(b:Int)%64*64) != 3)=false):(runeLen ((a%16*4096+b%64*64:Nat):Int)==3)=true:=by
 rwa [n3,Bool.not_eq_false'] at h
theorem LW {a b:Nat} (h:(runeLen ((a:Int)%8*262144+(b:Int)%64*4096) != 4)=true):(runeLen ((a%8*262144+b%64*4096:Nat):Int)==4)=false:=by
 rwa [n4,Bool.not_eq_true'] at h
theorem Lq {a b:Nat} (h:(runeLen ((a:Int)%8*262144+(b:Int)%64*4096) != 4)=false):(runeLen ((a%8*262144+b%64*4096:Nat):Int)==4)=true:=by
 rwa [n4,Bool.not_eq_false'] at h
end Go.Proofs.YtpmdcppnlggckaaGreatDoor
namespace Go.Proofs.YtpmdcppnlggckaaGreatDoor
open Go.RowKit Go.Shelf
theorem ts (B b:Nat) (bs:List Value) (r:Int) (hr0: -2147483648≤r) (hr1:r≤2147483647) (w:World) (h:Lib.IsBuilderF 72 5 B b bs w) (hlen:bs.length+4≤140737488355328) (hBw:B≤w.heap.size):Calls Tryz.prog 45 #[.pointer (some ⟨b,0,none⟩),.int .i32 r] w fun e w'=>e= .returned (.tuple #[.int .i64 (Lib.runeCells r).length,.nilIface])∧Lib.BuilderAtF 72 5 B b (.pointer (some ⟨b,0,none⟩)) (bs++Lib.runeCells r) w'∧Below B w w'∧Lib.OthersKept 5 (some b) w w':=by
 have hk4:=Lib.runeCells_le r
 go_enter Tryz.func45,Tryz.ntmps45
 go_wp2_with (go_at_call 76;refine (nE B b bs _ h).mono ?_)
 rintro e w1 ⟨rfl,h1,hb1,hk1⟩
 obtain ⟨hB,v,hbk,hown,hne⟩:=h1
 have hs1:=hb1.size
 obtain ⟨ao,cap,rfl⟩:∃ao cap,v= .slice ao bs.length cap:=by
  rcases hown.2 with ⟨hv,h0⟩|⟨g,cap,cur,fz,hv,_⟩
  ·exact ⟨none,0,by rw [hv,h0]⟩
  ·exact ⟨_,_,hv⟩
 have c0:w1.cell? ⟨b,0,none⟩=some (.pointer (some ⟨b,0,none⟩)):=by rw [Lib.cell_of_heap hbk];rfl
 have c1:w1.cell? ⟨b,1,none⟩=some (.slice ao bs.length cap):=by rw [Lib.cell_of_heap hbk];rfl
 go_wp2_with (go_at_call 80;refine (Tryz.utf8_AppendRune_row B _ bs.length bs r hr0 hr1 _ hown hlen (by omega)).mono ?_)
 rintro e w2 ⟨v',rfl,hown',o,hgrow⟩
 have hlt:=ke hbk
 have hb2:w2.heap[b]? =some (.cells #[.pointer (some ⟨b,0,none⟩),.slice ao bs.length cap] 72 (0,0)):=by
  rw [hgrow.block b (by simp;omega) (fun e=>hne e.symm),Lib.alloc_old w1 _ b hlt]
  exact hbk
 have d0:w2.cell? ⟨b,0,none⟩=some (.pointer (some ⟨b,0,none⟩)):=by rw [Lib.cell_of_heap hb2];rfl
 have d1:w2.cell? ⟨b,1,none⟩=some (.slice ao bs.length cap):=by rw [Lib.cell_of_heap hb2];rfl
 have f1:w2.frozen? ⟨b,1,none⟩=false:=Lib.frozen_of_heap hb2 1
 obtain ⟨g,cap',rfl⟩:∃g cap',v'= .slice (some ⟨g,0,none⟩) (bs.length+(Lib.runeCells r).length) cap':=by
  rcases hown'.2 with ⟨_,h0⟩|⟨g,cap',cur,fz,hv,_⟩
  ·omega
  ·exact ⟨g,cap',hv⟩
 go_wp2
 go_ret2
 refine ⟨?_,Lib.BuilderAtF.put (T:=72) (e:=5) hB hb2 (bs':=bs++Lib.runeCells r) (by simpa using hown') (by decide),((hb1.alloc (by omega) _).grown hgrow (by simp;omega) (fun k hk=>(hown.lt k hk).1)).setCell (p:=⟨b,1,none⟩) hB _,((hk1.alloc _).grown hgrow (Lib.ownsRowF_kind (hown.alloc _))).setCell ⟨b,1,none⟩ rfl _⟩
 have e:((bs.length:Int)+((Lib.runeCells r).length:Int)-(bs.length:Int))=((Lib.runeCells r).length:Int):=by omega
 simp [e]
end Go.Proofs.YtpmdcppnlggckaaGreatDoor
namespace Go.Proofs.YtpmdcppnlggckaaGreatDoor
open Go.RowKit Go.Lib
theorem jd (c:Nat) (w:World) (hc:c<256):Calls Tryz.prog 78 #[.int .u8 (c:Int)] w fun e w'=>e= .returned (.int .i64 (d5 c:Nat))∧w=w':=by
 by_cases h1:c<192
 ·have e:d5 c=1:=by unfold d5;rw [if_pos (by omega)]
  rw [e]
  go_enter Tryz.func78,Tryz.ntmps78
  go_wp2
  go_ret
  exact ⟨rfl,rfl⟩
 ·by_cases h2:247<c
  ·have e:d5 c=1:=by unfold d5;rw [if_pos (by omega)]
   rw [e]
   go_enter Tryz.func78,Tryz.ntmps78
   go_wp2
   go_ret
   exact ⟨rfl,rfl⟩
  ·by_cases h3:c<224
   ·have e:d5 c=2:=by unfold d5;rw [if_neg (by omega),if_pos (by omega)]
    rw [e]
    go_enter Tryz.func78,Tryz.ntmps78
    go_wp2
    go_ret
    exact ⟨rfl,rfl⟩
   ·by_cases h4:c<240
    ·have e:d5 c=3:=by unfold d5;rw [if_neg (by omega),if_neg (by omega),if_pos (by omega)]
     rw [e]
     go_enter Tryz.func78,Tryz.ntmps78
     go_wp2
     go_ret
     exact ⟨rfl,rfl⟩
    ·have e:d5 c=4:=by unfold d5;rw [if_neg (by omega),if_neg (by omega),if_neg (by omega)]
     rw [e]
     go_enter Tryz.func78,Tryz.ntmps78
     go_wp2
     go_ret
     exact ⟨rfl,rfl⟩
end Go.Proofs.YtpmdcppnlggckaaGreatDoor
namespace Go.Proofs.YtpmdcppnlggckaaGreatDoor
open Go.RowKit Go.Lib
theorem dC {n m:Nat} (h:n=m):Ending.returned (.int .i64 (m:Int))= .returned (.int .i64 (n:Int)):=by rw [h]
theorem pf (s:ByteArray) (w:World) (hs:1<s.size) (hm:s.size≤maxLen) (h0:d5 (s[0]'(by omega)).toNat=3):Calls Tryz.prog 44 #[.string s] w fun e w'=>e= .returned (.int .i64 (c9 s.data.toList:Nat))∧∃n,w'=w.drewN n:=by
 have H0:=Lib.hid h0
 have hb:=(s[0]'(by omega)).toNat_lt
 have hs0:0<s.size:=by omega
 have L3:=Lib.hid (KA _ _ (dq s[0]) (dq s[1]))
 unfold maxLen at hm
 clear h0
 go_enter Tryz.func44,Tryz.ntmps44
 go_wp2_with (go_at_call 78;refine (jd _ _ hb).mono ?_;rintro e w' ⟨rfl,rfl⟩;rw [H0.out])
 go_quiet (fail)
 go_wp2
 refine wp_loop_rounds 3 ?_
 rw [rounds_succ]
 go_wp2_with (go_at_call 79;rw [L3.out];refine (Tryz.utf8_RuneLen _ _).mono ?_;rintro e w' ⟨rfl,rfl⟩)
 ·go_ret
  exact ⟨dC (FZ s hs H0.out (L8 ‹_›)),_,rfl⟩
 ·rw [rounds_succ]
  go_wp2
  go_ret
  exact ⟨dC (F6 s hs H0.out ‹_› (LN ‹_›)),_,rfl⟩
 ·go_ret
  exact ⟨dC (IU s hs H0.out ‹_›),_,rfl⟩
theorem qY (s:ByteArray) (w:World) (hs:2<s.size) (hm:s.size≤maxLen) (h0:d5 (s[0]'(by omega)).toNat=4):Calls Tryz.prog 44 #[.string s] w fun e w'=>e= .returned (.int .i64 (c9 s.data.toList:Nat))∧∃n,w'=w.drewN n:=by
 have H0:=Lib.hid h0
 have hb:=(s[0]'(by omega)).toNat_lt
 have hs0:0<s.size:=by omega
 have hs1:1<s.size:=by omega
 have L4:=Lib.hid (FY _ _ (dq s[0]) (dq s[1]))
 have L4b:=Lib.hid (IQ _ _ _ (dq s[0]) (dq s[1]) (dq s[2]))
 have N4:=Lib.hid (L7 s[0].toNat s[1].toNat s[2].toNat)
 unfold maxLen at hm
 clear h0
 go_enter Tryz.func44,Tryz.ntmps44
 go_wp2_with (go_at_call 78;refine (jd _ _ hb).mono ?_;rintro e w' ⟨rfl,rfl⟩;rw [H0.out])
 go_quiet (fail)
 go_wp2
 refine wp_loop_rounds 4 ?_
 rw [rounds_succ]
 go_wp2_with (go_at_call 79;rw [L4.out];refine (Tryz.utf8_RuneLen _ _).mono ?_;rintro e w' ⟨rfl,rfl⟩)
 ·go_ret
  exact ⟨dC (xL s hs1 H0.out (LW ‹_›)),_,rfl⟩
 ·rw [rounds_succ]
  have hy:(runeLen ((s[0].toNat:Int)%8*262144+(s[1].toNat:Int)%64*4096) != 4)=false:=by assumption
  have hx:=N4.out hy
  have HY:=Lib.hid (Lq hy)
  go_wp2_with (go_at_call 79;rw [L4b.out];refine (Tryz.utf8_RuneLen _ _).mono ?_;rintro e w' ⟨rfl,rfl⟩)
  ·rw [rounds_succ]
   go_wp2
   go_ret
   exact ⟨dC (zJ s hs H0.out ‹_› HY.out ‹_›),_,rfl⟩
  ·go_ret
   exact ⟨dC (xM s hs1 H0.out ‹_› HY.out (.inr ⟨hs,‹_›⟩)),_,rfl⟩
 ·go_ret
  exact ⟨dC (Bb s hs1 H0.out ‹_›),_,rfl⟩
theorem ph (s:ByteArray) (w:World) (hs1:1<s.size) (hs2:s.size≤2) (h0:d5 (s[0]'(by omega)).toNat=4):Calls Tryz.prog 44 #[.string s] w fun e w'=>e= .returned (.int .i64 (c9 s.data.toList:Nat))∧∃n,w'=w.drewN n:=by
 have H0:=Lib.hid h0
 have HS:Hid (s.size=2):=Lib.hid (by omega)
 have hb:=(s[0]'(by omega)).toNat_lt
 have hs0:0<s.size:=by omega
 have L4:=Lib.hid (FY _ _ (dq s[0]) (dq s[1]))
 clear h0
 go_enter Tryz.func44,Tryz.ntmps44
 go_wp2_with (go_at_call 78;refine (jd _ _ hb).mono ?_;rintro e w' ⟨rfl,rfl⟩;rw [H0.out])
 go_quiet (fail)
 go_wp2
 refine wp_loop_rounds 4 ?_
 rw [rounds_succ]
 go_wp2_with (go_at_call 79;rw [L4.out];refine (Tryz.utf8_RuneLen _ _).mono ?_;rintro e w' ⟨rfl,rfl⟩)
 ·go_ret
  exact ⟨dC (xL s hs1 H0.out (LW ‹_›)),_,rfl⟩
 ·rw [rounds_succ]
  go_wp2
  go_ret
  exact ⟨dC (xM s hs1 H0.out ‹_› (Lq ‹_›) (.inl HS.out)),_,rfl⟩
 ·go_ret
  exact ⟨dC (Bb s hs1 H0.out ‹_›),_,rfl⟩
theorem fG (s:ByteArray) (w:World) (hs:0<s.size) (k:Nat) (hk:k=1∨k=2) (h0:d5 (s[0]'hs).toNat=k):Calls Tryz.prog 44 #[.string s] w fun e w'=>e= .returned (.int .i64 (c9 s.data.toList:Nat))∧∃n,w'=w.drewN n:=by
 have H0:=Lib.hid h0
 have B:=Lib.hid (CT s hs (by omega))
 have hb:=(s[0]'hs).toNat_lt
 clear h0
 rcases hk with rfl|rfl
 all_goals
  go_enter Tryz.func44,Tryz.ntmps44
  go_wp2_with (go_at_call 78;refine (jd _ _ hb).mono ?_;rintro e w' ⟨rfl,rfl⟩;rw [H0.out])
  go_quiet (fail)
  go_wp2
  refine wp_loop_rounds 1 ?_
  rw [rounds_succ]
  go_wp2
  go_ret
  exact ⟨dC B.out,_,rfl⟩
theorem jP (s:ByteArray) (w:World) (hs0:0<s.size) (hs1:s.size≤1) (k:Nat) (hk:k=3∨k=4) (h0:d5 (s[0]'(by omega)).toNat=k):Calls Tryz.prog 44 #[.string s] w fun e w'=>e= .returned (.int .i64 (c9 s.data.toList:Nat))∧∃n,w'=w.drewN n:=by
 have H0:=Lib.hid h0
 have B:=Lib.hid (IR s (by omega))
 have hb:=(s[0]'(by omega)).toNat_lt
 clear h0
 rcases hk with rfl|rfl
 all_goals
  go_enter Tryz.func44,Tryz.ntmps44
  go_wp2_with (go_at_call 78;refine (jd _ _ hb).mono ?_;rintro e w' ⟨rfl,rfl⟩;rw [H0.out])
  go_quiet (fail)
  go_wp2
  refine wp_loop_rounds 1 ?_
  rw [rounds_succ]
  go_wp2
  go_ret
  exact ⟨dC B.out,_,rfl⟩
theorem sc (s:ByteArray) (w:World) (hs:0<s.size) (hm:s.size≤maxLen):Calls Tryz.prog 44 #[.string s] w fun e w'=>e= .returned (.int .i64 (c9 s.data.toList:Nat))∧∃n,w'=w.drewN n:=by
 have ha:d5 (s[0]'hs).toNat=1∨d5 (s[0]'hs).toNat=2∨d5 (s[0]'hs).toNat=3∨d5 (s[0]'hs).toNat=4:=by
  unfold d5;repeat' split
  all_goals simp
 by_cases h1:s.size=1
 ·rcases ha with h|h|h|h
  ·exact fG s w hs 1 (.inl rfl) h
  ·exact fG s w hs 2 (.inr rfl) h
  ·exact jP s w hs (by omega) 3 (.inl rfl) h
  ·exact jP s w hs (by omega) 4 (.inr rfl) h
 ·rcases ha with h|h|h|h
  ·exact fG s w hs 1 (.inl rfl) h
  ·exact fG s w hs 2 (.inr rfl) h
  ·exact pf s w (by omega) hm h
  ·by_cases h2:s.size=2
   ·exact ph s w (by omega) (by omega) h
   ·exact qY s w (by omega) hm h
theorem CU (s:ByteArray) (i:Nat) (r:Int) (w:World) (hr:r≠65533):Calls Tryz.prog 19 #[.string s,.int .i64 (i:Int),.int .i32 r] w fun e w'=>e= .returned (.bool false)∧w=w':=by
 have h:(r==65533)=false:=by simpa using hr
 clear hr
 go_enter Tryz.func19,Tryz.ntmps19
 go_wp2
 go_ret
 exact ⟨rfl,rfl⟩
theorem qZ (s:ByteArray) (i:Nat) (r:Int) (w:World) (hr:r=65533) (hi:i≤s.size):Calls Tryz.prog 19 #[.string s,.int .i64 (i:Int),.int .i32 r] w fun e w'=>e= .returned (.bool (!hasPrefix (s.data.toList.drop i) jS))∧w=w':=by
 subst hr
 go_enter Tryz.func19,Tryz.ntmps19
 go_wp2_with (go_at_call 39;refine (Tryz.strings_HasPrefix _ _ _).mono ?_;rintro e w' ⟨rfl,rfl⟩)
 go_ret
 exact ⟨az (by rw [List.take_of_length_le (by rw [List.length_drop,←size_eq];exact Nat.le_refl _)];rfl),rfl⟩
end Go.Proofs.YtpmdcppnlggckaaGreatDoor
namespace Go.Proofs.YtpmdcppnlggckaaGreatDoor
open Go.RowKit Go.Lib
theorem gW (s:ByteArray) (pos:Nat) (h:pos<s.size):s.data.toList.drop pos≠[]:=by
 intro h0
 have:=congrArg List.length h0
 rw [List.length_drop,←size_eq] at this
 simp at this
 omega
theorem F7 (s:ByteArray) (pos:Nat) (h:¬pos<s.size):s.data.toList.drop pos=[]:=
 List.drop_eq_nil_of_le (by rw [←size_eq];omega)
end Go.Proofs.YtpmdcppnlggckaaGreatDoor
namespace Go.Proofs.YtpmdcppnlggckaaGreatDoor
open Go.RowKit Go.Lib
def ay (w:World) (v:Value) (l:List UInt8):Prop:=
 (v= .slice none 0 0∧l=[])∨
 ∃x cap,v= .slice (some x) l.length cap∧l.length≤cap∧cap≤maxLen∧∀i (h:i<l.length),w.cell? (x.add i)=some (.int .u8 ((l[i]'h).toNat:Int))
theorem ay.conv {w:World} {v:Value} {l:List UInt8} (h:ay w v l):(convert 22 9 v).run Tryz.prog w= .ok (.string ⟨l.toArray⟩) w:=by
 rcases h with ⟨rfl,rfl⟩|⟨x,cap,rfl,hl,hc,hcell⟩
 ·rw [run_convert_bytes_string w 22 9 5 none 0 0 Tryz.underlying22 Tryz.underlying5 Tryz.underlying9];rfl
 ·exact run_convert_bytes_back (P:=Tryz.prog) w 22 9 5 x cap l Tryz.underlying22 Tryz.underlying5 Tryz.underlying9 hcell
theorem IX (l:List UInt8):(ByteArray.mk l.toArray).data.toList=l:=by simp
theorem uX (l:List UInt8):(ByteArray.mk l.toArray).size=l.length:=by rw [size_eq,IX]
theorem CV (l:List UInt8) (S:ByteArray) (h:Hid ((⟨(trimPrefix l iz).toArray⟩:ByteArray)=S)) (w:World):Calls Tryz.prog 41 #[.string ⟨l.toArray⟩,.string ⟨#[239,187,191]⟩] w fun e w'=>e= .returned (.string S)∧w=w':=by
 refine (Tryz.strings_TrimPrefix _ _ w).mono ?_
 rintro e w' ⟨rfl,rfl⟩
 refine ⟨aY ?_,rfl⟩
 rw [←h.out,IX];rfl
def jQ (S:ByteArray) (pos bm:Nat) (acc:List UInt8):Prop:=
 bm≤S.size∧(∀i,pos≤i→i<bm→(S.data.toList.getD i 0).toNat/64=2)∧acc++gF (S.data.toList.drop (max pos bm))=gF S.data.toList∧acc.length≤3*max pos bm
theorem jQ.skip {S:ByteArray} {pos bm:Nat} {acc:List UInt8} (h:jQ S pos bm acc) (hlt:pos<bm):Utf8.decode S pos=(65533,1)∧jQ S (pos+1) bm acc:=by
 obtain ⟨h1,h2,h3,h4⟩:=h
 refine ⟨?_,h1,fun i hi hb=>h2 i (by omega) hb,?_,?_⟩
 ·rw [←decodeL_drop]
  exact tU _ (by rw [getD_dropU,Nat.add_zero];exact h2 pos (Nat.le_refl _) hlt)
 ·rw [show max (pos+1) bm=max pos bm by omega];exact h3
 ·omega
theorem jQ.bad {S:ByteArray} {pos bm:Nat} {acc:List UInt8} (h:jQ S pos bm acc) (hp:pos<S.size) (hge:bm≤pos) (hk:brk (S.data.toList.drop pos)=true):jQ S (pos+1) (pos+c9 (S.data.toList.drop pos)) (acc++jS):=by
 obtain ⟨h1,h2,h3,h4⟩:=h
 have hb:=mh (S.data.toList.drop pos)
 have hl:=tR (S.data.toList.drop pos) (gW S pos hp)
 rw [List.length_drop,←size_eq] at hl
 rw [show max pos bm=pos by omega] at h3 h4
 refine ⟨by omega,fun i hi hb=>?_,?_,?_⟩
 ·have:=Bo (S.data.toList.drop pos) (i-pos) (by omega) (by omega)
  rw [getD_dropU,show pos+(i-pos)=i by omega] at this
  exact this
 ·rw [show max (pos+1) (pos+c9 (S.data.toList.drop pos))=pos+c9 (S.data.toList.drop pos) by omega,List.append_assoc,←h3,kH (S.data.toList.drop pos) (gW S pos hp),hk,if_pos rfl,List.drop_drop]
 ·rw [List.length_append];simp only [jS,List.length_cons,List.length_nil];omega
theorem jQ.good {S:ByteArray} {pos bm:Nat} {acc:List UInt8} (h:jQ S pos bm acc) (hp:pos<S.size) (hge:bm≤pos) (hk:brk (S.data.toList.drop pos)=false):jQ S (pos+(Utf8.decode S pos).2) bm (acc++encodeRune ((Utf8.decode S pos).1:Int)):=by
 obtain ⟨h1,h2,h3,h4⟩:=h
 have hw:=width_pos S pos
 have hl:=sA (S.data.toList.drop pos) (gW S pos hp) hk
 rw [decodeL_drop] at hl
 rw [show max pos bm=pos by omega] at h3 h4
 refine ⟨h1,fun i hi hb=>by omega,?_,?_⟩
 ·rw [show max (pos+(Utf8.decode S pos).2) bm=pos+(Utf8.decode S pos).2 by omega,List.append_assoc,←h3,kH (S.data.toList.drop pos) (gW S pos hp),hk,if_neg (by simp),←jo _ (gW S pos hp) hk,decodeL_drop,List.drop_drop]
 ·rw [List.length_append,hl];omega
theorem jQ.end {S:ByteArray} {pos bm:Nat} {acc:List UInt8} (h:jQ S pos bm acc) (hp:¬pos<S.size):acc=gF S.data.toList:=by
 obtain ⟨_,_,h3,_⟩:=h
 rw [F7 S _ (by omega),mi,List.append_nil] at h3
 exact h3
theorem se:strCells ⟨#[239,191,189]⟩=byteCells jS:=rfl
theorem sg (v:Value) (l:List UInt8) (w:World) (hv:ay w v l) (hl:l.length≤1099511627776):Calls Tryz.prog 21 #[v] w fun e w'=>e= .returned (.string ⟨(gG l).toArray⟩)∧Below w.heap.size w w':=by
 have hcv:=hv.conv
 clear hv
 obtain ⟨S,hS⟩:∃S:ByteArray,(⟨(trimPrefix l iz).toArray⟩:ByteArray)=S:=⟨_,rfl⟩
 have hSl:S.size≤1099511627776:=by
  have:=trimPrefix_le l iz
  rw [←hS,uX];omega
 have HS:=Lib.hid hS
 have HD:Hid (gG l=gF S.data.toList):=Lib.hid (by unfold gG;rw [←hS,IX])
 clear hS
 go_enter Tryz.func21,Tryz.ntmps21
 go_wp2_with (go_at_call 41;refine (CV l S HS _).mono ?_;rintro e w' ⟨rfl,rfl⟩)
 refine (Tryz.Builder_Grow_fresh w.heap.size w.heap.size S.size _ (Nat.le_refl _) (heap_alloc_new w _) (by simp) (by omega)).mono ?_
 rintro e w2 ⟨rfl,hB0,hbel0⟩
 have hI0:Lib.IsBuilderF 72 5 w.heap.size w.heap.size [] w2:=Lib.IsBuilderF.of (.inr hB0)
 have hsz0:w.heap.size+1≤w2.heap.size:=by have:=hbel0.size;simpa using this
 go_wp2_with (fail)
 go_loopw [5] (fun bh wr=>∃(pos bm:Nat) (acc:List UInt8),bh= .int .i64 (bm:Int)∧Lib.IsBuilderF 72 5 w.heap.size w.heap.size (byteCells acc) wr∧wr.heap[w2.heap.size]? =some (.stringIter S pos)∧Below w.heap.size w wr∧jQ S pos bm acc) (fun _ wr=>S.size-wr.iterPos w2.heap.size)
 case atStart=>
  refine ⟨0,0,[],rfl,hI0.alloc _,?_,(((Below.refl _ w).alloc (Nat.le_refl _) _).trans hbel0).alloc (by omega) _,Nat.zero_le _,fun i _ h=>absurd h (by omega),rfl,Nat.zero_le _⟩
  have:=World.iter_heap w2 S 0
  simpa using this
 case round=>
  obtain ⟨pos,bm,acc,rfl,hI,hit,hbw,hat⟩:=hrel
  have hb1:=hat.1
  have hal:=hat.2.2.2
  have HA:=Lib.hid hat
  clear hat
  have hsz:w2.heap.size<wr.heap.size:=(Array.getElem?_eq_some_iff.1 hit).1
  by_cases hp:pos<S.size
  ·have hnx:∀ty,(Instr.next (.pointer (some ⟨w2.heap.size,0,none⟩)) true ty).run Tryz.prog wr=_:=fun ty=>Lib.run_next_any_at wr w2.heap.size S pos ty hit hp
   have hwd:=width_pos S pos
   have hd1:=decode_le S pos
   have hI2:=hI.iterAt hit (pos+(Utf8.decode S pos).2)
   have hit2:=Lib.iterAt_heap wr w2.heap.size S pos (pos+(Utf8.decode S pos).2) hit
   have hbw2:=Lib.below_iterAt hbw (k:=w2.heap.size) (by omega) S (pos+(Utf8.decode S pos).2)
   have hsz2:w.heap.size≤(wr.iterAt w2.heap.size S (pos+(Utf8.decode S pos).2)).heap.size:=by rw [Lib.iterAt_size];omega
   have HB:=Lib.hid (DP (S.data.toList.drop pos) (gW S pos hp))
   have HL:=Lib.hid (decodeL_drop S pos)
   by_cases hlt:pos<bm
   ·have SK:=Lib.hid (HA.out.skip hlt)
    go_wp2
    go_roundw
    case rel=>exact ⟨pos+(Utf8.decode S pos).2,bm,acc,rfl,hI2,hit2,hbw2,by rw [SK.out.1];exact SK.out.2⟩
    case measure=>
     simp only [World.iterPos,hit2,hit]
     omega
   ·by_cases hr:((Utf8.decode S pos).1:Int)=65533
    ·have hr':(Utf8.decode S pos).1=65533:=by omega
     have HR:=Lib.hid hr
     have HR':=Lib.hid hr'
     clear hr hr'
     cases hk:hasPrefix (S.data.toList.drop pos) jS with
     |true=>
      have HK:=Lib.hid hk
      clear hk
      have HG:=Lib.hid (HA.out.good hp (by omega) (by rw [HB.out,HK.out];simp))
      go_wp2_with (first
       |(go_at_call 19;refine (qZ _ _ _ _ HR.out (by omega)).mono ?_;rintro e w' ⟨rfl,rfl⟩;rw [HK.out])
       |(go_at_call 45;refine (ts w.heap.size w.heap.size _ _ (by omega) (by omega) _ hI2 (by rw [byteCells_length];omega) hsz2).mono ?_))
      rintro e W1 ⟨rfl,h1,b1,k1⟩
      go_wp2
      go_roundw
      case rel=>exact ⟨pos+(Utf8.decode S pos).2,bm,acc++encodeRune ((Utf8.decode S pos).1:Int),rfl,by rw [byteCells_append,byteCells_encodeRune];exact .inr h1,k1.iter hit2 (by omega),hbw2.trans b1,HG.out⟩
      case measure=>
       simp only [World.iterPos,k1.iter hit2 (by omega),hit]
       omega
     |false=>
      have HK:=Lib.hid hk
      clear hk
      have hbk:brk (S.data.toList.drop pos)=true:=by rw [HB.out,HK.out,HL.out,HR'.out];rfl
      have HG:=Lib.hid (HA.out.bad hp (by omega) hbk)
      have hbl:=tR (S.data.toList.drop pos) (gW S pos hp)
      have HW:Hid ((Utf8.decode S pos).2=1):=Lib.hid (by rw [←HL.out,(mj _).1 hbk])
      have HE:Hid (c9 (S.extract pos S.size).data.toList=c9 (S.data.toList.drop pos)):=Lib.hid (by rw [extract_data,List.take_of_length_le (by rw [List.length_drop,←size_eq];exact Nat.le_refl _)])
      clear hbk
      go_wp2_with (first
       |(go_at_call 19;refine (qZ _ _ _ _ HR.out (by omega)).mono ?_;rintro e w' ⟨rfl,rfl⟩;rw [HK.out])
       |(go_at_call 43;refine (eK w.heap.size w.heap.size _ _ _ hI2 (by rw [byteCells_length];have:=uX [239,191,189];simp at this;omega) hsz2).mono ?_))
      rintro e W1 ⟨rfl,h1,b1,k1⟩
      go_wp2_with (go_at_call 44;refine (sc _ _ (by rw [ByteArray.size_extract];omega) (by rw [ByteArray.size_extract];unfold maxLen;omega)).mono ?_)
      rintro e w' ⟨rfl,nq,rfl⟩
      rw [HE.out]
      go_wp2
      go_roundw
      case rel=>exact ⟨pos+(Utf8.decode S pos).2,pos+c9 (S.data.toList.drop pos),acc++jS,by go_num,by rw [byteCells_append,←se];exact .inr h1,k1.iter hit2 (by omega),below_drewN (hbw2.trans b1) nq,by rw [HW.out];exact HG.out⟩
      case measure=>
       simp only [World.iterPos,World.heap_drewN,k1.iter hit2 (by omega),hit]
       omega
    ·have HG:=Lib.hid (HA.out.good hp (by omega) (by rw [HB.out,HL.out,decide_eq_false (by omega)];rfl))
     go_wp2_with (first
      |(go_at_call 19;refine (CU _ _ _ _ hr).mono ?_;rintro e w' ⟨rfl,rfl⟩)
      |(go_at_call 45;refine (ts w.heap.size w.heap.size _ _ (by omega) (by omega) _ hI2 (by rw [byteCells_length];omega) hsz2).mono ?_))
     rintro e W1 ⟨rfl,h1,b1,k1⟩
     go_wp2
     go_roundw
     case rel=>exact ⟨pos+(Utf8.decode S pos).2,bm,acc++encodeRune ((Utf8.decode S pos).1:Int),rfl,by rw [byteCells_append,byteCells_encodeRune];exact .inr h1,k1.iter hit2 (by omega),hbw2.trans b1,HG.out⟩
     case measure=>
      simp only [World.iterPos,k1.iter hit2 (by omega),hit]
      omega
  ·have hnx:∀ty,(Instr.next (.pointer (some ⟨w2.heap.size,0,none⟩)) true ty).run Tryz.prog wr=_:=fun ty=>Lib.run_next_end_at wr w2.heap.size S pos ty hit hp
   go_wp2_with (go_at_call 46;refine (Tryz.Builder_String_any_k w.heap.size w.heap.size acc _ hI (by omega)).mono ?_)
   rintro e W1 ⟨rfl,_,b1,_⟩
   go_wp2
   go_ret
   exact ⟨aY (by rw [HD.out,←HA.out.end hp]),hbw.trans b1⟩
end Go.Proofs.YtpmdcppnlggckaaGreatDoor
namespace Go.Proofs.YtpmdcppnlggckaaGreatDoor
open Go.RowKit Go.Lib
theorem xP (w:World) (C:Array Value) (t:TypeId) (l:List UInt8) (h:C.toList=byteCells l) (hm:l.length≤maxLen):ay (w.alloc (.cells C t)) (.slice (some ⟨w.heap.size,0,none⟩) l.length l.length) l:=by
 refine .inr ⟨_,_,rfl,Nat.le_refl _,hm,fun i hi=>?_⟩
 have e:(⟨w.heap.size,0,none⟩:Addr).add i=⟨w.heap.size,i,none⟩:=by simp [Addr.add];omega
 rw [e,World.cell?_alloc_mark,←Array.getElem?_toList,h,byteCells,List.getElem?_map,List.getElem?_eq_getElem hi]
 rfl
end Go.Proofs.YtpmdcppnlggckaaGreatDoor
namespace Go.Proofs.YtpmdcppnlggckaaGreatDoor
open Go.RowKit Go.Lib
theorem kz (n:Int) (k:Nat) (C:Array Value) (hz:(encodeRuneZ n).map (Value.int .u8)=C.toList) (hk:(encodeRuneZ n).length=k) (w:World):(convert 22 9 (.slice (some ⟨w.heap.size,0,none⟩) k k)).run Tryz.prog (w.alloc (.cells C 5))= .ok (.string ⟨(encodeRune n).toArray⟩) (w.alloc (.cells C 5)):=by
 have h4:=ew n
 have hl:(encodeRune n).length=k:=by rw [←hk];simp [encodeRune]
 have:=(xP w C 5 (encodeRune n) (by rw [byteCells_encodeRune,runeCells,hz]) (by unfold maxLen;omega)).conv
 rwa [hl] at this
theorem kA (n:Int) (w:World):Calls Tryz.prog 73 #[.int .i64 n] w fun e w'=>e= .returned (.string ⟨(encodeRune n).toArray⟩)∧Below w.heap.size w w':=by
 by_cases hb:n<0∨1114111<n∨(55296≤n∧n≤57343)
 ·have B:Hid (encodeRune n=jS):=Lib.hid (by rw [encodeRune,encodeRuneZ_bad (by omega)];rfl)
  rcases hb with h|h|⟨h1,h2⟩
  ·go_enter Tryz.func73,Tryz.ntmps73
   go_wp2
   go_ret
   exact ⟨aY (by rw [B.out];rfl),Below.refl _ _⟩
  ·go_enter Tryz.func73,Tryz.ntmps73
   go_wp2
   go_ret
   exact ⟨aY (by rw [B.out];rfl),Below.refl _ _⟩
  ·go_enter Tryz.func73,Tryz.ntmps73
   go_wp2
   go_ret
   exact ⟨aY (by rw [B.out];rfl),Below.refl _ _⟩
 ·have h0:0≤n:=by omega
  have hm:n≤1114111:=by omega
  by_cases h1:n<128
  ·have hs:n<55296:=by omega
   have hcv:=kz n 1 #[.int .u8 n] (by rw [encodeRuneZ_one (by omega) (by omega)];rfl) (by rw [encodeRuneZ_one (by omega) (by omega)];rfl)
   go_enter Tryz.func73,Tryz.ntmps73
   go_wp2
   go_ret
   exact ⟨rfl,(Below.refl _ w).alloc (Nat.le_refl _) _⟩
  by_cases h2:n<2048
  ·have hs:n<55296:=by omega
   have hcv:=kz n 2 #[.int .u8 (192+n/64),.int .u8 (128+n%64)] (by rw [encodeRuneZ_two (by omega) (by omega)];rfl) (by rw [encodeRuneZ_two (by omega) (by omega)];rfl)
   go_enter Tryz.func73,Tryz.ntmps73
   go_wp2
   go_ret
   exact ⟨rfl,(Below.refl _ w).alloc (Nat.le_refl _) _⟩
  by_cases h3:n<65536
  ·by_cases hs:n<55296
   ·have hcv:=kz n 3 #[.int .u8 (224+n/4096),.int .u8 (128+n/64%64),.int .u8 (128+n%64)] (by rw [encodeRuneZ_three (by omega)];rfl) (by rw [encodeRuneZ_three (by omega)];rfl)
    go_enter Tryz.func73,Tryz.ntmps73
    go_wp2
    go_ret
    exact ⟨rfl,(Below.refl _ w).alloc (Nat.le_refl _) _⟩
   ·have hs2:57343<n:=by omega
    have hcv:=kz n 3 #[.int .u8 (224+n/4096),.int .u8 (128+n/64%64),.int .u8 (128+n%64)] (by rw [encodeRuneZ_three (by omega)];rfl) (by rw [encodeRuneZ_three (by omega)];rfl)
    go_enter Tryz.func73,Tryz.ntmps73
    go_wp2
    go_ret
    exact ⟨rfl,(Below.refl _ w).alloc (Nat.le_refl _) _⟩
  ·have hs2:57343<n:=by omega
   have hcv:=kz n 4 #[.int .u8 (240+n/262144),.int .u8 (128+n/4096%64),.int .u8 (128+n/64%64),.int .u8 (128+n%64)] (by rw [encodeRuneZ_four (by omega) (by omega)];rfl) (by rw [encodeRuneZ_four (by omega) (by omega)];rfl)
   go_enter Tryz.func73,Tryz.ntmps73
   go_wp2
   go_ret
   exact ⟨rfl,(Below.refl _ w).alloc (Nat.le_refl _) _⟩
end Go.Proofs.YtpmdcppnlggckaaGreatDoor
