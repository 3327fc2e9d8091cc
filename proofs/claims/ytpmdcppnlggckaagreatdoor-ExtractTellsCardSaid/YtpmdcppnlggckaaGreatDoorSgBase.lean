/-
  What is just signs stays so, cut where a byte below 128 stands, and put together: plain mathematics.
-/
import Derived.Test.YtpmdcppnlggckaaGreatDoorP1
import Derived.Test.YtpmdcppnlggckaaGreatDoorP4
namespace Go.Proofs.YtpmdcppnlggckaaGreatDoor
open Go.RowKit Go.Lib
abbrev AZ:=List UInt8
theorem Kt (a b:AZ) (ha:validD a=true) (hb:validD b=true):validD (a++b)=true:=by
 rw [ml b a.length a (Nat.le_refl _) ha];exact hb
theorem Ku (c:UInt8) (t:AZ) (h:c.toNat<128):validD (c::t)=validD t:=by
 have e:decodeL (c::t)=(c.toNat,1):=decodeL_ascii c t h
 have hk:brk (c::t)=false:=by unfold brk;rw [e];simp;omega
 rw [lO _ (by simp),hk,e];rfl
theorem Kw (l:AZ) (h:∀c∈l,c.toNat<128):validD l=true:=by
 induction l with
 |nil=>rfl
 |cons c t ih=>rw [Ku c t (h c (.head _))];exact ih (fun x hx=>h x (.tail _ hx))
theorem FO (r:Nat) (h:dO r) (h7:128≤r):∀x∈encodeRune (r:Int),128≤x.toNat:=by
 unfold dO at h
 by_cases h2:r≤2047
 ·rw [encodeRune,encodeRuneZ_two (by omega) (by omega)]
  intro x hx
  simp only [List.map_cons,List.map_nil,List.mem_cons,List.not_mem_nil,or_false] at hx
  rcases hx with rfl|rfl<;>(rw [gH _ (by omega) (by omega)];omega)
 by_cases h3:r≤65535
 ·rw [encodeRune,encodeRuneZ_three (by omega)]
  intro x hx
  simp only [List.map_cons,List.map_nil,List.mem_cons,List.not_mem_nil,or_false] at hx
  rcases hx with rfl|rfl|rfl<;>(rw [gH _ (by omega) (by omega)];omega)
 ·rw [encodeRune,encodeRuneZ_four (by omega) (by omega)]
  intro x hx
  simp only [List.map_cons,List.map_nil,List.mem_cons,List.not_mem_nil,or_false] at hx
  rcases hx with rfl|rfl|rfl|rfl<;>(rw [gH _ (by omega) (by omega)];omega)
theorem IG (r:Nat) (h7:r<128):∃c:UInt8,encodeRune (r:Int)=[c]∧c.toNat=r:=by
 refine ⟨(r:Int).toNat.toUInt8,?_,?_⟩
 ·rw [encodeRune,encodeRuneZ_one (by omega) (by omega)];rfl
 ·rw [gH _ (by omega) (by omega)];omega
theorem uR (m:Int):validD (encodeRune m)=true:=by
 obtain ⟨r,hr,e,-⟩:=DN m
 have h1:=pK r hr []
 rw [List.append_nil] at h1
 rw [e,h1];rfl
theorem FP (e:AZ) (h:∀x∈e,128≤x.toNat) (c:UInt8) (hc:c.toNat<128):c∉e:=fun hm=>by
 have:=h c hm;omega
theorem uS (m:Int) (h:m≠0):0∉encodeRune m:=by
 obtain ⟨r,hr,e,h1⟩:=DN m
 have hr0:r≠0:=by rcases h1 with ⟨-,-,h2⟩|⟨-,h2⟩<;>omega
 rw [e]
 by_cases h7:r<128
 ·obtain ⟨c,e1,e2⟩:=IG r h7
  rw [e1,List.mem_singleton]
  rintro rfl
  exact hr0 (by rw [←e2];rfl)
 ·exact FP _ (FO r hr (by omega)) 0 (by decide)
end Go.Proofs.YtpmdcppnlggckaaGreatDoor
