/- The walks of stage 5 as the rows want them, over what the program's functions answer. -/
import Derived.Test.YthdhlcafomhdbaaDoorDlx
import Derived.Test.YthdhlcafomhdbaaDoorLdh
namespace Go.Proofs.YthdhlcafomhdbaaDoor
open Go.RowKit

theorem decomp_fulls_walk (H : DecompOk) (w : World) (h : HRows w) (c : Int) (hc : 0 ≤ c ∧ c < 4294967296) : Calls Tryd.prog 3 #[.int .u32 c] w fun e w' => e = .returned (.bool true) ∧ Up w w' := by
  obtain ⟨c, rfl⟩ := Int.eq_ofNat_of_zero_le hc.1
  exact fulls_of H c (by omega) w h
theorem decomp_lists_walk (H : DecompOk) (w : World) (h : HRows w) (A : Option Addr) (n d : Nat) (l : List Nat) (hn : l.length = n) (hr : Rd w A d (us l)) (hl : ∀ c ∈ l, c < 4294967296) (hd : d * 4 ≤ 140737488351232) :
    Calls Tryd.prog 4 #[.slice A n d] w fun e w' => e = .returned (.bool true) ∧ Up w w' :=
  lists_of H A n d l w h hr hn.symm hl (by have := hr.fit; rw [us_len] at this; omega) hd
theorem decomp_again_walk (H : DecompOk) (w : World) (h : HRows w) (A : Option Addr) (n d : Nat) (l : List Nat) (hn : l.length = n) (hr : Rd w A d (us l)) (hl : ∀ c ∈ l, c < 4294967296) (hd : d * 4 ≤ 140737488351232) :
    Calls Tryd.prog 5 #[.slice A n d] w fun e w' => e = .returned (.bool true) ∧ Up w w' :=
  again_of H A n d l w h hr hn.symm hl (by have := hr.fit; rw [us_len] at this; omega) hd
theorem decomp_joins_walk (H : DecompOk) (w : World) (h : HRows w) (A : Option Addr) (n d : Nat) (a : List Nat) (hn : a.length = n) (hr : Rd w A d (us a)) (hl : ∀ c ∈ a, c < 4294967296) (hd : d * 4 ≤ 140737488351232)
    (B : Option Addr) (m e : Nat) (b : List Nat) (hm : b.length = m) (hr2 : Rd w B e (us b)) (hl2 : ∀ c ∈ b, c < 4294967296) (he : e * 4 ≤ 140737488351232) :
    Calls Tryd.prog 6 #[.slice A n d, .slice B m e] w fun e w' => e = .returned (.bool true) ∧ Up w w' :=
  joins_of5 H A B n d m e a b w h hr hr2 hn.symm hm.symm hl hl2 (by have := hr.fit; rw [us_len] at this; omega) hd (by have := hr2.fit; rw [us_len] at this; omega) he
theorem decomp_hangul_walk (H : DecompOk) (w : World) (h : HRows w) (n : Int) (hn : 0 ≤ n ∧ n < 65536) : Calls Tryd.prog 7 #[.int .u16 n] w fun e w' => e = .returned (.bool true) ∧ Up w w' := by
  obtain ⟨n, rfl⟩ := Int.eq_ofNat_of_zero_le hn.1
  exact hangul_of5 H n (by omega) w h

end Go.Proofs.YthdhlcafomhdbaaDoor
