/- The statements of stage 9: a byte that is changed. -/
import Derived.Test.YthgjjlllifcegaaSuc
namespace Go.Proofs.Ythgjjlllifcegaa
open Go.RowKit

theorem bs_set (l : List UInt8) (k : Nat) (b : UInt8) : (bs l).set k (.int .u8 (b.toNat : Int)) = bs (l.set k b) := by
  unfold bs
  rw [List.map_set]

theorem crc_set (l : List UInt8) (k : Nat) (h : k < l.length) (y : UInt8) : (crcOf (l.set k (l[k] ^^^ y)) = crcOf l) ↔ y = 0 := by
  obtain ⟨P, x, Q, rfl, hP⟩ : ∃ P x Q, l = P ++ x :: Q ∧ P.length = k := ⟨l.take k, l[k], l.drop (k + 1), by rw [← List.drop_eq_getElem_cons h, List.take_append_drop], by rw [List.length_take]; omega⟩
  subst hP
  have e1 : (P ++ x :: Q)[P.length] = x := by simp
  have e2 : (P ++ x :: Q).set P.length (x ^^^ y) = P ++ (x ^^^ y) :: Q := by
    rw [List.set_append_right _ _ (Nat.le_refl _), Nat.sub_self, List.set_cons_zero]
  rw [e1, e2]
  constructor
  · intro h
    have := crc_turned P Q _ _ h
    have h2 : x ^^^ (x ^^^ y) = x ^^^ x := by rw [this]
    rwa [← UInt8.xor_assoc, UInt8.xor_self, UInt8.zero_xor] at h2
  · rintro rfl
    rw [UInt8.xor_zero]

set_option maxRecDepth 100000 in
theorem sum_turned_walk {rep : Nat → Nat} (H : SumOk rep) (w : World) (A : Option Addr) (n d : Nat) (l : List UInt8) (hl : l.length = n) (hr : Rd w A d (bs l)) (hd : d * 1 ≤ 140737488351232) (a : Int) (ha : 0 ≤ a ∧ a < 65536) (b : Int) (hb : 0 ≤ b ∧ b < 256) :
    Calls Try.prog 6 #[.slice A n d, .int .u16 a, .int .u8 b] w fun e w' => e = .returned (.bool true) ∧ Up w w' := by
  have c4 := Lib.hid (fun w => awake_9 H w)
  have hf := hr.fit
  rw [bs_len, hl] at hf
  obtain ⟨y, rfl⟩ : ∃ y : UInt8, b = (y.toNat : Int) := ⟨UInt8.ofNat b.toNat, by
    have : b.toNat < 256 := by omega
    rw [UInt8.toNat_ofNat_of_lt' this]; omega⟩
  by_cases hn : n = 0
  · have c1 := H.of none 0 0 [] w (Rd.empty w) rfl
    rw [show crcOf [] = 0 from rfl] at c1
    have C1 := Lib.hid c1
    subst hn
    clear H c1 hr hl
    go_enter Try.func6, Try.ntmps6
    go_wp2_with fail
    refine C1.out.mono ?_
    rintro e w1 ⟨rfl, hu1⟩
    go_wp2_with fail
    refine (c4.out _).mono ?_
    rintro e w2 ⟨rfl, hu2⟩
    go_wp2_with fail
    go_ret
    exact ⟨rfl, hu1.trans hu2⟩
  obtain ⟨B, d1, w1, hap, _, hu1, hown⟩ := elB.copy (m := n) w 22 hr (by rw [bs_len]; exact hl.symm) (one_bs l) (by omega) (by omega)
  have HA := Lib.hid hap
  obtain ⟨k, hk, he⟩ : ∃ k : Nat, k < n ∧ a % (n : Int) = (k : Int) := ⟨(a % (n : Int)).toNat, by
    have := Int.emod_lt_of_pos a (show (0 : Int) < n by omega)
    omega, by
    have := Int.emod_nonneg a (show (n : Int) ≠ 0 by omega)
    omega⟩
  obtain ⟨g, rfl, hg1, hg2⟩ := own_addr hown (by omega)
  have hkl : k < l.length := by omega
  have hcell : w1.cell? ⟨g, k, none⟩ = some (.int .u8 (l[k].toNat : Int)) := (hown.cellAt k (by omega)).trans (bs_get l k hkl)
  have hfr : w1.frozen? ⟨g, k, none⟩ = false := hown.frozenAt k
  have hst := (hown.stored k (.int .u8 ((l[k] ^^^ y).toNat : Int))).1
  rw [bs_set] at hst
  have HS := Lib.hid hst
  have hxb := bits_xor8 l[k] y
  have hcs := crc_set l k hkl y
  have huw := Lib.hid (fun z => Up.setCell hu1 hg1 k (.int .u8 z))
  have of1 := Lib.hid (fun B e w' (hr : Rd w' B e (bs (l.set k (l[k] ^^^ y)))) => H.of B n e (l.set k (l[k] ^^^ y)) w' hr (by rw [List.length_set]; exact hl.symm))
  have of2 := Lib.hid (fun w' (u : Up w w') => H.of A n d l w' (hr.up u) hl.symm)
  have hyb : ((crcOf (l.set k (l[k] ^^^ y)) : Int) == (crcOf l : Int)) = ((y.toNat : Int) == 0) := by
    by_cases h0 : y = 0
    · rw [hcs.2 h0, h0]; simp
    · have h1 : ¬ crcOf (l.set k (l[k] ^^^ y)) = crcOf l := fun h => h0 (hcs.1 h)
      have h2 : y.toNat ≠ 0 := fun h => h0 (UInt8.toNat_inj.1 h)
      have e1 : ((crcOf (l.set k (l[k] ^^^ y)) : Int) == (crcOf l : Int)) = false := beq_eq_false_iff_ne.2 (by omega)
      have e2 : ((y.toNat : Int) == 0) = false := beq_eq_false_iff_ne.2 (by omega)
      rw [e1, e2]
  have hnz : ((n : Int) == 0) = false := beq_eq_false_iff_ne.2 (by omega)
  clear H hap hown hst hcs hr
  generalize l.set k (l[k] ^^^ y) = l2 at *
  generalize (l[k] ^^^ y).toNat = z at *
  generalize l[k].toNat = x at *
  generalize crcOf l2 = s2 at *
  generalize crcOf l = s1 at *
  generalize y.toNat = y0 at *
  clear hkl hl
  go_enter Try.func6, Try.ntmps6
  go_wp2_with (at_builtin; refine wpList_app rfl _ _ _ rfl rfl rfl HA.out ?_)
  have hu2 := huw.out (z : Int)
  refine (of1.out _ _ _ (own_read HS.out)).mono ?_
  rintro e w3 ⟨rfl, hx⟩
  have hu3 := hu2.trans hx
  clear hx hu2 huw HS of1 hcell hfr HA hu1
  go_wp2_with fail
  refine (of2.out _ hu3).mono ?_
  rintro e w4 ⟨rfl, hx⟩
  have hu4 := hu3.trans hx
  clear hx hu3 of2
  cases hy : ((y0 : Int) == 0)
  all_goals
    rw [hy] at hyb
    go_wp2_with fail
    refine (c4.out _).mono ?_
    rintro e w5 ⟨rfl, hx⟩
    go_wp2_with fail
    go_ret
    exact ⟨rfl, hu4.trans hx⟩

end Go.Proofs.Ythgjjlllifcegaa
