/- The program's order: the comparison, Is, Order. -/
import Derived.Test.YthkbjbbffkgpfaaOpb
import Derived.Test.YthkbjbbffkgpfaaSsj
import Derived.Test.YthkbjbbffkgpfaaOrx
namespace Go.Proofs.Ythkbjbbffkgpfaa
open Go.RowKit Go.Proofs.Ythkbjbbffkgpfaa.Ordr Go.Proofs.Ythkbjbbffkgpfaa.Stb

theorem nan_int (a : Int) (w : World) : Calls Try.prog 23 #[.int .i64 a] w fun e w' => e = .returned (.bool false) ∧ w = w' := by
  go_enter Try.func23, Try.ntmps23
  go_wp2
  go_ret
  exact ⟨ret_val (by simp), rfl⟩
def sg (a b : Nat) : Int := if a < b then -1 else if b < a then 1 else 0
theorem sg_less (a b : Nat) : sg a b < 0 ↔ a < b := by
  unfold sg
  split
  · rename_i h; simp [h]
  · rename_i h
    split <;> simp [h]
theorem compare_int (a b : Nat) (w : World) : Calls Try.prog 17 #[.int .i64 (a : Int), .int .i64 (b : Int)] w fun e w' => e = .returned (.int .i64 (sg a b)) ∧ w = w' := by
  unfold sg
  by_cases h1 : a < b
  · rw [if_pos h1]
    go_enter Try.func17, Try.ntmps17
    go_wp2_with fail
    refine (nan_int _ _).mono ?_
    rintro e w1 ⟨rfl, rfl⟩
    go_wp2_with fail
    refine (nan_int _ _).mono ?_
    rintro e w1 ⟨rfl, rfl⟩
    go_wp2_with fail
    go_ret
    exact ⟨rfl, rfl⟩
  · rw [if_neg h1]
    by_cases h2 : b < a
    · rw [if_pos h2]
      go_enter Try.func17, Try.ntmps17
      go_wp2_with fail
      refine (nan_int _ _).mono ?_
      rintro e w1 ⟨rfl, rfl⟩
      go_wp2_with fail
      refine (nan_int _ _).mono ?_
      rintro e w1 ⟨rfl, rfl⟩
      go_wp2_with fail
      go_ret
      exact ⟨rfl, rfl⟩
    · rw [if_neg h2]
      go_enter Try.func17, Try.ntmps17
      go_wp2_with fail
      refine (nan_int _ _).mono ?_
      rintro e w1 ⟨rfl, rfl⟩
      go_wp2_with fail
      refine (nan_int _ _).mono ?_
      rintro e w1 ⟨rfl, rfl⟩
      go_wp2_with fail
      go_ret
      exact ⟨rfl, rfl⟩

set_option maxRecDepth 100000 in
theorem rise_fn (C : Option Addr) (n dC b x y : Nat) (X : List Nat) (w : World) (h : Rd w C dC (ks X)) (hn : n = X.length) (hx : x < n) (hy : y < n) (hb : At w b (.slice C n dC)) :
    Calls Try.prog 16 #[.int .i64 (x : Int), .int .i64 (y : Int), .pointer (some ⟨b, 0, none⟩)] w fun e w' => e = .returned (.int .i64 (sg (X[x]'(by omega)) (X[y]'(by omega)))) ∧ Up w w' := by
  obtain ⟨a, rfl, _⟩ := h.ad (by have := h.fit; rw [ks_len] at this; omega)
  have hc1 := Lib.hid (fun w' (u : Up w w') => And.intro (hb.up u).2 (And.intro ((h.up u).cell a rfl x _ (ks_get X x (by omega))) ((h.up u).cell a rfl y _ (ks_get X y (by omega)))))
  have HC := Lib.hid compare_int
  clear h hb
  generalize X[x] = p at *
  generalize X[y] = q at *
  clear hn
  go_enter Try.func16, Try.ntmps16
  go_wp2_with fail
  refine wp_region_pi [(0, false), (1, false), (2, false), (3, false), (4, false), (5, false), (6, false), (7, false), (8, true), (9, false)] (by kernel_rfl) (by kernel_rfl) (fun _ _ d _ _ h => by cases d <;> exact h) ?_
  iterate 8 (((with_reducible apply pi_take); (focus exact rfl); (focus exact rfl); (focus (intro w' hu; obtain ⟨k1, k2, k3⟩ := hc1.out w' (Up.of_drew hu); go_simp; try with_reducible rfl; done))); (simp only [Act.put, List.setIfInBounds_toArray, List.set_cons_succ, List.set_cons_zero]))
  refine pi_make rfl rfl (fun K hK => ?_)
  go_simp
  refine (HC.out p q _).mono ?_
  rintro e w2 ⟨rfl, rfl⟩
  refine hK.out _ _ (Up.refl _) ?_
  clear hK K
  iterate 1 (((with_reducible apply pi_take); (focus exact rfl); (focus exact rfl); (focus (intro w' hu; go_simp; try with_reducible rfl; done))); (simp only [Act.put, List.setIfInBounds_toArray, List.set_cons_succ, List.set_cons_zero]))
  refine pi_done ?_
  go_wp2_with fail
  go_ret
  exact ⟨rfl, (Up.refl w).drew⟩

set_option maxRecDepth 100000 in
set_option maxHeartbeats 1000000 in
theorem isord_prog (A : Option Addr) (n d : Nat) (l : List Nat) (w : World) (h : Rd w A d (us l)) (hn : n = l.length) (hmax : n ≤ 100000) :
    Calls Try.prog 14 #[.slice A n d] w fun e w' => e = .returned (.bool (ordB clsOf l)) ∧ Up w w' := by
  have HC := Lib.hid class_prog
  have H := Lib.hid h
  have Hn := Lib.hid hn
  have hf := h.fit
  rw [us_len, ← hn] at hf
  have HS := Lib.hid (fun i (hi : i < l.length) => is_step clsOf hi)
  have HG := Lib.hid (fun i (hi : i < l.length) => byPlace_get hi)
  have HL := Lib.hid (fun i (hi : ordB clsOf (l.take i) = false) => show ordB clsOf l = false from by
    rw [Bool.eq_false_iff] at hi ⊢
    intro e
    rw [← List.take_append_drop i l] at e
    exact hi (ordB_left clsOf e))
  clear h hn
  generalize hcls : clsOf = cls at *
  clear hcls
  go_enter Try.func14, Try.ntmps14
  go_wp2_with fail
  go_loopw [3, 9] (fun a i wr => ∃ k p : Nat, k ≤ n ∧ a = .int .i64 (p : Int) ∧ i = .int .i64 (k : Int) ∧ Hid (p = ahead cls l k) ∧ Hid (ordB cls (l.take k) = true) ∧ Up w wr) (fun _ i _ => n - (intOf i).toNat)
  case atStart => exact ⟨0, 0, Nat.zero_le _, rfl, rfl, Lib.hid rfl, Lib.hid rfl, Up.refl w⟩
  case round =>
    obtain ⟨k, p, hk, rfl, rfl, HP, HI, hu⟩ := hrel
    by_cases hlt : k < n
    · have hkl : k < l.length := by rw [← Hn.out]; exact hlt
      obtain ⟨a, rfl, _⟩ := H.out.ad (by omega)
      have hcell : wr.cell? (a.add k) = some (.int .u32 (l[k] : Int)) := (H.out.up hu).cell a rfl k _ (us_get l k hkl)
      have hS := HS.out k hkl
      have hP2 : ahead cls l (k + 1) = cls l[k] := by show cls (byPlace l k) = _; rw [HG.out k hkl]
      have HN := Lib.hid (HL.out (k + 1))
      rw [HI.out, Bool.and_true, ← HP.out] at hS
      have HSx := Lib.hid hS
      have HP2 := Lib.hid hP2
      have HC1 := Lib.hid (HC.out l[k])
      clear HS HL hS HG hP2 HP
      generalize l[k] = x at *
      generalize cls x = c at *
      by_cases hc0 : c = 0
      · have hcb : ((c : Int) != 0) = false := by simp [hc0]
        have HB := Lib.hid (show ordB cls (l.take (k + 1)) = true by rw [HSx.out, hc0]; rfl)
        clear HSx
        go_wp2_with fail
        refine (HC1.out _).mono ?_
        rintro e w2 ⟨rfl, hu2⟩
        go_wp2_with fail
        go_roundw
        case rel => exact ⟨k + 1, c, by omega, by rw [hc0]; rfl, by go_num, Lib.hid HP2.out.symm, HB, hu.trans hu2⟩
        case measure => simp [intOf]; omega
      · have hcb : ((c : Int) != 0) = true := by simp; omega
        by_cases hle : p ≤ c
        · have hcl : decide ((c : Int) < (p : Int)) = false := decide_eq_false (by omega)
          have HB := Lib.hid (show ordB cls (l.take (k + 1)) = true by rw [HSx.out, decide_eq_true hle, Bool.or_true])
          clear HSx
          go_wp2_with fail
          refine (HC1.out _).mono ?_
          rintro e w2 ⟨rfl, hu2⟩
          go_wp2_with fail
          go_roundw
          case rel => exact ⟨k + 1, c, by omega, rfl, by go_num, Lib.hid HP2.out.symm, HB, hu.trans hu2⟩
          case measure => simp [intOf]; omega
        · have hcl : decide ((c : Int) < (p : Int)) = true := decide_eq_true (by omega)
          have HB := Lib.hid (show ordB cls l = false from HN.out (by rw [HSx.out, decide_eq_false hle, Bool.or_false]; rw [beq_eq_false_iff_ne]; exact hc0))
          clear HSx HN
          go_wp2_with fail
          refine (HC1.out _).mono ?_
          rintro e w2 ⟨rfl, hu2⟩
          go_wp2_with fail
          go_ret
          exact ⟨by rw [HB.out]; rfl, hu.trans hu2⟩
    · have e : l.take k = l := List.take_of_length_le (by rw [← Hn.out]; omega)
      have hB := HI.out
      rw [e] at hB
      have HB := Lib.hid hB
      clear e hB HI HS HL HP HG
      go_wp2_with fail
      go_ret
      exact ⟨by rw [HB.out]; rfl, hu⟩

theorem szK (w : World) : (sizeOf (Try.prog.elem 28)).run Try.prog w = .ok 1 w := by kernel_rfl
/-- 'l[k:]' of whole numbers. -/
theorem Rd.tailK {w : World} {A : Option Addr} {c : Nat} {l : List Nat} (h : Rd w A c (ks l)) (n k : Nat) (hn : n = l.length) (hk : k ≤ n) :
    ∃ A', (∀ w', (Instr.slice 28 (.slice A n c) (some (.int .i64 k)) none none).run Try.prog w' = .ok (.slice A' (n - k) (c - k)) w') ∧ Rd w A' (c - k) (ks (l.drop k)) := by
  have hf := h.fit
  rw [ks_len] at hf
  refine ⟨if c = k then A else A.map (·.add (k * 1)), fun w' => ?_, ?_⟩
  · rw [run_slice_l w' 28 A n c uKe .i64 k (by omega) (by omega), szK]
    simp [sliced]
  · have := h.sub (lo := k) (hi := n) (m := c) hk (by rw [ks_len]; omega) (by omega) (by omega)
    rw [ks_drop, List.take_of_length_le (by rw [ks_len, List.length_drop]; omega)] at this
    simpa using this
theorem cut_places (g n k to : Nat) (h1 : k < n) (h2 : k ≤ to) (h3 : to ≤ n) (w : World) : (Instr.slice 28 (.slice (some ⟨g, 0, none⟩) n n) (some (.int .i64 (k : Int))) (some (.int .i64 (to : Int))) none).run Try.prog w = .ok (.slice (some ⟨g, k, none⟩) (to - k) (n - k)) w := by
  rw [run_slice_lh w 28 _ n n uKe .i64 .i64 k to (by omega) (by omega) (by omega), szK]
  have hadd : (⟨g, 0, none⟩ : Addr).add k = ⟨g, k, none⟩ := by unfold Addr.add; split <;> simp_all
  have : n ≠ k := by omega
  simp [sliced, hadd, this]

theorem range_get (n k : Nat) (h : k < n) : (List.range' 0 n)[k]'(by simp; exact h) = k := by simp

end Go.Proofs.Ythkbjbbffkgpfaa
