/- The document's decompositions of lists. -/
import Derived.Test.YthdhlcafomhdbaaDoorDcr
namespace Go.Proofs.YthdhlcafomhdbaaDoor
open Go.RowKit

theorem flat_take (f : Nat → List Nat) {l : List Nat} {k : Nat} (hk : k < l.length) : (l.take (k + 1)).flatMap f = (l.take k).flatMap f ++ f l[k] := by
  rw [List.take_succ_eq_append_getElem hk, List.flatMap_append]; simp
theorem flat_full_len (l : List Nat) : (l.flatMap full).length ≤ 4 * l.length := by
  induction l with
  | nil => simp
  | cons c l ih =>
    rw [List.flatMap_cons, List.length_append, List.length_cons]
    have := full_len c
    omega

set_option maxRecDepth 100000 in
theorem list_ref5 (A : Option Addr) (n d : Nat) (l : List Nat) (w : World) (h : Rd w A d (us l)) (hn : n = l.length) (hmax : n ≤ 100000) :
    Calls Tryd.prog 14 #[.slice A n d] w (Gives (l.flatMap full) w) := by
  have c1 := Lib.hid full_ref5
  have HT := Lib.hid (fun k (hk : k < l.length) => flat_take full hk)
  have HL := Lib.hid (fun x => full_len x)
  have H := Lib.hid h
  have Hn := Lib.hid hn
  have hf := h.fit
  rw [us_len] at hf
  have hfn : n ≤ d := by omega
  clear h hn hf
  go_enter Tryd.func14, Tryd.ntmps14
  go_wp2_with fail
  go_loopw [3, 4] (fun v i wr => ∃ k m : Nat, k ≤ n ∧ i = .int .i64 (k : Int) ∧ m ≤ 4 * k ∧ Hid (m = ((l.take k).flatMap full).length) ∧ Hid (wr.ownsRow w.heap.size 22 1 v m (us ((l.take k).flatMap full))) ∧ Up w wr) (fun _ i _ => n - (intOf i).toNat)
  case atStart => exact ⟨0, 0, by omega, rfl, by omega, Lib.hid rfl, Lib.hid (World.ownsRow_nil w _ _ 1), Up.refl w⟩
  case round =>
    obtain ⟨k, m, hk, rfl, hm, HM, HO, hu⟩ := hrel
    by_cases hlt : k < n
    · have hkl : k < l.length := by rw [← Hn.out]; exact hlt
      obtain ⟨a, rfl, _⟩ := H.out.ad (by omega)
      have hcell : wr.cell? (a.add k) = some (.int .u32 (l[k] : Int)) := (H.out.up hu).cell a rfl k _ (us_get l k hkl)
      have HS := Lib.hid (HT.out k hkl)
      have C1 := c1.out l[k]
      have hF := HL.out l[k]
      generalize l[k] = x at *
      generalize full x = F at *
      generalize (l.take k).flatMap full = G at *
      go_wp2_with fail
      refine (C1 _).mono ?_
      rintro e w2 ⟨B, d2, rfl, hO2, hu2⟩
      have hown := own_up HO.out hu2
      have hrd := own_read hO2
      obtain ⟨v', w4, hap, hown4, hg, _⟩ := elU.app w2 23 hown hrd (us_len F).symm (one_us F) (by omega) (by omega) (Nat.le_trans hu.size hu2.size)
      have hu4 : Up w w4 := (hu.trans hu2).own hg (fun g hg => (hown.lt g hg).1)
      have HA := Lib.hid hap
      have HO4 := Lib.hid hown4
      clear hap hown4 hg hown hrd hO2 HO
      go_wp2_with (at_builtin; refine wpList_app rfl _ _ _ rfl rfl rfl HA.out ?_)
      go_roundw
      case rel => exact ⟨k + 1, m + F.length, by omega, by go_num, by omega, Lib.hid (by rw [HS.out, List.length_append, HM.out]), Lib.hid (by rw [HS.out, us_append]; exact HO4.out), hu4⟩
      case measure => simp [intOf]; omega
    · have e : l.take k = l := List.take_of_length_le (by rw [← Hn.out]; omega)
      rw [e] at HO HM
      clear e
      go_wp2_with fail
      go_ret
      exact Gives.of HM.out HO.out hu

end Go.Proofs.YthdhlcafomhdbaaDoor
