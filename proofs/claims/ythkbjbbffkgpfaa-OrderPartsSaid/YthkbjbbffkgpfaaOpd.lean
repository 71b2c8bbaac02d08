/- The program's order: Order; what is asked of it. -/
import Derived.Test.YthkbjbbffkgpfaaOpc
namespace Go.Proofs.Ythkbjbbffkgpfaa
open Go.RowKit Go.Proofs.Ythkbjbbffkgpfaa.Ordr Go.Proofs.Ythkbjbbffkgpfaa.Stb

theorem us_map_get (l Q X : List Nat) (h : Q.map (byPlace l) = X) (k : Nat) (h1 : k < Q.length) (h2 : k < X.length) (h3 : Q[k] < l.length) : X[k] = l[Q[k]] := by
  subst h
  rw [List.getElem_map, byPlace_get h3]
theorem us_set2 (l : List Nat) (j z : Nat) : (us l).set j (.int .u32 (z : Int)) = us (l.set j z) := by
  unfold us
  rw [List.map_set]

theorem Pat.zoom {W w : World} {g N D : Nat} {P L S : List Nat} (h : Pat W g N D [] [] (P ++ (L ++ S)) w) : Pat W g N D P S L w :=
  ⟨by have := h.own; simpa using this, h.up, h.pos, by have := h.low; simpa using this⟩
theorem Pat.wide {W w : World} {g N D : Nat} {P L S : List Nat} (h : Pat W g N D P S L w) : Pat W g N D [] [] (P ++ (L ++ S)) w :=
  ⟨by have := h.own; simpa using this, h.up, h.pos, by have := h.low; simpa using this⟩
theorem rise_ok (C : Option Addr) (n dC b : Nat) (l : List Nat) (W : World) (h : Rd W C dC (ks (l.map clsOf))) (hn : (l.map clsOf).length = n) (hb : At W b (.slice C n dC)) :
    CmpOk 16 (.pointer (some ⟨b, 0, none⟩)) W n (fun x => clsOf (byPlace l x)) (fun x y => sg (clsOf (byPlace l x)) (clsOf (byPlace l y))) where
  enter := enters_of Try.func16 (by kernel_rfl) rfl
  call := fun x y w hx hy u => by
    have hl : l.length = n := by rw [← hn, List.length_map]
    have := rise_fn C n dC b x y (l.map clsOf) w (h.up u) hn.symm hx hy (hb.up u)
    rw [List.getElem_map, List.getElem_map, ← byPlace_get (by omega : x < l.length), ← byPlace_get (by omega : y < l.length)] at this
    exact this
  less := fun x y => sg_less _ _

/-- Behind the sort of the rows ahead of place k. -/
def PlI (W : World) (g n : Nat) (l : List Nat) (i : Value) (wr : World) : Prop :=
  ∃ k Q, i = .int .i64 ((k : Nat) : Int) ∧ k ≤ n + 1 ∧ Hid (PlOk clsOf l k Q) ∧ Hid (Pat W g n n [] [] Q wr)

set_option maxRecDepth 100000 in
set_option maxHeartbeats 3200000 in
theorem order_prog (A : Option Addr) (n d : Nat) (l : List Nat) (w : World) (h : Rd w A d (us l)) (hn : n = l.length) (hmax : n ≤ 1000000000) :
    Calls Try.prog 9 #[.slice A n d] w (Gives (ord clsOf l) w) := by
  have H := Lib.hid h
  have Hn := Lib.hid hn
  have hf := h.fit
  rw [us_len, ← hn] at hf
  have HC := Lib.hid (classes_prog A n d l w h hn hmax)
  have HXL := Lib.hid (show (l.map clsOf).length = n by rw [List.length_map, hn])
  clear h hn
  go_enter Try.func9, Try.ntmps9
  go_wp2_with fail
  refine HC.out.mono ?_
  rintro e w1 ⟨C, dC, rfl, hownC, hu1⟩
  rw [HXL.out] at hownC ⊢
  have HOC := Lib.hid hownC
  have HU1 := Lib.hid hu1
  clear hownC hu1
  obtain ⟨w3, hmk, hownP, hu3, _⟩ := made_ints (w1.alloc (.cells #[.slice C n dC] 28)) n hmax
  have HBOX := Lib.hid (show At (w1.alloc (.cells #[.slice C n dC] 28)) w1.heap.size (.slice C n dC) from At.new _ _ _)
  have HRD := Lib.hid (show Rd (w1.alloc (.cells #[.slice C n dC] 28)) C dC (ks (l.map clsOf)) from (own_read HOC.out).up ((Up.refl _).alloc _))
  have HU2 := Lib.hid (show Up w (w1.alloc (.cells #[.slice C n dC] 28)) from HU1.out.alloc _)
  clear HOC HU1 HC
  have HO := Lib.hid hownP
  clear hownP
  go_wp2_with fail
  clear hmk
  have hWg : (w1.alloc (.cells #[.slice C n dC] 28)).heap.size = w1.heap.size + 1 := by simp
  generalize w1.alloc (.cells #[.slice C n dC] 28) = W at *
  generalize w1.heap.size = b at *
  generalize b + 1 = g at *
  have HPOS := Lib.hid (Nat.le_of_eq hWg)
  have HO := Lib.hid (show w3.ownsRow W.heap.size 3 1 (.slice (some ⟨g, 0, none⟩) n n) n (ks (List.replicate n 0)) by rw [← hWg]; exact HO.out)
  clear hWg
  go_loopw [19] (fun i wr => ∃ k : Nat, k ≤ n ∧ i = .int .i64 (k : Int) ∧ Hid (wr.ownsRow W.heap.size 3 1 (.slice (some ⟨g, 0, none⟩) n n) n (ks ((List.range' 0 n).take k ++ List.replicate (n - k) 0))) ∧ Hid (Up W wr)) (fun i _ => n - (intOf i).toNat)
  case atStart => exact ⟨0, Nat.zero_le _, rfl, by rw [List.take_zero, List.nil_append, Nat.sub_zero]; exact HO, Lib.hid hu3⟩
  case round =>
    obtain ⟨k, hk, rfl, hown, hu⟩ := hrel
    clear HO hu3
    by_cases hlt : k < n
    · have hst := owk_bump hown.out k k
      have hlay := lay_nat (List.range' 0 n) n k (by simp; exact hlt) (by simp)
      rw [range_get n k hlt] at hlay
      rw [hlay] at hst
      have HST := Lib.hid hst
      have hfr : wr.frozen? ⟨g, k, none⟩ = false := hown.out.frozenAt k
      obtain ⟨vx, hcx⟩ : ∃ v, wr.cell? ⟨g, k, none⟩ = some v := by
        have hk2 : k < ((List.range' 0 n).take k ++ List.replicate (n - k) 0).length := by rw [List.length_append, List.length_take, List.length_range', List.length_replicate]; omega
        exact ⟨_, (hown.out.cellAt k (by omega)).trans (ks_get _ k hk2)⟩
      have HU := Lib.hid (Up.setCell hu.out HPOS.out k (.int .i64 (k : Int)))
      clear hown hst hlay hu
      go_wp2_with fail
      go_roundw
      case rel => exact ⟨k + 1, by omega, by go_num, HST, HU⟩
      case measure => simp [intOf]; omega
    · obtain rfl : k = n := by omega
      have hPat : Pat W g k k [] [] (List.range' 0 k) wr := by
        refine ⟨?_, hu.out, HPOS.out, fun x hx => by simpa using hx⟩
        have := hown.out
        rw [Nat.sub_self, List.replicate_zero, List.append_nil, List.take_of_length_le (by simp)] at this
        simpa using this
      have HP := Lib.hid hPat
      have HZ := Lib.hid (show PlOk clsOf l 0 (List.range' 0 k) by rw [Hn.out]; exact PlOk.zero clsOf l)
      clear hPat hown hu hlt hk
      go_wp2_with fail
      rename World => wo
      go_loopw [7] (fun i wr => PlI W g k l i wr) (fun i _ => k + 1 - (intOf i).toNat)
      case atStart => exact ⟨0, _, rfl, Nat.zero_le _, HZ, HP⟩
      case round =>
        obtain ⟨q, Q, rfl, hq, hPl, hPat⟩ := hrel
        clear HZ HP
        by_cases hlt : q < k
        · obtain ⟨m, hm⟩ : ∃ m, mks ((l.map clsOf).drop q) = m := ⟨_, rfl⟩
          obtain ⟨hle, P, L, S, rfl, hP, hL, hnext⟩ := hPl.out.step clsOf (by rw [← Hn.out]; exact hlt) hm
          rw [← Hn.out] at hle
          obtain ⟨to, hto⟩ : ∃ to, q + m = to := ⟨_, rfl⟩
          have hti : (q : Int) + (m : Int) = (to : Int) := by omega
          have hto1 : q ≤ to := by omega
          have hto2 : to ≤ k := by omega
          have hbox := (HBOX.out.up hPat.out.up).2
          obtain ⟨C', hslC, hrC⟩ := Rd.tailK (HRD.out.up hPat.out.up) k q HXL.out.symm (by omega)
          have cm := marks_prog C' (k - q) (dC - q) ((l.map clsOf).drop q) wr hrC (by rw [List.length_drop, HXL.out])
          rw [hm] at cm
          have CM := Lib.hid cm
          have hslP := cut_places g k q to hlt hto1 hto2
          rw [show to - q = m by omega] at hslP
          have CS := Lib.hid (sort_fn (rise_ok C k dC b l W HRD.out HXL.out HBOX.out) L q m (k - q) wr hPat.out.zoom hP.symm hL.symm hmax)
          rw [hto] at hnext
          have HX := Lib.hid hnext
          clear hPl hPat hm hP hL hnext hto hle hrC cm
          go_wp2_with fail
          refine CM.out.mono ?_
          rintro e w4 ⟨rfl, rfl⟩
          go_wp2_with fail
          refine CS.out.mono ?_
          rintro e w5 ⟨rfl, R, hs, ha, hp⟩
          have HN := Lib.hid (HX.out R hs ha)
          have HP2 := Lib.hid hp.wide
          clear hs ha hp HX
          go_wp2_with fail
          go_roundw
          case rel => exact ⟨to + 1, _, by go_num, by omega, HN, HP2⟩
          case measure => simp [intOf]; omega
        · have hfin := hPl.out.fin clsOf (by rw [← Hn.out]; omega)
          obtain ⟨X, hX⟩ : ∃ X, ord clsOf l = X := ⟨_, rfl⟩
          have hXl : X.length = k := by rw [← hX, ord_len, Hn.out]
          rw [hX] at hfin
          have HXE := Lib.hid hX
          have hQl : Q.length = k := by rw [← List.length_map (f := byPlace l), hfin, hXl]
          have HXG := Lib.hid (fun j (h1 : j < Q.length) (h2 : j < X.length) (h3 : Q[j] < l.length) => us_map_get l Q X hfin j h1 h2 h3)
          have HXLEN := Lib.hid hXl
          have HQ := Lib.hid hQl
          have HLOW := Lib.hid (fun j (h : j < Q.length) => hPat.out.is (List.getElem_mem h))
          have HCELL := Lib.hid (fun w' (u : Up wr w') j (h : j < Q.length) => show w'.cell? ⟨g, j, none⟩ = some (.int .i64 (Q[j] : Int)) from by
            have h1 := (hPat.out.go u).own
            rw [h1.cellAt j (by have := HQ.out; omega)]
            simpa using ks_get Q j h)
          obtain ⟨w6, hmk, hown, hu6⟩ := made_nums wr w.heap.size k (Nat.le_trans HU2.out.size hPat.out.up.size) hmax
          have HO := Lib.hid hown
          have HU := Lib.hid (HU2.out.trans hPat.out.up)
          clear hfin hX hXl hQl hown hPl hPat
          go_wp2_with fail
          clear hmk
          generalize wr = wA at *
          generalize hh0 : wA.heap.size = h0 at *
          have HH0 := Lib.hid (Nat.le_of_eq hh0)
          clear hh0
          go_loopw [51] (fun i wr => ∃ j : Nat, j ≤ k ∧ i = .int .i64 (j : Int) ∧ Hid (wr.ownsRow w.heap.size 26 1 (.slice (some ⟨h0, 0, none⟩) k k) k (us (X.take j ++ List.replicate (k - j) 0))) ∧ Hid (Up wA wr)) (fun i _ => k - (intOf i).toNat)
          case atStart => exact ⟨0, Nat.zero_le _, rfl, by rw [List.take_zero, List.nil_append, Nat.sub_zero]; exact HO, Lib.hid hu6⟩
          case round =>
            obtain ⟨j, hj, rfl, hown, hu⟩ := hrel
            clear HO hu6
            by_cases hlt : j < k
            · have hjQ : j < Q.length := by rw [HQ.out]; exact hlt
              have hjX : j < X.length := by rw [HXLEN.out]; exact hlt
              have hpl : Q[j] < k := HLOW.out j hjQ
              have hpl2 : Q[j] < l.length := by rw [← Hn.out]; exact hpl
              obtain ⟨a, rfl, _⟩ := H.out.ad (by omega)
              have hc1 : wr.cell? ⟨g, j, none⟩ = some (.int .i64 (Q[j] : Int)) := HCELL.out wr hu.out j hjQ
              have hc2 : wr.cell? (a.add Q[j]) = some (.int .u32 (l[Q[j]] : Int)) := (H.out.up (HU.out.trans hu.out)).cell a rfl _ _ (us_get l _ hpl2)
              have hst := (hown.out.stored j (.int .u32 (X[j] : Int))).1
              rw [us_set2, lay_nat X k j hjX HXLEN.out, HXG.out j hjQ hjX hpl2] at hst
              have HST := Lib.hid hst
              have hfr : wr.frozen? ⟨h0, j, none⟩ = false := hown.out.frozenAt j
              obtain ⟨vx, hcx⟩ : ∃ v, wr.cell? ⟨h0, j, none⟩ = some v := by
                have hk2 : j < (X.take j ++ List.replicate (k - j) 0).length := by rw [List.length_append, List.length_take, List.length_replicate]; omega
                exact ⟨_, (hown.out.cellAt j (by omega)).trans (us_get _ j hk2)⟩
              have HU3 := Lib.hid (Up.setCell hu.out HH0.out j (.int .u32 (l[Q[j]] : Int)))
              clear hown hst hu HXG
              generalize l[Q[j]] = v at *
              generalize Q[j] = pl at *
              go_wp2_with fail
              go_roundw
              case rel => exact ⟨j + 1, by omega, by go_num, HST, HU3⟩
              case measure => simp [intOf]; omega
            · obtain rfl : j = k := by omega
              have hr := hown.out
              rw [Nat.sub_self, List.replicate_zero, List.append_nil, List.take_of_length_le (by rw [HXLEN.out]; omega)] at hr
              have HR := Lib.hid hr
              clear hr hown HXG
              go_wp2_with fail
              go_ret
              exact Gives.of (n := j) (by rw [HXE.out]; exact HXLEN.out.symm) (by rw [HXE.out]; exact HR.out) (HU.out.trans hu.out)

theorem order_ok : OrderOk where
  order := fun A n d l w h hn hmax _ => order_prog A n d l w h hn (by omega)
  is := fun A n d l w h hn hmax _ => isord_prog A n d l w h hn hmax
  classes := fun A n d l w h hn hmax _ => classes_prog A n d l w h hn (by omega)

end Go.Proofs.Ythkbjbbffkgpfaa
