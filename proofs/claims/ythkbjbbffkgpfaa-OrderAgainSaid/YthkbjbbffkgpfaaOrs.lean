/- The statements of stage 6: the same numbers in another order. -/
import Derived.Test.YthkbjbbffkgpfaaOrn
import Derived.BigQuiet
namespace Go.Proofs.Ythkbjbbffkgpfaa
open Go.RowKit Go.Proofs.Ythkbjbbffkgpfaa.Ordr

/-- Two lists that a call made, in blocks of their own. -/
structure Two (w : World) (base : Nat) (v1 : Value) (l1 : List Nat) (v2 : Value) (l2 : List Nat) : Prop where
  o1 : w.ownsRow base 26 1 v1 l1.length (us l1)
  o2 : w.ownsRow base 26 1 v2 l2.length (us l2)
  ne : v1.ownBlock = none ∨ v2.ownBlock = none ∨ v1.ownBlock ≠ v2.ownBlock
theorem Two.symm {w : World} {base : Nat} {v1 v2 : Value} {l1 l2 : List Nat} (h : Two w base v1 l1 v2 l2) : Two w base v2 l2 v1 l1 :=
  ⟨h.o2, h.o1, by rcases h.ne with h | h | h; exact .inr (.inl h); exact .inl h; exact .inr (.inr fun e => h e.symm)⟩
theorem Two.up {w w' : World} {base : Nat} {v1 v2 : Value} {l1 l2 : List Nat} (h : Two w base v1 l1 v2 l2) (u : Up w w') : Two w' base v1 l1 v2 l2 := ⟨own_up h.o1 u, own_up h.o2 u, h.ne⟩
theorem Two.start (w : World) (base : Nat) : Two w base (.slice none 0 0) [] (.slice none 0 0) [] := ⟨World.ownsRow_nil w base _ 1, World.ownsRow_nil w base _ 1, .inl rfl⟩
theorem Two.push {w0 w : World} {v1 v2 : Value} {l1 l2 : List Nat} (h : Two w w0.heap.size v1 l1 v2 l2) (hu : Up w0 w) (x : Nat) (hl : l1.length ≤ 100000) :
    ∃ v' w', (Builtin.append_ #[22, 22] 22 #[v1, .slice (some ⟨w.heap.size, 0, none⟩) 1 1]).run Try.prog (w.alloc (.cells #[.int .u32 (x : Int)] 26)) = .ok v' w' ∧ Two w' w0.heap.size v' (l1 ++ [x]) v2 l2 ∧ Up w0 w' := by
  obtain ⟨v', w', h1, h2, h3, h4⟩ := elU.app (m := 1) (news := [.int .u32 (x : Int)]) (w.alloc (.cells #[.int .u32 (x : Int)] 26)) 22 (h.o1.alloc _) (Rd.new (n := 1) w #[.int .u32 (x : Int)] 26 rfl rfl (by unfold maxLen; omega)) rfl (by simp [Value.oneCell']) (by omega) (by omega) (by have := hu.size; simp; omega)
  have hlow : ∀ k, v1.ownBlock = some k → w0.heap.size ≤ k := fun k e => (h.o1.lt k e).1
  refine ⟨v', w', h1, ⟨?_, ?_, ?_⟩, (hu.alloc _).own h3 hlow⟩
  · rw [List.length_append, us_append]; exact h2
  · refine (h.o2.alloc _).kept h3 ?_
    rcases h.ne with e | e | e
    · rw [e]; cases v2.ownBlock <;> simp
    · exact .inl e
    · exact .inr fun e' => e e'.symm
  · rcases h4 with e | e
    · rw [e]; exact h.ne
    · refine .inr ?_
      rw [e]
      cases hb : v2.ownBlock with
      | none => exact .inl rfl
      | some k =>
        refine .inr fun e' => ?_
        have := (h.o2.lt k hb).2
        injection e' with e'
        simp at e'
        omega

theorem filter_take (p : Nat → Bool) {l : List Nat} {k : Nat} (h : k < l.length) : (l.take (k + 1)).filter p = (l.take k).filter p ++ if p l[k] = true then [l[k]] else [] := by
  rw [List.take_succ_eq_append_getElem h, List.filter_append]
  congr 1
  rw [List.filter_cons, List.filter_nil]

set_option maxRecDepth 100000 in
set_option maxHeartbeats 1600000 in
theorem same_of6 (H : OrderOk) (A : Option Addr) (n d : Nat) (l : List Nat) (w : World) (hr : Rd w A d (us l)) (hn : n = l.length) (hl : ∀ c ∈ l, c < 4294967296) :
    Calls Try.prog 6 #[.slice A n d] w fun e w' => e = .returned (.bool true) ∧ Up w w' := by
  have c4 := Lib.hid (fun w => awake_6 H w)
  by_cases hb : 300 < n
  · clear H hr hn hl
    go_enter Try.func6, Try.ntmps6
    go_wp2_with fail
    refine (c4.out _).mono ?_
    rintro e w1 ⟨rfl, hu⟩
    go_wp2_with fail
    go_ret
    exact ⟨rfl, hu⟩
  have hol : n = (ord clsOf l).length := by rw [ord_len]; exact hn
  have hom : ∀ c ∈ ord clsOf l, c < 4294967296 := fun c hc => hl c ((ord_perm clsOf l).mem_iff.1 hc)
  have c1 := H.order A n d l w hr hn (by omega) hl
  unfold Gives at c1
  rw [← hol] at c1
  have C1 := Lib.hid c1
  have c2 := fun w' (u : Up w w') => H.classes A n d l w' (hr.up u) hn (by omega) hl
  unfold GivesK at c2
  rw [show (l.map clsOf).length = n from by rw [List.length_map]; exact hn.symm] at c2
  have C2 := Lib.hid c2
  have c3 := fun B e w' (h : Rd w' B e (us (ord clsOf l))) => H.classes B n e (ord clsOf l) w' h hol (by omega) hom
  unfold GivesK at c3
  rw [show ((ord clsOf l).map clsOf).length = n from by rw [List.length_map]; exact hol.symm] at c3
  have C3 := Lib.hid c3
  have R0 := Lib.hid hr
  have Hn := Lib.hid hn
  have Hol := Lib.hid hol
  have hAt := Lib.hid (fun i (h : i < l.length) (h2 : i < (ord clsOf l).length) => show (clsOf l[i] = 0 ∨ clsOf ((ord clsOf l)[i]) = 0) → (ord clsOf l)[i] = l[i] from fun hz => ord_at clsOf h hz)
  have hFl := Lib.hid (fun k => ord_filter clsOf k l)
  have hg1 := Lib.hid (fun i (h : i < l.length) => show (ks (l.map clsOf))[i]? = some (.int .i64 (clsOf l[i] : Int)) from by simp [ks, h])
  have hg2 := Lib.hid (fun i (h : i < (ord clsOf l).length) => show (ks ((ord clsOf l).map clsOf))[i]? = some (.int .i64 (clsOf ((ord clsOf l)[i]) : Int)) from by simp [ks, h])
  clear H c1 c2 c3 hr hn hol hom hl
  generalize ord clsOf l = O at *
  generalize hcls : clsOf = cls at *
  clear hcls
  go_enter Try.func6, Try.ntmps6
  go_wp2_with fail
  refine C1.out.mono ?_
  rintro e w1 ⟨B, d1, rfl, hO, hu1⟩
  have HO := Lib.hid hO
  clear hO C1
  go_wp2_with fail
  refine (C2.out _ hu1).mono ?_
  rintro e w2 ⟨B1, e1, rfl, hK1, hu2⟩
  have HK1 := Lib.hid hK1
  have c5 := Lib.hid (C3.out B d1 w2 (own_read (own_up HO.out hu2)))
  clear hK1 C2 C3
  go_wp2_with fail
  refine c5.out.mono ?_
  rintro e w3 ⟨B2, e2, rfl, hK2, hu3⟩
  have HK2 := Lib.hid hK2
  clear hK2 c5
  go_wp2_with fail
  have hu03 : Up w w3 := (hu1.trans hu2).trans hu3
  have HOr := Lib.hid (fun w' (u : Up w3 w') => own_up HO.out ((hu2.trans hu3).trans u))
  have HKr := Lib.hid (fun w' (u : Up w3 w') => own_up HK1.out (hu3.trans u))
  have HMr := Lib.hid (fun w' (u : Up w3 w') => own_up HK2.out u)
  have HR := Lib.hid (fun w' (u : Up w3 w') => R0.out.up (hu03.trans u))
  clear HO HK1 HK2 R0 hu1 hu2 hu3
  by_cases hn0 : n = 0
  · subst hn0
    go_loopw [6] (fun i wr => i = .int .i64 0 ∧ Up w3 wr) (fun i _ => 0)
    case atStart => exact ⟨rfl, Up.refl _⟩
    case round =>
      obtain ⟨rfl, hux⟩ := hrel
      go_wp2_with fail
      refine (c4.out _).mono ?_
      rintro e w4 ⟨rfl, hu4⟩
      go_wp2_with fail
      go_ret
      exact ⟨rfl, (hu03.trans hux).trans hu4⟩
  obtain ⟨a, rfl, _⟩ := (HR.out w3 (Up.refl _)).ad (by have := (HR.out w3 (Up.refl _)).fit; rw [us_len, ← Hn.out] at this; omega)
  obtain ⟨gb, rfl, -, -⟩ := own_addr (HOr.out w3 (Up.refl _)) (by omega)
  obtain ⟨g1, rfl, -, -⟩ := own_addr (HKr.out w3 (Up.refl _)) (by omega)
  obtain ⟨g2, rfl, -, -⟩ := own_addr (HMr.out w3 (Up.refl _)) (by omega)
  -- what is read at each place
  have rd := Lib.hid (fun (k : Nat) (hk : k < n) (hkl : k < l.length) (hko : k < O.length) w' (u : Up w3 w') =>
    show w'.cell? (a.add k) = some (.int .u32 (l[k] : Int)) ∧ w'.cell? ⟨gb, k, none⟩ = some (.int .u32 (O[k] : Int)) ∧ w'.cell? ⟨g1, k, none⟩ = some (.int .i64 (cls l[k] : Int)) ∧ w'.cell? ⟨g2, k, none⟩ = some (.int .i64 (cls O[k] : Int)) from
    ⟨(HR.out w' u).cell a rfl k _ (us_get l k hkl), ((HOr.out w' u).cellAt k (by omega)).trans (us_get O k hko), ((HKr.out w' u).cellAt k (by omega)).trans (hg1.out k hkl), ((HMr.out w' u).cellAt k (by omega)).trans (hg2.out k hko)⟩)
  clear HOr HKr HMr HR hg1 hg2
  go_loopw [6] (fun i wr => ∃ k : Nat, k ≤ n ∧ i = .int .i64 (k : Int) ∧ Up w3 wr) (fun i _ => n - (intOf i).toNat)
  case atStart => exact ⟨0, by omega, rfl, Up.refl _⟩
  case round =>
    obtain ⟨i, hi, rfl, hux⟩ := hrel
    by_cases hlt : i < n
    · have hil : i < l.length := by rw [← Hn.out]; exact hlt
      have hio : i < O.length := by rw [← Hol.out]; exact hlt
      have hFi := hFl.out (cls l[i])
      have hxy := hAt.out i hil hio
      have rdi := Lib.hid (rd.out i hlt hil hio)
      clear hAt hFl
      generalize l[i] = x at *
      generalize O[i] = y at *
      generalize hcx : cls x = c at *
      generalize hcy : cls y = cy at *
      have HFi := Lib.hid hFi
      clear hFi hcx hcy
      obtain ⟨hx1, hx2, hx3, hx4⟩ := rdi.out wr hux
      have hcase : ((c : Int) == 0) = true ∧ y = x ∨ ((c : Int) == 0) = false ∧ ((cy : Int) == 0) = true ∧ y = x ∨ ((c : Int) == 0) = false ∧ ((cy : Int) == 0) = false := by
        by_cases h1 : c = 0
        · exact .inl ⟨by simp [h1], hxy (.inl h1)⟩
        · by_cases h2 : cy = 0
          · exact .inr (.inl ⟨by simp; omega, by simp [h2], hxy (.inr h2)⟩)
          · exact .inr (.inr ⟨by simp; omega, by simp; omega⟩)
      clear hxy
      rcases hcase with ⟨hc1, rfl⟩ | ⟨hc1, hc2, rfl⟩ | ⟨hc1, hc2⟩
      all_goals
        go_wp2_with fail
        go_quiet (fail)
        go_wp2_with fail
        rename World => wo
        clear hx1 hx2 hx3 hx4
        go_loopw [7, 8, 9] (fun v1 v2 j wr => ∃ k : Nat, k ≤ n ∧ j = .int .i64 (k : Int) ∧ Hid (Two wr w3.heap.size v1 ((l.take k).filter (fun x => cls x == c)) v2 ((O.take k).filter (fun x => cls x == c))) ∧ Up w3 wr) (fun _ _ j _ => n - (intOf j).toNat)
        case atStart => exact ⟨0, by omega, rfl, Lib.hid (Two.start _ _), by first | exact hux | exact hux.drew | exact hux.drewN _⟩
        case round =>
          obtain ⟨k, hk, rfl, hT, huz⟩ := hrel
          by_cases hkn : k < n
          · have hkl : k < l.length := by rw [← Hn.out]; exact hkn
            have hko : k < O.length := by rw [← Hol.out]; exact hkn
            have hf1 := filter_take (fun x => cls x == c) hkl
            have hf2 := filter_take (fun x => cls x == c) hko
            have rdk := rd.out k hkn hkl hko
            generalize l[k] = x2 at *
            generalize O[k] = y2 at *
            obtain ⟨hk1, hk2, hk3, hk4⟩ := rdk wr huz
            obtain ⟨-, -, hi3, -⟩ := rdi.out wr huz
            have hb1l : ((l.take k).filter (fun x => cls x == c)).length ≤ 100000 := Nat.le_trans (List.length_filter_le _ _) (by rw [List.length_take]; omega)
            have hb2l : ((O.take k).filter (fun x => cls x == c)).length ≤ 100000 := Nat.le_trans (List.length_filter_le _ _) (by rw [List.length_take]; omega)
            have hd1 : cls x2 = c ∧ ((cls x2 : Int) == (c : Int)) = true ∨ cls x2 ≠ c ∧ ((cls x2 : Int) == (c : Int)) = false := by
              by_cases e : cls x2 = c
              · exact .inl ⟨e, by simp [e]⟩
              · exact .inr ⟨e, by simp; omega⟩
            have hd2 : cls y2 = c ∧ ((cls y2 : Int) == (c : Int)) = true ∨ cls y2 ≠ c ∧ ((cls y2 : Int) == (c : Int)) = false := by
              by_cases e : cls y2 = c
              · exact .inl ⟨e, by simp [e]⟩
              · exact .inr ⟨e, by simp; omega⟩
            rcases hd1 with ⟨e1, hq1⟩ | ⟨e1, hq1⟩
            · rw [if_pos (by simp [e1])] at hf1
              have HF1 := Lib.hid hf1
              have He1 := Lib.hid e1
              clear hf1 e1
              go_wp2_with fail
              go_quiet (fail)
              obtain ⟨va, wa, hap, hTa, hua⟩ := (hT.out.up ((Up.refl wr).drewN nq)).push (huz.drewN nq) x2 hb1l
              have HA := Lib.hid (show (Builtin.append_ #[22, 22] 22 #[u7, .slice (some ⟨wr.heap.size, 0, none⟩) 1 1]).run Try.prog ((wr.drewN nq).alloc (.cells #[.int .u32 (x2 : Int)] 26)) = .ok va wa from hap)
              have HT := Lib.hid hTa
              clear hap hTa
              obtain ⟨hk1, hk2, hk3, hk4⟩ := rdk wa hua
              obtain ⟨-, -, hi3, -⟩ := rdi.out wa hua
              go_wp2_with (at_builtin; refine wpList_app rfl _ _ _ rfl rfl rfl HA.out ?_)
              clear HA
              rcases hd2 with ⟨e2, hq2⟩ | ⟨e2, hq2⟩
              · rw [if_pos (by simp [e2])] at hf2
                have HF2 := Lib.hid hf2
                clear hf2 e2
                go_quiet (fail)
                obtain ⟨vb, wb, hap, hTb, hub⟩ := (HT.out.symm.up ((Up.refl wa).drewN nq)).push (hua.drewN nq) y2 hb2l
                have HA := Lib.hid (show (Builtin.append_ #[22, 22] 22 #[u8, .slice (some ⟨wa.heap.size, 0, none⟩) 1 1]).run Try.prog ((wa.drewN nq).alloc (.cells #[.int .u32 (y2 : Int)] 26)) = .ok vb wb from hap)
                have HT2 := Lib.hid hTb.symm
                clear hap hTb
                go_wp2_with (at_builtin; refine wpList_app rfl _ _ _ rfl rfl rfl HA.out ?_)
                go_roundw
                case rel => exact ⟨k + 1, by omega, by go_num, Lib.hid (by rw [HF1.out, HF2.out]; exact HT2.out), hub⟩
                case measure => simp [intOf]; omega
              · rw [if_neg (by simpa using e2), List.append_nil] at hf2
                have HF2 := Lib.hid hf2
                clear hf2 e2
                go_quiet (fail)
                go_wp2_with fail
                go_roundw
                case rel => exact ⟨k + 1, by omega, by go_num, Lib.hid (by rw [HF1.out, HF2.out]; exact HT.out.up ((Up.refl wa).drewN _)), hua.drewN _⟩
                case measure => simp [intOf]; omega
            · rw [if_neg (by simpa using e1), List.append_nil] at hf1
              have HF1 := Lib.hid hf1
              clear hf1 e1
              go_wp2_with fail
              go_quiet (fail)
              go_wp2_with fail
              have hTa := hT.out.up ((Up.refl wr).drewN nq)
              have hua := huz.drewN nq
              obtain ⟨wa, hwa⟩ : ∃ wa, wr.drewN nq = wa := ⟨_, rfl⟩
              rw [hwa] at hTa hua ⊢
              have HT := Lib.hid hTa
              clear hwa hTa
              obtain ⟨hk1, hk2, hk3, hk4⟩ := rdk wa hua
              obtain ⟨-, -, hi3, -⟩ := rdi.out wa hua
              rcases hd2 with ⟨e2, hq2⟩ | ⟨e2, hq2⟩
              · rw [if_pos (by simp [e2])] at hf2
                have HF2 := Lib.hid hf2
                clear hf2 e2
                go_quiet (fail)
                obtain ⟨vb, wb, hap, hTb, hub⟩ := (HT.out.symm.up ((Up.refl wa).drewN nq)).push (hua.drewN nq) y2 hb2l
                have HA := Lib.hid (show (Builtin.append_ #[22, 22] 22 #[u8, .slice (some ⟨wa.heap.size, 0, none⟩) 1 1]).run Try.prog ((wa.drewN nq).alloc (.cells #[.int .u32 (y2 : Int)] 26)) = .ok vb wb from hap)
                have HT2 := Lib.hid hTb.symm
                clear hap hTb
                go_wp2_with (at_builtin; refine wpList_app rfl _ _ _ rfl rfl rfl HA.out ?_)
                go_roundw
                case rel => exact ⟨k + 1, by omega, by go_num, Lib.hid (by rw [HF1.out, HF2.out]; exact HT2.out), hub⟩
                case measure => simp [intOf]; omega
              · rw [if_neg (by simpa using e2), List.append_nil] at hf2
                have HF2 := Lib.hid hf2
                clear hf2 e2
                go_quiet (fail)
                go_wp2_with fail
                go_roundw
                case rel => exact ⟨k + 1, by omega, by go_num, Lib.hid (by rw [HF1.out, HF2.out]; exact HT.out.up ((Up.refl wa).drewN _)), hua.drewN _⟩
                case measure => simp [intOf]; omega
          · have hT2 := hT.out
            have t1 : l.take k = l := List.take_of_length_le (by rw [← Hn.out]; omega)
            have t2 : O.take k = O := List.take_of_length_le (by rw [← Hol.out]; omega)
            rw [t1, t2, HFi.out] at hT2
            obtain ⟨A5, q5, rfl, hr5⟩ := own_rd hT2.o1
            obtain ⟨A6, q6, rfl, hr6⟩ := own_rd hT2.o2
            have hs := same_gen A5 A6 q5 q6 _ _ _ _ wr hr5 hr6 rfl rfl
            rw [decide_eq_true rfl] at hs
            have HS := Lib.hid hs
            clear hs hT hT2 t1 t2 hr5 hr6 HFi
            generalize (l.filter (fun x => cls x == c)).length = q at *
            go_wp2_with fail
            refine HS.out.mono ?_
            rintro e w4 ⟨rfl, hu4⟩
            go_wp2_with fail
            go_roundw
            case rel => exact ⟨i + 1, by omega, by go_num, huz.trans hu4⟩
            case measure => simp [intOf]; omega
    · go_wp2_with fail
      refine (c4.out _).mono ?_
      rintro e w4 ⟨rfl, hu4⟩
      go_wp2_with fail
      go_ret
      exact ⟨rfl, (hu03.trans hux).trans hu4⟩

end Go.Proofs.Ythkbjbbffkgpfaa
