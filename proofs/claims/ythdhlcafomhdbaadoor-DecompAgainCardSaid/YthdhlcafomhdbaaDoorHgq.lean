/- Syllables, plain: what is put is split so, and the other way round; one behind another; what is joined. -/
import Derived.Test.YthdhlcafomhdbaaDoorHgp
namespace Go.Proofs.YthdhlcafomhdbaaDoor

theorem spl_L {c : Nat} (h : isS c = true) : splL c = 4352 + (c - 44032) / 28 / 21 := by unfold splL; rw [if_pos h]
theorem spl_V {c : Nat} (h : isS c = true) : splV c = 4449 + (c - 44032) / 28 % 21 := by unfold splV; rw [if_pos h]
theorem spl_T {c : Nat} (h : isS c = true) : splT c = if (c - 44032) % 28 = 0 then 0 else 4519 + (c - 44032) % 28 := by unfold splT; rw [if_pos h]
theorem spl_ok {c : Nat} (h : isS c = true) : putOk (splL c) (splV c) (splT c) = true := by
  rw [putOk_iff, spl_L h, spl_V h, spl_T h]
  have := (isS_iff c).1 h
  split <;> omega
theorem spl_ok0 {c : Nat} (h : isS c = true) : putOk (splL c) (splV c) 0 = true := by
  rw [putOk_iff, spl_L h, spl_V h]
  have := (isS_iff c).1 h
  omega
theorem put_val {l v t : Nat} (h : putOk l v t = true) : putC l v t = 44032 + (21 * (l - 4352) + (v - 4449)) * 28 + (if t = 0 then 0 else t - 4519) := by unfold putC; rw [if_pos h]
theorem put_bad {l v t : Nat} (h : putOk l v t = false) : putC l v t = 0 := by unfold putC; rw [if_neg (by rw [h]; decide)]
theorem putE_yes {l v t : Nat} (h : putOk l v t = true) : putE l v t = 0 := by unfold putE; rw [if_pos h]
theorem putE_no {l v t : Nat} (h : putOk l v t = false) : putE l v t = 2 := by unfold putE; rw [if_neg (by rw [h]; decide)]
theorem put_spl {c : Nat} (h : isS c = true) : putC (splL c) (splV c) (splT c) = c := by
  rw [put_val (spl_ok h), spl_L h, spl_V h, spl_T h]
  have := (isS_iff c).1 h
  by_cases h0 : (c - 44032) % 28 = 0
  · rw [if_pos h0, if_pos rfl]; omega
  · rw [if_neg h0, if_neg (by omega)]; omega
theorem isS_put {l v t : Nat} (h : putOk l v t = true) : isS (putC l v t) = true := by
  rw [isS_iff, put_val h]
  have := (putOk_iff l v t).1 h
  split <;> omega
theorem mod_put {l v t : Nat} (h : putOk l v t = true) : (putC l v t - 44032) % 28 = (if t = 0 then 0 else t - 4519) ∧ (putC l v t - 44032) / 28 = 21 * (l - 4352) + (v - 4449) := by
  rw [put_val h]
  have := (putOk_iff l v t).1 h
  split <;> omega
theorem splL_put {l v t : Nat} (h : putOk l v t = true) : splL (putC l v t) = l := by
  have := (putOk_iff l v t).1 h
  rw [spl_L (isS_put h), (mod_put h).2]
  omega
theorem splV_put {l v t : Nat} (h : putOk l v t = true) : splV (putC l v t) = v := by
  have := (putOk_iff l v t).1 h
  rw [spl_V (isS_put h), (mod_put h).2]
  omega
theorem splT_put {l v t : Nat} (h : putOk l v t = true) : splT (putC l v t) = t := by
  have := (putOk_iff l v t).1 h
  rw [spl_T (isS_put h), (mod_put h).1]
  by_cases h0 : t = 0
  · rw [if_pos h0, if_pos rfl, h0]
  · rw [if_neg h0, if_neg (by omega)]; omega
theorem putOk_0 {l v t : Nat} (h : putOk l v t = true) : putOk l v 0 = true := by
  rw [putOk_iff] at h ⊢
  exact ⟨h.1, h.2.1, .inl rfl⟩
theorem putOk_lv {l v t : Nat} (h : putOk l v t = true) : lv l v = true := by
  rw [putOk_iff] at h
  rw [lv_iff]
  exact ⟨h.1, h.2.1⟩
theorem join_lv {a b : Nat} (h : lv a b = true) : joinC a b = putC a b 0 ∧ joinOk a b = true := by
  unfold joinC joinOk
  rw [if_pos h, h]
  exact ⟨rfl, rfl⟩
theorem lv_put {a b : Nat} (h : lv a b = true) : putOk a b 0 = true := by
  rw [putOk_iff]
  rw [lv_iff] at h
  exact ⟨h.1, h.2, .inl rfl⟩
theorem not_lv {a b : Nat} (h : isS a = true) : ¬ lv a b = true := by
  rw [lv_iff]
  rw [isS_iff] at h
  omega
theorem join_lvt {a b : Nat} (h : lvt a b = true) : joinC a b = putC (splL a) (splV a) b ∧ joinOk a b = true := by
  have hs : isS a = true := (isS_iff a).2 ((lvt_iff a b).1 h).1
  unfold joinC joinOk
  rw [if_neg (not_lv hs), if_pos h, h]
  exact ⟨rfl, by simp⟩
theorem lvt_put {a b : Nat} (h : lvt a b = true) : putOk (splL a) (splV a) b = true := by
  obtain ⟨h1, h2, h3⟩ := (lvt_iff a b).1 h
  have hs : isS a = true := (isS_iff a).2 h1
  rw [putOk_iff, spl_L hs, spl_V hs]
  omega
/-- A syllable is joined of what it is split into: its first two. -/
theorem join_spl {c : Nat} (h : isS c = true) : joinC (splL c) (splV c) = putC (splL c) (splV c) 0 ∧ joinOk (splL c) (splV c) = true := join_lv (putOk_lv (spl_ok h))
/-- .. and these with its third. -/
theorem join_spl3 {c : Nat} (h : isS c = true) (ht : splT c ≠ 0) : joinC (putC (splL c) (splV c) 0) (splT c) = c ∧ joinOk (putC (splL c) (splV c) 0) (splT c) = true := by
  have h0 := spl_ok0 h
  have hk := spl_ok h
  have hl : lvt (putC (splL c) (splV c) 0) (splT c) = true := by
    unfold lvt
    have : isT (splT c) = true := by rw [isT_iff]; have := (putOk_iff _ _ _).1 hk; omega
    rw [isS_put h0, splT_put h0, this]; rfl
  have hj := join_lvt hl
  rw [splL_put h0, splV_put h0, put_spl h] at hj
  exact hj
/-- What is not joined is 0. -/
theorem join_no {a b : Nat} (h : joinOk a b = false) : joinC a b = 0 := by
  unfold joinOk at h
  rw [Bool.or_eq_false_iff] at h
  unfold joinC
  rw [if_neg (by rw [h.1]; decide), if_neg (by rw [h.2]; decide)]
/-- What is joined is a syllable, of which the two are its beginning. -/
theorem join_only {a b : Nat} (h : joinOk a b = true) : isS (joinC a b) = true ∧
    (splT (joinC a b) = 0 → splL (joinC a b) = a ∧ splV (joinC a b) = b) ∧
    (splT (joinC a b) ≠ 0 → putOk (splL (joinC a b)) (splV (joinC a b)) 0 = true ∧ putC (splL (joinC a b)) (splV (joinC a b)) 0 = a ∧ splT (joinC a b) = b) := by
  unfold joinOk at h
  rw [Bool.or_eq_true] at h
  by_cases h1 : lv a b = true
  · obtain ⟨e, _⟩ := join_lv h1
    have hp := lv_put h1
    rw [e, splL_put hp, splV_put hp, splT_put hp]
    exact ⟨isS_put hp, fun _ => ⟨rfl, rfl⟩, fun h => absurd rfl h⟩
  · have h2 : lvt a b = true := by rcases h with h | h; exact absurd h h1; exact h
    obtain ⟨e, _⟩ := join_lvt h2
    have hp := lvt_put h2
    obtain ⟨g1, g2, g3⟩ := (lvt_iff a b).1 h2
    have hs : isS a = true := (isS_iff a).2 g1
    rw [e, splL_put hp, splV_put hp, splT_put hp]
    refine ⟨isS_put hp, fun h => by omega, fun _ => ⟨spl_ok0 hs, ?_, rfl⟩⟩
    have := put_spl hs
    rwa [(splT_zero a hs).2 g2] at this

/-- One syllable behind another. -/
theorem spl_next {c : Nat} (h1 : 44032 ≤ c) (h2 : c < 55203) : isS c = true ∧ isS (c + 1) = true ∧
    (splT c = 0 → splL (c + 1) = splL c ∧ splV (c + 1) = splV c ∧ splT (c + 1) = 4520) ∧
    (splT c ≠ 0 → splT c < 4546 → splL (c + 1) = splL c ∧ splV (c + 1) = splV c ∧ splT (c + 1) = splT c + 1) ∧
    (splT c ≠ 0 → ¬ splT c < 4546 → splV c < 4469 → splL (c + 1) = splL c ∧ splV (c + 1) = splV c + 1 ∧ splT (c + 1) = 0) ∧
    (splT c ≠ 0 → ¬ splT c < 4546 → ¬ splV c < 4469 → splL (c + 1) = splL c + 1 ∧ splV (c + 1) = 4449 ∧ splT (c + 1) = 0) := by
  have s1 : isS c = true := (isS_iff c).2 ⟨h1, by omega⟩
  have s2 : isS (c + 1) = true := (isS_iff _).2 ⟨by omega, by omega⟩
  refine ⟨s1, s2, ?_⟩
  rw [spl_L s1, spl_V s1, spl_T s1, spl_L s2, spl_V s2, spl_T s2]
  by_cases a : (c - 44032) % 28 = 0
  · rw [if_pos a, if_neg (by omega)]
    exact ⟨fun _ => by omega, fun h => absurd rfl h, fun h => absurd rfl h, fun h => absurd rfl h⟩
  · rw [if_neg a]
    by_cases b : (c + 1 - 44032) % 28 = 0
    · rw [if_pos b]
      exact ⟨fun h => by omega, fun _ h => by omega, fun _ _ h => by omega, fun _ _ h => by omega⟩
    · rw [if_neg b]
      exact ⟨fun h => by omega, fun _ h => by omega, fun _ h => by omega, fun _ h => by omega⟩

theorem spl_bounds (c : Nat) : splL c ≤ 4370 ∧ splV c ≤ 4469 ∧ splT c ≤ 4546 := by
  by_cases h : isS c = true
  · have := (putOk_iff _ _ _).1 (spl_ok h); omega
  · unfold splL splV splT
    rw [if_neg h, if_neg h, if_neg h]
    omega
end Go.Proofs.YthdhlcafomhdbaaDoor
