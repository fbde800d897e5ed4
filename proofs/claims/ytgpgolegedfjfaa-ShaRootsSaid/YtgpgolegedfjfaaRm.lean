/- A root is the greatest number of which the square is not above: the mathematics of it. -/
import Derived.Test.YtgpgolegedfjfaaBp
namespace Go.Proofs.Ytgpgolegedfjfaa

/-- The number that words stand for, the low one first. -/
def vl : List UInt64 → Nat
  | [] => 0
  | x :: l => x.toNat + 18446744073709551616 * vl l
/-- 2^64, k times. -/
def W (k : Nat) : Nat := 18446744073709551616 ^ k
theorem W_succ (k : Nat) : W (k + 1) = W k * 18446744073709551616 := Nat.pow_succ ..
theorem W_add (i j : Nat) : W (i + j) = W i * W j := Nat.pow_add ..
theorem W_pos (k : Nat) : 0 < W k := Nat.pow_pos (by decide)

theorem vl_set (s : UInt64) : ∀ (l : List UInt64) (k : Nat), k < l.length → vl (l.set k s) + (l.getD k 0).toNat * W k = vl l + s.toNat * W k
  | [], _, h => absurd h (by simp)
  | x :: l, 0, _ => by simp [vl, W]; omega
  | x :: l, k + 1, h => by
    have ih := vl_set s l k (by simpa using h)
    simp only [List.set_cons_succ, vl, List.getD_cons_succ]
    rw [W_succ]
    have e1 : (l.getD k 0).toNat * (W k * 18446744073709551616) = 18446744073709551616 * ((l.getD k 0).toNat * W k) := by rw [← Nat.mul_assoc, Nat.mul_comm]
    have e2 : s.toNat * (W k * 18446744073709551616) = 18446744073709551616 * (s.toNat * W k) := by rw [← Nat.mul_assoc, Nat.mul_comm]
    rw [e1, e2]
    omega
theorem vl_lt : ∀ (l : List UInt64), vl l < W l.length
  | [] => by decide
  | x :: l => by
    have ih := vl_lt l
    have hx := x.toNat_lt
    simp only [vl, List.length_cons, W_succ]
    generalize W l.length = P at ih ⊢
    omega
theorem vl_split : ∀ (l : List UInt64) (j : Nat), vl l = vl (l.take j) + W j * vl (l.drop j)
  | l, 0 => by simp [vl, W]
  | [], j + 1 => by simp [vl]
  | x :: l, j + 1 => by
    have ih := vl_split l j
    simp only [vl, List.take_succ_cons, List.drop_succ_cons, W_succ]
    have e : W j * 18446744073709551616 * vl (l.drop j) = 18446744073709551616 * (W j * vl (l.drop j)) := by rw [Nat.mul_comm (W j), Nat.mul_assoc]
    rw [e]
    omega
theorem vl_take_succ (l : List UInt64) (j : Nat) (h : j < l.length) : vl (l.take (j + 1)) = vl (l.take j) + (l.getD j 0).toNat * W j := by
  have h1 := vl_split (l.take (j + 1)) j
  rw [List.take_take, Nat.min_eq_left (by omega), List.drop_take, show j + 1 - j = 1 from by omega, List.drop_eq_getElem_cons h, List.take_succ_cons, List.take_zero] at h1
  rw [h1, List.getD_eq_getElem?_getD, List.getElem?_eq_getElem h]
  simp only [vl, Option.getD_some]
  rw [Nat.mul_comm (W j)]
  simp
theorem mac_val (o a b c : UInt64) : (mac o a b c).1.toNat + 18446744073709551616 * (mac o a b c).2.toNat = o.toNat + a.toNat * b.toNat + c.toNat := by
  have ha := a.toNat_lt
  have hb := b.toNat_lt
  have hc := c.toNat_lt
  have ho := o.toNat_lt
  have hm : a.toNat * b.toNat ≤ 18446744073709551615 * 18446744073709551615 := Nat.mul_le_mul (by omega) (by omega)
  unfold mac
  generalize a.toNat * b.toNat = m at hm ⊢
  simp only
  rw [toNat_of (by omega), toNat_of (by omega)]
  omega
theorem row_val (a : UInt64) (b out : List UInt64) (i : Nat) (hb : b.length = 4) (ho : out.length = 4) : ∀ j, i + j ≤ 4 →
    vl (rowT a b out i j).1 + (rowT a b out i j).2.toNat * W (i + j) = vl out + a.toNat * (W i * vl (b.take j))
  | 0, _ => by simp [rowT, vl]
  | j + 1, hj => by
    have ih := row_val a b out i hb ho j (by omega)
    have hl := rowT_length a b out i j
    rw [ho] at hl
    simp only [rowT]
    generalize rowT a b out i j = r at ih hl ⊢
    obtain ⟨o', c⟩ := r
    simp only at ih hl ⊢
    have hm := mac_val (o'.getD (i + j) 0) a (b.getD j 0) c
    have hs := vl_set (mac (o'.getD (i + j) 0) a (b.getD j 0) c).1 o' (i + j) (by omega)
    generalize mac (o'.getD (i + j) 0) a (b.getD j 0) c = s at hm hs ⊢
    obtain ⟨s1, s2⟩ := s
    simp only at hm hs ⊢
    rw [vl_take_succ b j (by omega), show i + (j + 1) = (i + j) + 1 from rfl, W_succ]
    generalize o'.getD (i + j) 0 = o at hm hs
    generalize b.getD j 0 = bj at hm ⊢
    have e0 := congrArg (· * W (i + j)) hm
    simp only [Nat.add_mul] at e0
    have e1 : a.toNat * (W i * (vl (b.take j) + bj.toNat * W j)) = a.toNat * (W i * vl (b.take j)) + a.toNat * bj.toNat * W (i + j) := by
      rw [W_add, Nat.mul_add, Nat.mul_add, Nat.mul_assoc a.toNat bj.toNat, Nat.mul_left_comm bj.toNat (W i)]
    have e2 : s2.toNat * (W (i + j) * 18446744073709551616) = 18446744073709551616 * s2.toNat * W (i + j) := by
      rw [Nat.mul_comm (W (i + j)), ← Nat.mul_assoc, Nat.mul_comm s2.toNat]
    rw [e1, e2]
    omega
theorem out_val (a b : List UInt64) (ha : a.length = 4) (hb : b.length = 4) : ∀ i, i ≤ 4 → ∃ k, vl (outT a b i) + k * W 4 = vl (a.take i) * vl b
  | 0, _ => ⟨0, by simp [outT, vl]⟩
  | i + 1, hi => by
    obtain ⟨k, ih⟩ := out_val a b ha hb i (by omega)
    have hr := row_val (a.getD i 0) b (outT a b i) i hb (outT_length a b i) (4 - i) (by omega)
    have hsp := vl_split b (4 - i)
    rw [show i + (4 - i) = 4 from by omega] at hr
    refine ⟨k + (rowT (a.getD i 0) b (outT a b i) i (4 - i)).2.toNat + (a.getD i 0).toNat * vl (b.drop (4 - i)), ?_⟩
    rw [outT, vl_take_succ a i (by omega)]
    generalize rowT (a.getD i 0) b (outT a b i) i (4 - i) = r at hr ⊢
    have e4 : W 4 = W i * W (4 - i) := by rw [← W_add, show i + (4 - i) = 4 from by omega]
    have e1 : (a.getD i 0).toNat * W i * vl b = (a.getD i 0).toNat * (W i * vl (b.take (4 - i))) + (a.getD i 0).toNat * vl (b.drop (4 - i)) * W 4 := by
      rw [e4]
      conv => lhs; rw [hsp]
      rw [Nat.mul_add, Nat.mul_assoc, Nat.mul_assoc, Nat.mul_assoc, Nat.mul_left_comm (vl (b.drop (4 - i))) (W i), Nat.mul_comm (vl (b.drop (4 - i)))]
    rw [Nat.add_mul, Nat.add_mul, Nat.add_mul, e1, ← ih]
    omega
theorem W4 : W 4 = 115792089237316195423570985008687907853269984665640564039457584007913129639936 := by decide +kernel
theorem mul4_val (a b : List UInt64) (ha : a.length = 4) (hb : b.length = 4) (h : vl a * vl b < W 4) : vl (mul4 a b) = vl a * vl b := by
  obtain ⟨k, hk⟩ := out_val a b ha hb 4 (by omega)
  rw [List.take_of_length_le (by omega)] at hk
  have : k = 0 := by
    rcases k with _ | k
    · rfl
    · rw [Nat.add_mul] at hk
      omega
  subst this
  rw [mul4]
  omega
theorem abv_val (a b : List UInt64) (ha : a.length = 4) (hb : b.length = 4) : ∀ k, k ≤ 4 → abv a b k = decide (vl (b.take k) < vl (a.take k))
  | 0, _ => by simp [abv, vl]
  | k + 1, hk => by
    have ih := abv_val a b ha hb k (by omega)
    have la := vl_lt (a.take k)
    have lb := vl_lt (b.take k)
    rw [List.length_take, Nat.min_eq_left (by omega)] at la lb
    rw [abv, vl_take_succ a k (by omega), vl_take_succ b k (by omega), ih]
    generalize a.getD k 0 = x
    generalize b.getD k 0 = y
    generalize vl (a.take k) = u at la ⊢
    generalize vl (b.take k) = v at lb ⊢
    generalize W k = P at la lb ⊢
    by_cases hxy : x = y
    · subst hxy
      rw [if_neg (by simp)]
      congr 1
      simp
    · rw [if_pos hxy, Bool.eq_iff_iff, decide_eq_true_iff, decide_eq_true_iff, UInt64.lt_iff_toNat_lt]
      have hne : x.toNat ≠ y.toNat := fun h => hxy (UInt64.toNat_inj.1 h)
      rcases Nat.lt_or_gt_of_ne hne with h | h
      · have := Nat.mul_le_mul_right P (show x.toNat + 1 ≤ y.toNat from h)
        rw [Nat.add_mul] at this
        constructor
        · intro h2; omega
        · intro h2; omega
      · have := Nat.mul_le_mul_right P (show y.toNat + 1 ≤ x.toNat from h)
        rw [Nat.add_mul] at this
        constructor
        · intro _; omega
        · intro _; exact h
theorem W_two (k : Nat) : W k = 2 ^ (64 * k) := by rw [W, Nat.pow_mul]
theorem two_W (i : Nat) : 2 ^ i = W (i / 64) * 2 ^ (i % 64) := by rw [W_two, ← Nat.pow_add]; congr 1; omega
/-- The word at place k. -/
theorem vl_at (l : List UInt64) (k : Nat) (h : k < l.length) : (l.getD k 0).toNat = vl l / W k % 18446744073709551616 := by
  have h1 := vl_split l k
  have lt := vl_lt (l.take k)
  rw [List.length_take, Nat.min_eq_left (by omega)] at lt
  rw [List.drop_eq_getElem_cons h] at h1
  simp only [vl] at h1
  rw [h1, List.getD_eq_getElem?_getD, List.getElem?_eq_getElem h, Nat.add_mul_div_left _ _ (W_pos k), Nat.div_eq_of_lt lt]
  have := (l[k]).toNat_lt
  simp only [Option.getD_some]
  omega
theorem bitSet_val (r : List UInt64) (i : Nat) (hr : r.length = 4) (hi : i < 256) (hd : 2 ^ (i + 1) ∣ vl r) : vl (bitSet r i) = vl r + 2 ^ i := by
  have hk : i / 64 < r.length := by omega
  have hs := vl_set ((r.getD (i / 64) 0) ||| UInt64.ofNat (2 ^ (i % 64))) r (i / 64) hk
  have ha := vl_at r (i / 64) hk
  have hw := (r.getD (i / 64) 0).toNat_lt
  have hp : (2 : Nat) ^ (i % 64) < 18446744073709551616 := Nat.lt_of_lt_of_le (Nat.pow_lt_pow_right (by omega) (show i % 64 < 64 by omega)) (by decide)
  obtain ⟨m, hm⟩ := hd
  have e : 2 ^ (i + 1) = W (i / 64) * 2 ^ (i % 64 + 1) := by rw [Nat.pow_succ, two_W i, Nat.mul_assoc, ← Nat.pow_succ]
  rw [hm, e, Nat.mul_assoc, Nat.mul_div_cancel_left _ (W_pos _)] at ha
  have hdw : ∃ q, (r.getD (i / 64) 0).toNat = 2 ^ (i % 64 + 1) * q := by
    have h64 : (18446744073709551616 : Nat) = 2 ^ (i % 64 + 1) * 2 ^ (63 - i % 64) := by rw [← Nat.pow_add, show i % 64 + 1 + (63 - i % 64) = 64 from by omega]
    refine ⟨m % 2 ^ (63 - i % 64), ?_⟩
    rw [ha, h64, Nat.mul_mod_mul_left]
  obtain ⟨q, hq⟩ := hdw
  have hor : ((r.getD (i / 64) 0) ||| UInt64.ofNat (2 ^ (i % 64))).toNat = (r.getD (i / 64) 0).toNat + 2 ^ (i % 64) := by
    rw [UInt64.toNat_or, toNat_of hp, hq, ← Nat.two_pow_add_eq_or_of_lt (Nat.pow_lt_pow_right (by omega) (by omega))]
  rw [hor, Nat.add_mul] at hs
  have e2 : 2 ^ (i % 64) * W (i / 64) = 2 ^ i := by rw [Nat.mul_comm, ← two_W]
  rw [bitSet]
  rw [e2] at hs
  omega

theorem most_val (n : Nat) (h : n < 4294967296) : vl (mostOf n 1) = n * W 2 := by
  rw [mostOf, Nat.mod_eq_of_lt h]
  simp only [List.set_cons_succ, List.set_cons_zero, vl]
  rw [toNat_of (by omega)]
  have : W 2 = 18446744073709551616 * 18446744073709551616 := by decide +kernel
  rw [this]
  simp
  omega
/-- Behind t bits: a multiple of what is to come, its square not above, and the next one's above. -/
theorem root_inv (n : Nat) (h : n < 4294967296) : ∀ t, t ≤ 80 → ∃ m, vl (rootT (mostOf n 1) 1 t) = m * 2 ^ (80 - t) ∧ m < 2 ^ t ∧ (m * 2 ^ (80 - t)) * (m * 2 ^ (80 - t)) ≤ n * W 2 ∧ n * W 2 < ((m + 1) * 2 ^ (80 - t)) * ((m + 1) * 2 ^ (80 - t))
  | 0, _ => by
    refine ⟨0, by simp [rootT, vl], by decide, by simp, ?_⟩
    have : W 2 = 340282366920938463463374607431768211456 := by decide +kernel
    rw [this]
    simp
    omega
  | t + 1, ht => by
    obtain ⟨m, hv, hm, h1, h2⟩ := root_inv n h t (by omega)
    have hl := rootT_length (mostOf n 1) 1 t
    rw [rootT]
    generalize rootT (mostOf n 1) 1 t = r at hv hl ⊢
    have e80 : 2 ^ (80 - t) = 2 * 2 ^ (79 - t) := by rw [show 80 - t = (79 - t) + 1 from by omega, Nat.pow_succ, Nat.mul_comm]
    have hb := bitSet_val r (79 - t) hl (by omega) ⟨m, by rw [hv, show 79 - t + 1 = 80 - t from by omega, Nat.mul_comm]⟩
    have hbl : (bitSet r (79 - t)).length = 4 := by rw [bitSet_length, hl]
    have hbv : vl (bitSet r (79 - t)) = (2 * m + 1) * 2 ^ (79 - t) := by rw [hb, hv, e80, Nat.add_mul, Nat.one_mul, Nat.mul_left_comm, Nat.mul_assoc]
    have hlt : (2 * m + 1) * 2 ^ (79 - t) < 2 ^ 80 := by
      have h3 : 2 * m + 1 < 2 ^ (t + 1) := by rw [Nat.pow_succ]; omega
      have := Nat.mul_lt_mul_of_pos_right h3 (Nat.two_pow_pos (79 - t))
      rwa [← Nat.pow_add, show t + 1 + (79 - t) = 80 from by omega] at this
    have hsq : vl (bitSet r (79 - t)) * vl (bitSet r (79 - t)) < W 4 := by
      rw [hbv]
      have := Nat.mul_lt_mul'' hlt hlt
      exact Nat.lt_of_lt_of_le this (by decide +kernel)
    have hmul : vl (raiseT (bitSet r (79 - t)) 1) = ((2 * m + 1) * 2 ^ (79 - t)) * ((2 * m + 1) * 2 ^ (79 - t)) := by
      rw [raiseT, raiseT, mul4_val _ _ hbl hbl hsq, hbv]
    have hab := abv_val (raiseT (bitSet r (79 - t)) 1) (mostOf n 1) (by rw [raiseT, mul4, outT_length]) (by simp [mostOf]) 4 (by omega)
    rw [List.take_of_length_le (by simp [mostOf]), List.take_of_length_le (by rw [raiseT, mul4, outT_length]; exact Nat.le_refl _), most_val n h, hmul] at hab
    rw [tryBit, hab, show 80 - (t + 1) = 79 - t from by omega]
    by_cases hc : n * W 2 < ((2 * m + 1) * 2 ^ (79 - t)) * ((2 * m + 1) * 2 ^ (79 - t))
    · rw [if_pos (by simpa using hc)]
      refine ⟨2 * m, by rw [hv, e80, Nat.mul_left_comm, Nat.mul_assoc], by rw [Nat.pow_succ]; omega, ?_, hc⟩
      rw [e80] at h1
      rwa [show 2 * m * 2 ^ (79 - t) = m * (2 * 2 ^ (79 - t)) from by rw [Nat.mul_left_comm, Nat.mul_assoc]]
    · rw [if_neg (by simpa using hc)]
      refine ⟨2 * m + 1, hbv, by rw [Nat.pow_succ]; omega, by omega, ?_⟩
      rw [e80] at h2
      rwa [show (2 * m + 1 + 1) * 2 ^ (79 - t) = (m + 1) * (2 * 2 ^ (79 - t)) from by rw [show 2 * m + 1 + 1 = (m + 1) * 2 from by omega, Nat.mul_assoc]]
/-- The root: the greatest number of which the square is not above; its words behind the point are the low one. -/
theorem root_val (n : Nat) (h : n < 4294967296) : ∃ T, T * T ≤ n * W 2 ∧ n * W 2 < (T + 1) * (T + 1) ∧ (behindT n 1).toNat = T % 18446744073709551616 := by
  obtain ⟨m, hv, _, h1, h2⟩ := root_inv n h 80 (by omega)
  simp only [Nat.sub_self, Nat.pow_zero, Nat.mul_one] at hv h1 h2
  refine ⟨m, h1, h2, ?_⟩
  rw [behindT, vl_at _ 0 (by rw [rootT_length]; omega), hv, W, Nat.pow_zero, Nat.div_one]
/-- A square's root, in two words. -/
theorem two_words (N s T R : Nat) (h1 : s * s ≤ N) (h2 : N < (s + 1) * (s + 1)) (h3 : T * T ≤ N * W 2) (h4 : N * W 2 < (T + 1) * (T + 1)) (hR : R = T % 18446744073709551616) :
    T = s * 18446744073709551616 + R := by
  have hW : W 2 = 18446744073709551616 * 18446744073709551616 := by decide +kernel
  have a : s ≤ T / 18446744073709551616 := by
    rcases Nat.lt_or_ge (T / 18446744073709551616) s with h | h
    · exfalso
      have ht : T + 1 ≤ s * 18446744073709551616 := by omega
      have := Nat.mul_le_mul ht ht
      have e : s * 18446744073709551616 * (s * 18446744073709551616) = s * s * W 2 := by rw [hW, Nat.mul_mul_mul_comm]
      rw [e] at this
      have := Nat.mul_le_mul_right (W 2) h1
      omega
    · exact h
  have b : T / 18446744073709551616 < s + 1 := by
    rcases Nat.lt_or_ge (T / 18446744073709551616) (s + 1) with h | h
    · exact h
    · exfalso
      have ht : (s + 1) * 18446744073709551616 ≤ T := by omega
      have := Nat.mul_le_mul ht ht
      have e : (s + 1) * 18446744073709551616 * ((s + 1) * 18446744073709551616) = (s + 1) * (s + 1) * W 2 := by rw [hW, Nat.mul_mul_mul_comm]
      rw [e] at this
      have := Nat.mul_le_mul_right (W 2) (show N + 1 ≤ (s + 1) * (s + 1) from h2)
      have hp := W_pos 2
      rw [Nat.add_mul, Nat.one_mul] at this
      omega
  omega
theorem fin3 {QK PW U TK DK m lo : Nat} (h3 : QK + PW + U ≤ QK + DK) (s1 : PW + U = TK + m + lo) : TK + m + lo ≤ DK := by omega
theorem fin4 {QK PW U TK DK ZK m lo y x r : Nat} (h4 : QK + DK < QK + PW + U + r + 1) (s1 : PW + U = TK + m + lo) (s2 : ZK + y + x = TK + m + lo + r + 1) : DK < ZK + y + x := by omega
theorem sq_succ (P : Nat) : (P + 1) * (P + 1) = P * P + 2 * P + 1 := by rw [Nat.add_mul, Nat.mul_add]; omega
set_option maxRecDepth 100000 in
theorem lin_parts {N s R U P Q hi lo tp md m1 c1 R2 ov x1 cc x e y1 f y g : Nat} (hN : N < 4294967296) (hs : s ≤ 65535) (hRR : U ≤ 18446744073709551615 * 18446744073709551615) (hsR : P ≤ 131070 * 18446744073709551615) (h1 : Q ≤ N)
    (h3 : Q * 340282366920938463463374607431768211456 + P * 18446744073709551616 + U ≤ N * 340282366920938463463374607431768211456)
    (h4 : N * 340282366920938463463374607431768211456 < Q * 340282366920938463463374607431768211456 + P * 18446744073709551616 + U + 2 * (s * 18446744073709551616 + R) + 1)
    (d1 : 18446744073709551616 * hi + lo = U) (d1' : lo < 18446744073709551616) (d2 : 18446744073709551616 * tp + md = P) (d2' : md < 18446744073709551616)
    (d3 : 18446744073709551616 * c1 + m1 = md + hi + 0) (d3' : m1 < 18446744073709551616) (d4 : 2 * R = R2 + 18446744073709551616 * ov) (d4' : R2 < 18446744073709551616) (u5 : ov ≤ 1)
    (d5 : 18446744073709551616 * cc + x1 = lo + R2 + 0) (d5' : x1 < 18446744073709551616) (d6 : 18446744073709551616 * e + x = x1 + 1 + 0) (d6' : x < 18446744073709551616)
    (d7 : 18446744073709551616 * f + y1 = m1 + 2 * s + cc) (d7' : y1 < 18446744073709551616) (d8 : 18446744073709551616 * g + y = y1 + (ov + e) + 0) (d8' : y < 18446744073709551616) :
    hi < 18446744073709551616 ∧ tp ≤ 131072 ∧ c1 ≤ 1 ∧ cc ≤ 1 ∧ ov ≤ 1 ∧ e ≤ 1 ∧ f ≤ 1 ∧ g ≤ 1 ∧
      (tp + c1 < N - Q ∨ (tp + c1 = N - Q ∧ m1 = 0 ∧ lo = 0)) ∧ (N - Q < tp + c1 + f + g ∨ (tp + c1 + f + g = N - Q ∧ x ≠ 0) ∨ (tp + c1 + f + g = N - Q ∧ x = 0 ∧ y ≠ 0)) := by
  have u1 : hi < 18446744073709551616 := by clear h3 h4 d2 d3 d4 d5 d6 d7 d8 hsR; omega
  have u2 : tp ≤ 131072 := by clear h3 h4 d1 d3 d4 d5 d6 d7 d8 hRR; omega
  have u3 : c1 ≤ 1 := by clear h3 h4 d1 d2 d4 d5 d6 d7 d8 hRR hsR; omega
  have u4 : cc ≤ 1 := by clear h3 h4 d1 d2 d4 d3 d6 d7 d8 hRR hsR; omega
  have u6 : e ≤ 1 := by clear h3 h4 d1 d2 d4 d3 d5 d7 d8 hRR hsR; omega
  have u7 : f ≤ 1 := by clear h3 h4 d1 d2 d4 d3 d5 d6 d8 hRR hsR; omega
  have u8 : g ≤ 1 := by clear h3 h4 d1 d2 d4 d3 d5 d6 d7 hRR hsR; omega
  have sum1 : P * 18446744073709551616 + U = (tp + c1) * 340282366920938463463374607431768211456 + m1 * 18446744073709551616 + lo := by clear h3 h4 d4 d5 d6 d7 d8 hRR hsR; omega
  have sum2 : (tp + c1 + f + g) * 340282366920938463463374607431768211456 + y * 18446744073709551616 + x = (tp + c1) * 340282366920938463463374607431768211456 + m1 * 18446744073709551616 + lo + 2 * (s * 18446744073709551616 + R) + 1 := by
    have k1 : lo + 2 * R + 1 = x + (cc + e + ov) * 18446744073709551616 := by clear h3 h4 d1 d2 d3 d7 d8 hRR hsR sum1; omega
    have k2 : m1 + 2 * s + cc + ov + e = y + (f + g) * 18446744073709551616 := by clear h3 h4 d1 d2 d3 d4 d5 d6 hRR hsR sum1 k1; omega
    clear h3 h4 d1 d2 d3 d4 d5 d6 d7 d8 hRR hsR sum1
    omega
  clear d1 d2 d3 d4 d5 d6 d7 d8 hRR hsR
  obtain ⟨D, hD⟩ : ∃ D, N = Q + D := ⟨N - Q, by clear h3 h4 sum1 sum2; omega⟩
  subst hD
  rw [Nat.add_mul] at h3 h4
  have t3 : (tp + c1) * 340282366920938463463374607431768211456 + m1 * 18446744073709551616 + lo ≤ D * 340282366920938463463374607431768211456 := fin3 h3 sum1
  have t4 : D * 340282366920938463463374607431768211456 < (tp + c1 + f + g) * 340282366920938463463374607431768211456 + y * 18446744073709551616 + x := fin4 h4 sum1 sum2
  clear h3 h4 sum1 sum2
  rw [Nat.add_sub_cancel_left]
  refine ⟨u1, u2, u3, u4, u5, u6, u7, u8, ?_, ?_⟩
  · clear t4
    generalize tp + c1 = z at t3 ⊢
    rcases Nat.lt_trichotomy z D with h | h | h
    · exact Or.inl h
    · subst h
      exact Or.inr ⟨rfl, by omega, by omega⟩
    · exfalso; omega
  · clear t3
    generalize tp + c1 + f + g = z at t4 ⊢
    rcases Nat.lt_trichotomy D z with h | h | h
    · exact Or.inl h
    · subst h
      by_cases hx0 : x = 0
      · exact Or.inr (Or.inr ⟨rfl, hx0, by omega⟩)
      · exact Or.inr (Or.inl ⟨rfl, hx0⟩)
    · exfalso; omega
/-- What the law reckons with. -/
theorem law_parts (N s R : Nat) (hN : N < 4294967296) (hs : s ≤ 65535) (hR : R < 18446744073709551616) (h1 : s * s ≤ N)
    (h3 : (s * 18446744073709551616 + R) * (s * 18446744073709551616 + R) ≤ N * W 2) (h4 : N * W 2 < (s * 18446744073709551616 + R + 1) * (s * 18446744073709551616 + R + 1)) :
    ∃ hi lo tp md m1 c1 R2 ov x1 cc x e y1 f y g : Nat, R * R / 18446744073709551616 = hi ∧ R * R % 18446744073709551616 = lo ∧ 2 * s * R / 18446744073709551616 = tp ∧ 2 * s * R % 18446744073709551616 = md ∧
      (md + hi + 0) % 18446744073709551616 = m1 ∧ (md + hi + 0) / 18446744073709551616 = c1 ∧ 2 * R % 18446744073709551616 = R2 ∧ R / 9223372036854775808 = ov ∧
      (lo + R2 + 0) % 18446744073709551616 = x1 ∧ (lo + R2 + 0) / 18446744073709551616 = cc ∧ (x1 + 1 + 0) % 18446744073709551616 = x ∧ (x1 + 1 + 0) / 18446744073709551616 = e ∧
      (m1 + 2 * s + cc) % 18446744073709551616 = y1 ∧ (m1 + 2 * s + cc) / 18446744073709551616 = f ∧ (y1 + (ov + e) + 0) % 18446744073709551616 = y ∧ (y1 + (ov + e) + 0) / 18446744073709551616 = g ∧
      hi < 18446744073709551616 ∧ tp ≤ 131072 ∧ c1 ≤ 1 ∧ cc ≤ 1 ∧ ov ≤ 1 ∧ e ≤ 1 ∧ f ≤ 1 ∧ g ≤ 1 ∧
      (tp + c1 < N - s * s ∨ (tp + c1 = N - s * s ∧ m1 = 0 ∧ lo = 0)) ∧ (N - s * s < tp + c1 + f + g ∨ (tp + c1 + f + g = N - s * s ∧ x ≠ 0) ∨ (tp + c1 + f + g = N - s * s ∧ x = 0 ∧ y ≠ 0)) := by
  have hW : W 2 = 340282366920938463463374607431768211456 := by decide +kernel
  rw [hW] at h3 h4
  have e1 : (s * 18446744073709551616 + R) * (s * 18446744073709551616 + R) = s * s * 340282366920938463463374607431768211456 + 2 * s * R * 18446744073709551616 + R * R := by
    rw [Nat.add_mul, Nat.mul_add, Nat.mul_add, Nat.mul_mul_mul_comm]
    have a1 : s * 18446744073709551616 * R = s * R * 18446744073709551616 := by rw [Nat.mul_right_comm]
    have a2 : R * (s * 18446744073709551616) = s * R * 18446744073709551616 := by rw [← Nat.mul_assoc, Nat.mul_comm R s]
    have a3 : 2 * s * R = 2 * (s * R) := Nat.mul_assoc 2 s R
    rw [a1, a2, a3]
    generalize s * R = P
    generalize s * s = Q
    generalize R * R = U
    omega
  have e2 : (s * 18446744073709551616 + R + 1) * (s * 18446744073709551616 + R + 1) = (s * 18446744073709551616 + R) * (s * 18446744073709551616 + R) + 2 * (s * 18446744073709551616 + R) + 1 := sq_succ _
  rw [e2, e1] at h4
  rw [e1] at h3
  have hRR : R * R ≤ 18446744073709551615 * 18446744073709551615 := Nat.mul_le_mul (by omega) (by omega)
  have hsR : 2 * s * R ≤ 131070 * 18446744073709551615 := Nat.mul_le_mul (by omega) (by omega)
  generalize 2 * s * R = P at h3 h4 hsR ⊢
  generalize R * R = U at h3 h4 hRR ⊢
  generalize s * s = Q at h1 h3 h4 ⊢
  clear e1 e2 hW
  have hdm := fun n : Nat => And.intro (Nat.div_add_mod n 18446744073709551616) (Nat.mod_lt n (show 18446744073709551616 > 0 by decide))
  obtain ⟨hi, lo, h_hi, h_lo⟩ : ∃ hi lo, U / 18446744073709551616 = hi ∧ U % 18446744073709551616 = lo := ⟨_, _, rfl, rfl⟩
  obtain ⟨d1, d1'⟩ := hdm U
  rw [h_hi, h_lo] at d1
  rw [h_lo] at d1'
  obtain ⟨tp, md, h_tp, h_md⟩ : ∃ tp md, P / 18446744073709551616 = tp ∧ P % 18446744073709551616 = md := ⟨_, _, rfl, rfl⟩
  obtain ⟨d2, d2'⟩ := hdm P
  rw [h_tp, h_md] at d2
  rw [h_md] at d2'
  obtain ⟨m1, c1, h_m1, h_c1⟩ : ∃ m1 c1, (md + hi + 0) % 18446744073709551616 = m1 ∧ (md + hi + 0) / 18446744073709551616 = c1 := ⟨_, _, rfl, rfl⟩
  obtain ⟨d3, d3'⟩ := hdm (md + hi + 0)
  rw [h_c1, h_m1] at d3
  rw [h_m1] at d3'
  obtain ⟨R2, ov, h_R2, h_ov⟩ : ∃ R2 ov, 2 * R % 18446744073709551616 = R2 ∧ R / 9223372036854775808 = ov := ⟨_, _, rfl, rfl⟩
  have d4 : 2 * R = R2 + 18446744073709551616 * ov ∧ R2 < 18446744073709551616 ∧ ov ≤ 1 := by clear d1 d2 d3 h3 h4 h_hi h_lo h_tp h_md h_m1 h_c1 hRR hsR; omega
  obtain ⟨d4, d4', u5⟩ := d4
  obtain ⟨x1, cc, h_x1, h_cc⟩ : ∃ x1 cc, (lo + R2 + 0) % 18446744073709551616 = x1 ∧ (lo + R2 + 0) / 18446744073709551616 = cc := ⟨_, _, rfl, rfl⟩
  obtain ⟨d5, d5'⟩ := hdm (lo + R2 + 0)
  rw [h_cc, h_x1] at d5
  rw [h_x1] at d5'
  obtain ⟨x, e, h_x, h_e⟩ : ∃ x e, (x1 + 1 + 0) % 18446744073709551616 = x ∧ (x1 + 1 + 0) / 18446744073709551616 = e := ⟨_, _, rfl, rfl⟩
  obtain ⟨d6, d6'⟩ := hdm (x1 + 1 + 0)
  rw [h_e, h_x] at d6
  rw [h_x] at d6'
  obtain ⟨y1, f, h_y1, h_f⟩ : ∃ y1 f, (m1 + 2 * s + cc) % 18446744073709551616 = y1 ∧ (m1 + 2 * s + cc) / 18446744073709551616 = f := ⟨_, _, rfl, rfl⟩
  obtain ⟨d7, d7'⟩ := hdm (m1 + 2 * s + cc)
  rw [h_f, h_y1] at d7
  rw [h_y1] at d7'
  obtain ⟨y, g, h_y, h_g⟩ : ∃ y g, (y1 + (ov + e) + 0) % 18446744073709551616 = y ∧ (y1 + (ov + e) + 0) / 18446744073709551616 = g := ⟨_, _, rfl, rfl⟩
  obtain ⟨d8, d8'⟩ := hdm (y1 + (ov + e) + 0)
  rw [h_g, h_y] at d8
  rw [h_y] at d8'
  clear hdm
  refine ⟨hi, lo, tp, md, m1, c1, R2, ov, x1, cc, x, e, y1, f, y, g, h_hi, h_lo, h_tp, h_md, h_m1, h_c1, h_R2, h_ov, h_x1, h_cc, h_x, h_e, h_y1, h_f, h_y, h_g, ?_⟩
  clear h_hi h_lo h_tp h_md h_m1 h_c1 h_R2 h_ov h_x1 h_cc h_x h_e h_y1 h_f h_y h_g
  exact lin_parts hN hs hRR hsR h1 h3 h4 d1 d1' d2 d2' d3 d3' d4 d4' u5 d5 d5' d6 d6' d7 d7' d8 d8'
end Go.Proofs.Ytgpgolegedfjfaa
