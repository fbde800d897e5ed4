/- Texts of this claim, one behind the other: PBm, PBo, PTz, PEa. -/
import Derived.Test.YtdfihpnmiiaflaaDoorZ00
import Derived.Test.YtdfihpnmiiaflaaDoorZ01
import Derived.Lib.TrailingZeros
import Derived.Shelf.Spec.TrailingZeros
import Derived.ChangeKeysEq
import Derived.Laws.StructEq
set_option linter.unusedSimpArgs false
set_option linter.unusedVariables false
section
/- Numbers below 2^64 as their bits: how many are set, which is the least, what is left without it; a set of small numbers as words of 64 bits. -/
namespace Go.Proofs.YtdfihpnmiiaflaaDoor
set_option linter.unusedSimpArgs false
set_option linter.unusedVariables false

/-- The first n bits of a number, the least first. -/
def bitsN (n x : Nat) : List Bool := (List.range n).map x.testBit
theorem bitsN_length (n x : Nat) : (bitsN n x).length = n := by simp [bitsN]
theorem bitsN_get {n x i : Nat} (h : i < n) : (bitsN n x)[i]? = some (x.testBit i) := by simp [bitsN, h]
theorem bitsN_get' {n x i : Nat} (h : i < (bitsN n x).length) : (bitsN n x)[i] = x.testBit i := by simp [bitsN]

theorem dig_bit {d : Nat} (hd : d < 256) (y i : Nat) : (d + 256 * y).testBit i = if i < 8 then d.testBit i else y.testBit (i - 8) := by
  have := Nat.testBit_two_pow_mul_add y (b := d) (i := 8) hd i
  rw [← this, Nat.add_comm]
theorem bitsN_dig {d : Nat} (hd : d < 256) (m y : Nat) : bitsN (8 + m) (d + 256 * y) = bitsN 8 d ++ bitsN m y := by
  apply List.ext_getElem?
  intro i
  by_cases h : i < 8 + m
  · rw [bitsN_get h, dig_bit hd]
    by_cases h8 : i < 8
    · rw [if_pos h8, List.getElem?_append_left (by rw [bitsN_length]; exact h8), bitsN_get h8]
    · rw [if_neg h8, List.getElem?_append_right (by rw [bitsN_length]; omega), bitsN_length, bitsN_get (by omega)]
  · rw [List.getElem?_eq_none (by rw [bitsN_length]; omega), List.getElem?_eq_none (by rw [List.length_append, bitsN_length, bitsN_length]; omega)]
theorem and_dig {a b : Nat} (ha : a < 256) (hb : b < 256) (p q : Nat) : (a + 256 * p) &&& (b + 256 * q) = (a &&& b) + 256 * (p &&& q) := by
  apply Nat.eq_of_testBit_eq
  intro i
  have hab : a &&& b < 256 := Nat.and_lt_two_pow (n := 8) _ hb
  rw [Nat.testBit_and, dig_bit ha, dig_bit hb, dig_bit hab]
  split <;> rw [Nat.testBit_and]

/-- Bytes as one number, the least first. -/
def val8 : List Nat → Nat
  | [] => 0
  | d :: r => d + 256 * val8 r
def digs : Nat → Nat → List Nat
  | 0, _ => []
  | n + 1, x => x % 256 :: digs n (x / 256)
theorem digs_length : ∀ (n x : Nat), (digs n x).length = n
  | 0, _ => rfl
  | n + 1, x => by simp [digs, digs_length n]
theorem digs_lt : ∀ (n x : Nat), ∀ d ∈ digs n x, d < 256
  | 0, _, d, h => by simp [digs] at h
  | n + 1, x, d, h => by
    rcases List.mem_cons.1 h with rfl | h
    · omega
    · exact digs_lt n _ d h
theorem val_digs : ∀ (n x : Nat), x < 256 ^ n → val8 (digs n x) = x
  | 0, x, h => by simp at h; simp [digs, val8]; omega
  | n + 1, x, h => by
    simp only [digs, val8]
    rw [val_digs n (x / 256) (by rw [Nat.pow_succ] at h; omega)]
    omega
/-- How many bits of a word are set. -/
def pop (n x : Nat) : Nat := (bitsN n x).count true
theorem pop_digs : ∀ (n x : Nat), pop (8 * n) x = ((digs n x).map (pop 8)).sum
  | 0, x => by simp [pop, bitsN, digs]
  | n + 1, x => by
    have e : x = x % 256 + 256 * (x / 256) := by omega
    have h8 : 8 * (n + 1) = 8 + 8 * n := by omega
    rw [digs, List.map_cons, List.sum_cons, ← pop_digs n, h8]
    conv => lhs; rw [e]
    unfold pop
    rw [bitsN_dig (by omega), List.count_append]

def t1 (d : Nat) : Nat := (d / 2 &&& 85) + (d &&& 85)
def t2 (d : Nat) : Nat := (d / 4 &&& 51) + (d &&& 51)
def t3 (d : Nat) : Nat := (d / 16 + d) &&& 15
theorem t1_e : ∀ d < 256, ∀ e < 2, ((d / 2 + 128 * e) &&& 85) = (d / 2 &&& 85) := by decide +kernel
theorem t2_e : ∀ d < 256, ∀ e < 4, ((d / 4 + 64 * e) &&& 51) = (d / 4 &&& 51) := by decide +kernel
theorem t3_e (d e : Nat) : ((d / 16 + 16 * e + d) &&& 15) = t3 d := by
  unfold t3
  rw [Nat.and_two_pow_sub_one_eq_mod _ 4, Nat.and_two_pow_sub_one_eq_mod _ 4]
  omega
theorem t_all : ∀ d < 256, t1 d < 256 ∧ t2 (t1 d) < 256 ∧ t2 (t1 d) % 16 ≤ 4 ∧ t2 (t1 d) / 16 ≤ 4 ∧ t3 (t2 (t1 d)) = pop 8 d ∧ pop 8 d ≤ 8 := by decide +kernel

theorem s1 : ∀ (ds : List Nat), (∀ d ∈ ds, d < 256) → (val8 ds / 2 &&& val8 (List.replicate ds.length 85)) + (val8 ds &&& val8 (List.replicate ds.length 85)) = val8 (ds.map t1)
  | [], _ => by simp [val8]
  | d :: r, h => by
    have hd := h d (by simp)
    have e : val8 (d :: r) / 2 = (d / 2 + 128 * (val8 r % 2)) + 256 * (val8 r / 2) := by simp only [val8]; omega
    rw [e]
    simp only [val8, List.length_cons, List.replicate_succ, List.map_cons]
    rw [and_dig (by omega) (by omega), and_dig hd (by omega), t1_e d hd _ (by omega), ← s1 r (fun x hx => h x (by simp [hx])), t1]
    omega
theorem s2 : ∀ (ds : List Nat), (∀ d ∈ ds, d < 256) → (val8 ds / 4 &&& val8 (List.replicate ds.length 51)) + (val8 ds &&& val8 (List.replicate ds.length 51)) = val8 (ds.map t2)
  | [], _ => by simp [val8]
  | d :: r, h => by
    have hd := h d (by simp)
    have e : val8 (d :: r) / 4 = (d / 4 + 64 * (val8 r % 4)) + 256 * (val8 r / 4) := by simp only [val8]; omega
    rw [e]
    simp only [val8, List.length_cons, List.replicate_succ, List.map_cons]
    rw [and_dig (by omega) (by omega), and_dig hd (by omega), t2_e d hd _ (by omega), ← s2 r (fun x hx => h x (by simp [hx])), t2]
    omega
theorem val8_mod (r : List Nat) (h : ∀ d ∈ r, d % 16 ≤ 4) : val8 r % 16 ≤ 4 := by
  cases r with
  | nil => simp [val8]
  | cons d r => have := h d (by simp); simp only [val8]; omega
theorem s3 : ∀ (ds : List Nat), (∀ d ∈ ds, d % 16 ≤ 4) → (∀ d ∈ ds, d / 16 ≤ 4) → (val8 ds / 16 + val8 ds) &&& val8 (List.replicate ds.length 15) = val8 (ds.map t3)
  | [], _, _ => by simp [val8]
  | d :: r, h, k => by
    have h1 := h d (by simp)
    have k1 := k d (by simp)
    have hr := val8_mod r (fun x hx => h x (by simp [hx]))
    have e : val8 (d :: r) / 16 + val8 (d :: r) = (d / 16 + 16 * (val8 r % 16) + d) + 256 * (val8 r / 16 + val8 r) := by simp only [val8]; omega
    rw [e]
    simp only [List.length_cons, List.replicate_succ, List.map_cons]
    rw [val8, and_dig (by omega) (by omega), t3_e, s3 r (fun x hx => h x (by simp [hx])) (fun x hx => k x (by simp [hx]))]
    rfl
theorem fin8 {a b c d e f g h : Nat} (ha : a ≤ 8) (hb : b ≤ 8) (hc : c ≤ 8) (hd : d ≤ 8) (he : e ≤ 8) (hf : f ≤ 8) (hg : g ≤ 8) (hh : h ≤ 8) {x y z t : Nat} (hx : x = val8 [a, b, c, d, e, f, g, h])
    (hy : y = x + x / 256) (hz : z = y + y / 65536) (ht : t = z + z / 4294967296) : y < 1157442765409226769 ∧ z < 2314885530818453537 ∧ t < 4629771061636907073 ∧ t % 128 = a + (b + (c + (d + (e + (f + (g + (h + 0))))))) := by
  simp only [val8] at hx
  have e1 : x / 256 = b + 256 * (c + 256 * (d + 256 * (e + 256 * (f + 256 * (g + 256 * h))))) := by rw [hx]; clear hx hy hz ht; omega
  rw [e1] at hy
  have f1 : y = (a + b) + 256 * ((b + c) + 256 * ((c + d) + 256 * ((d + e) + 256 * ((e + f) + 256 * ((f + g) + 256 * ((g + h) + 256 * h)))))) := by rw [hy, hx]; clear hx hy hz ht e1; omega
  have e2 : y / 65536 = (c + d) + 256 * ((d + e) + 256 * ((e + f) + 256 * ((f + g) + 256 * ((g + h) + 256 * h)))) := by rw [f1]; clear hx hy hz ht e1 f1; omega
  rw [e2] at hz
  have f2 : z = (a + b + c + d) + 256 * ((b + c + d + e) + 256 * ((c + d + e + f) + 256 * ((d + e + f + g) + 256 * ((e + f + g + h) + 256 * ((f + g + h) + 256 * ((g + h) + 256 * h)))))) := by rw [hz, f1]; clear hx hy hz ht e1 e2 f1; omega
  have e3 : z / 4294967296 = (e + f + g + h) + 256 * ((f + g + h) + 256 * ((g + h) + 256 * h)) := by rw [f2]; clear hx hy hz ht e1 e2 f1 f2; omega
  rw [e3] at ht
  have f3 : t = (a + b + c + d + e + f + g + h) + 256 * ((b + c + d + e + f + g + h) + 256 * ((c + d + e + f + g + h) + 256 * ((d + e + f + g + h) + 256 * ((e + f + g + h) + 256 * ((f + g + h) + 256 * ((g + h) + 256 * h)))))) := by
    rw [ht, f2]; clear hx hy hz ht e1 e2 e3 f1 f2; omega
  clear hx hy hz ht e1 e2 e3
  refine ⟨?_, ?_, ?_, ?_⟩
  · rw [f1]; clear f1 f2 f3; omega
  · rw [f2]; clear f1 f2 f3; omega
  · rw [f3]; clear f1 f2 f3; omega
  · generalize (b + c + d + e + f + g + h) + 256 * ((c + d + e + f + g + h) + 256 * ((d + e + f + g + h) + 256 * ((e + f + g + h) + 256 * ((f + g + h) + 256 * ((g + h) + 256 * h))))) = K at f3
    rw [f3]; clear f1 f2 f3; omega

/-- THE SUM OF BITS, step by step, is how many are set. -/
theorem pop64 {x x1 x2 x3 x4 x5 x6 : Nat} (hx : x < 18446744073709551616) (h1 : x1 = (x / 2 &&& 6148914691236517205) + (x &&& 6148914691236517205)) (h2 : x2 = (x1 / 4 &&& 3689348814741910323) + (x1 &&& 3689348814741910323))
    (h3 : x3 = (x2 / 16 + x2) &&& 1085102592571150095) (h4 : x4 = x3 + x3 / 256) (h5 : x5 = x4 + x4 / 65536) (h6 : x6 = x5 + x5 / 4294967296) :
    x1 < 18446744073709551616 ∧ x2 < 18446744073709551616 ∧ x2 / 16 + x2 < 18446744073709551616 ∧ x4 < 9223372036854775808 ∧ x5 < 9223372036854775808 ∧ x6 < 9223372036854775808 ∧ x6 % 128 = pop 64 x := by
  have hv := val_digs 8 x (by omega)
  have hl := digs_lt 8 x
  have hp := pop_digs 8 x
  have hn := digs_length 8 x
  generalize digs 8 x = ds at hv hl hp hn
  have m1 : 6148914691236517205 = val8 (List.replicate ds.length 85) := by rw [hn]; decide
  have m2 : 3689348814741910323 = val8 (List.replicate (ds.map t1).length 51) := by rw [List.length_map, hn]; decide
  have m3 : 1085102592571150095 = val8 (List.replicate ((ds.map t1).map t2).length 15) := by rw [List.length_map, List.length_map, hn]; decide
  rw [← hv, m1, s1 ds hl] at h1
  have l1 : ∀ d ∈ ds.map t1, d < 256 := by
    intro d hd
    obtain ⟨c, hc, rfl⟩ := List.mem_map.1 hd
    exact (t_all c (hl c hc)).1
  rw [h1, m2, s2 _ l1] at h2
  have l2 : ∀ d ∈ (ds.map t1).map t2, d % 16 ≤ 4 ∧ d / 16 ≤ 4 ∧ d < 256 := by
    intro d hd
    obtain ⟨c, hc, rfl⟩ := List.mem_map.1 hd
    obtain ⟨b, hb, rfl⟩ := List.mem_map.1 hc
    have := t_all b (hl b hb)
    exact ⟨this.2.2.1, this.2.2.2.1, this.2.1⟩
  rw [h2, m3, s3 _ (fun d hd => (l2 d hd).1) (fun d hd => (l2 d hd).2.1)] at h3
  have hmap : ((ds.map t1).map t2).map t3 = ds.map (pop 8) := by
    rw [List.map_map, List.map_map]
    exact List.map_congr_left (fun d hd => (t_all d (hl d hd)).2.2.2.2.1)
  rw [hmap] at h3
  have l3 : ∀ d ∈ ds.map (pop 8), d ≤ 8 := by
    intro d hd
    obtain ⟨c, hc, rfl⟩ := List.mem_map.1 hd
    exact (t_all c (hl c hc)).2.2.2.2.2
  have b1 : x1 < 18446744073709551616 := by
    rw [h1]
    clear h1 h2 h3 h4 h5 h6 m1 m2 m3 l2 l3 hmap hp
    match ds, hn, l1 with
    | [a, b, c, d, e, f, g, h], _, l1 =>
      simp only [List.map_cons, List.map_nil, List.mem_cons, List.not_mem_nil, or_false, forall_eq_or_imp, forall_eq] at l1
      simp only [List.map_cons, List.map_nil, val8]
      omega
  have b2 : x2 < 18446744073709551616 ∧ x2 / 16 + x2 < 18446744073709551616 := by
    rw [h2]
    clear h1 h2 h3 h4 h5 h6 m1 m2 m3 l1 l3 hmap hp b1
    match ds, hn, l2 with
    | [a, b, c, d, e, f, g, h], _, l2 =>
      simp only [List.map_cons, List.map_nil, List.mem_cons, List.not_mem_nil, or_false, forall_eq_or_imp, forall_eq] at l2
      simp only [List.map_cons, List.map_nil, val8]
      omega
  have hp' : pop 64 x = (ds.map (pop 8)).sum := hp
  clear hp hmap m1 m2 m3 l1 l2 h1 h2 hl hv
  match ds, hn, h3, l3, hp' with
  | [a, b, c, d, e, f, g, h], _, h3, l3, hp' =>
    simp only [List.map_cons, List.map_nil, List.mem_cons, List.not_mem_nil, or_false, forall_eq_or_imp, forall_eq] at l3 h3 hp'
    obtain ⟨q1, q2, q3, q4⟩ := fin8 l3.1 l3.2.1 l3.2.2.1 l3.2.2.2.1 l3.2.2.2.2.1 l3.2.2.2.2.2.1 l3.2.2.2.2.2.2.1 l3.2.2.2.2.2.2.2 h3 h4 h5 h6
    refine ⟨b1, b2.1, b2.2, by omega, by omega, by omega, ?_⟩
    rw [q4, hp']
    simp only [List.sum_cons, List.sum_nil]

/-- The least bit that is set, and the number without it. -/
theorem low_bit {x : Nat} (h0 : 0 < x) (h : x < 18446744073709551616) : Lib.ctz 64 x < 64 ∧ x.testBit (Lib.ctz 64 x) = true ∧ (∀ j < Lib.ctz 64 x, x.testBit j = false) ∧
    (∀ j, (x &&& (x - 1)).testBit j = (x.testBit j && decide (j ≠ Lib.ctz 64 x))) ∧ x &&& (x - 1) < x := by
  obtain ⟨m, hm, hk⟩ := Lib.ctzFrom_spec 64 x h0 (by omega)
  have e : Lib.ctz 64 x = Lib.ctzFrom 64 x := by simp [Lib.ctz]; omega
  rw [e]
  generalize Lib.ctzFrom 64 x = c at hm hk
  have hb : ∀ j, x.testBit j = (decide (c ≤ j) && (2 * m + 1).testBit (j - c)) := by
    intro j
    rw [hm, Nat.mul_comm, Nat.testBit_mul_two_pow]
  have hpos : 0 < 2 ^ c := Nat.two_pow_pos c
  have hx1 : x - 1 = 2 ^ c * (2 * m) + (2 ^ c - 1) := by
    rw [hm, Nat.mul_add, Nat.mul_one]; omega
  have hb1 : ∀ j, (x - 1).testBit j = if j < c then true else (2 * m).testBit (j - c) := by
    intro j
    rw [hx1, Nat.testBit_two_pow_mul_add _ (by omega)]
    split
    · rename_i hj
      have : (2 ^ c - 1) = 2 ^ c - (0 + 1) := by omega
      rw [this, Nat.testBit_two_pow_sub_succ hpos]
      simp [hj]
    · rfl
  have hbit : ∀ j, (x &&& (x - 1)).testBit j = (x.testBit j && decide (j ≠ c)) := by
    intro j
    rw [Nat.testBit_and, hb1, hb]
    by_cases hj : j < c
    · have : ¬ c ≤ j := by omega
      simp [this]
    · rw [if_neg hj]
      have hcj : c ≤ j := by omega
      by_cases hjc : j = c
      · subst hjc
        have : (2 * m).testBit 0 = false := by rw [Nat.testBit_zero]; simp
        simp [this]
      · obtain ⟨k, hk'⟩ : ∃ k, j - c = k + 1 := ⟨j - c - 1, by omega⟩
        rw [hk', Nat.testBit_succ, Nat.testBit_succ, show (2 * m + 1) / 2 = m by omega, show 2 * m / 2 = m by omega]
        simp [hcj, hjc]
  refine ⟨hk, ?_, ?_, hbit, ?_⟩
  · rw [hb]; simp [Nat.testBit_zero]
  · intro j hj
    rw [hb]
    have : ¬ c ≤ j := by omega
    simp [this]
  · have : x &&& (x - 1) ≤ x - 1 := Nat.and_le_right
    omega

/-- The places, from k on, that are true. -/
def trues : Nat → List Bool → List Nat
  | _, [] => []
  | k, b :: r => if b then k :: trues (k + 1) r else trues (k + 1) r
theorem trues_append : ∀ (k : Nat) (a b : List Bool), trues k (a ++ b) = trues k a ++ trues (k + a.length) b
  | k, [], b => by simp [trues]
  | k, x :: a, b => by
    rw [List.cons_append, trues, trues, trues_append (k + 1) a b, List.length_cons, show k + 1 + a.length = k + (a.length + 1) by omega]
    cases x <;> simp
theorem trues_none : ∀ (k : Nat) (l : List Bool), (∀ b ∈ l, b = false) → trues k l = []
  | k, [], _ => rfl
  | k, x :: a, h => by
    have := h x (by simp)
    subst this
    simp only [trues, Bool.false_eq_true, if_false]
    exact trues_none (k + 1) a (fun b hb => h b (by simp [hb]))
theorem trues_first : ∀ (k c : Nat) (l : List Bool), l[c]? = some true → (∀ j < c, l[j]? = some false) → trues k l = (k + c) :: trues k (l.set c false)
  | k, c, [], h, _ => by simp at h
  | k, 0, x :: l, h, _ => by
    simp at h
    subst h
    simp [trues]
  | k, c + 1, x :: l, h, hj => by
    have h0 := hj 0 (by omega)
    simp at h0
    subst h0
    simp only [List.set_cons_succ, trues, Bool.false_eq_true, if_false]
    rw [trues_first (k + 1) c l (by simpa using h) (fun j hj' => by simpa using hj (j + 1) (by omega)), show k + 1 + c = k + (c + 1) by omega]
theorem trues_length : ∀ (k : Nat) (l : List Bool), (trues k l).length = l.count true
  | k, [] => rfl
  | k, x :: l => by
    cases x
    · simp [trues, trues_length (k + 1) l]
    · simp [trues, trues_length (k + 1) l]
theorem mem_trues : ∀ (k : Nat) (l : List Bool) (i : Nat), i ∈ trues k l ↔ k ≤ i ∧ l[i - k]? = some true
  | k, [], i => by simp [trues]
  | k, x :: l, i => by
    have ih := mem_trues (k + 1) l i
    by_cases hik : i = k
    · subst hik
      have hno : i ∉ trues (i + 1) l := by rw [ih]; omega
      cases x <;> simp [trues, hno]
    · have key : (i ∈ trues (k + 1) l) ↔ (k ≤ i ∧ (x :: l)[i - k]? = some true) := by
        rw [ih]
        constructor
        · rintro ⟨h1, h2⟩
          refine ⟨by omega, ?_⟩
          rw [show i - k = (i - (k + 1)) + 1 by omega, List.getElem?_cons_succ]
          exact h2
        · rintro ⟨h1, h2⟩
          refine ⟨by omega, ?_⟩
          rw [show i - k = (i - (k + 1)) + 1 by omega, List.getElem?_cons_succ] at h2
          exact h2
      cases x
      · simp only [trues, Bool.false_eq_true, if_false]; exact key
      · simp only [trues, if_true, List.mem_cons]
        rw [← key]
        constructor
        · rintro (h | h)
          · exact absurd h hik
          · exact h
        · exact .inr
theorem trues_word {k x : Nat} (h0 : 0 < x) (h : x < 18446744073709551616) : trues k (bitsN 64 x) = (k + Lib.ctz 64 x) :: trues k (bitsN 64 (x &&& (x - 1))) := by
  obtain ⟨h1, h2, h3, h4, h5⟩ := low_bit h0 h
  rw [trues_first k (Lib.ctz 64 x) _ (by rw [bitsN_get h1, h2]) (fun j hj => by rw [bitsN_get (by omega), h3 j hj])]
  congr 2
  apply List.ext_getElem?
  intro i
  by_cases hi : i < 64
  · rw [bitsN_get hi, h4]
    by_cases hc : i = Lib.ctz 64 x
    · subst hc
      rw [List.getElem?_set_self (by rw [bitsN_length]; exact hi)]
      simp
    · rw [List.getElem?_set_ne (fun e => hc e.symm), bitsN_get hi]
      simp [hc]
  · rw [List.getElem?_eq_none (by rw [List.length_set, bitsN_length]; omega), List.getElem?_eq_none (by rw [bitsN_length]; omega)]
theorem trues_zero (k n : Nat) : trues k (bitsN n 0) = [] := trues_none _ _ (by intro b hb; obtain ⟨i, _, rfl⟩ := List.mem_map.1 hb; simp)

/-- The least bit that is not set. -/
theorem idx_word {x : Nat} (h : x < 18446744073709551616) : (bitsN 64 x).idxOf false = Lib.ctz 64 (18446744073709551615 - x) ∧ Lib.ctz 64 (18446744073709551615 - x) ≤ 64 := by
  have hc : ∀ j, (18446744073709551615 - x).testBit j = (decide (j < 64) && !x.testBit j) := by
    intro j
    have := Nat.testBit_two_pow_sub_succ (x := x) (n := 64) h j
    rw [← this]
    have e : 2 ^ 64 - (x + 1) = 18446744073709551615 - x := by omega
    rw [e]
  by_cases h0 : 18446744073709551615 - x = 0
  · rw [h0]
    refine ⟨?_, by decide⟩
    rw [List.idxOf_eq_length, bitsN_length]
    · rfl
    · intro hm
      obtain ⟨i, hi, e⟩ := List.mem_map.1 hm
      have hi := List.mem_range.1 hi
      have := hc i
      rw [h0, e] at this
      simp [hi] at this
  · obtain ⟨h1, h2, h3, h4, h5⟩ := low_bit (x := 18446744073709551615 - x) (by omega) (by omega)
    refine ⟨?_, by omega⟩
    generalize Lib.ctz 64 (18446744073709551615 - x) = c at h1 h2 h3
    have hx : x.testBit c = false := by
      have := hc c
      rw [h2] at this
      simpa [h1] using this.symm
    have hlt : ∀ j < c, x.testBit j = true := by
      intro j hj
      have := hc j
      rw [h3 j hj] at this
      have hj64 : j < 64 := by omega
      simpa [hj64] using this
    have hs : bitsN 64 x = List.replicate c true ++ false :: (bitsN 64 x).drop (c + 1) := by
      apply List.ext_getElem?
      intro i
      rcases Nat.lt_trichotomy i c with hi | hi | hi
      · rw [bitsN_get (by omega), hlt i hi, List.getElem?_append_left (by simpa using hi)]
        simp [hi]
      · subst hi
        rw [bitsN_get (by omega), hx, List.getElem?_append_right (by simp)]
        simp
      · rw [List.getElem?_append_right (by simp; omega), List.length_replicate]
        obtain ⟨k, hk⟩ : ∃ k, i - c = k + 1 := ⟨i - c - 1, by omega⟩
        rw [hk, List.getElem?_cons_succ, List.getElem?_drop]
        congr 1
        omega
    rw [hs, List.idxOf_append, if_neg (by intro hm; have := List.eq_of_mem_replicate hm; cases this)]
    simp

/-- The bits of words, one behind the other. -/
def wl (W : List Nat) : List Bool := W.flatMap (bitsN 64)
theorem wl_cons (x : Nat) (W : List Nat) : wl (x :: W) = bitsN 64 x ++ wl W := rfl
theorem wl_append (a b : List Nat) : wl (a ++ b) = wl a ++ wl b := by simp [wl]
theorem wl_length : ∀ W : List Nat, (wl W).length = 64 * W.length
  | [] => rfl
  | x :: W => by rw [wl_cons, List.length_append, bitsN_length, wl_length W, List.length_cons]; omega
theorem wl_get : ∀ (W : List Nat) (i : Nat), i < 64 * W.length → (wl W)[i]? = some ((W.getD (i / 64) 0).testBit (i % 64))
  | [], i, h => by simp at h
  | x :: W, i, h => by
    rw [wl_cons]
    by_cases hi : i < 64
    · rw [List.getElem?_append_left (by rw [bitsN_length]; exact hi), bitsN_get hi, show i / 64 = 0 by omega, show i % 64 = i by omega]
      rfl
    · rw [List.getElem?_append_right (by rw [bitsN_length]; omega), bitsN_length, wl_get W (i - 64) (by rw [List.length_cons] at h; omega), show i / 64 = (i - 64) / 64 + 1 by omega, show (i - 64) % 64 = i % 64 by omega]
      rfl

/-- THE WORDS W ARE THE SET of the places of U that are true. -/
structure Bw (W : List Nat) (U : List Bool) : Prop where
  len : W.length = (U.length + 63) / 64
  lt : ∀ x ∈ W, x < 18446744073709551616
  all : wl W = U ++ List.replicate (64 * W.length - U.length) false

section
variable {W : List Nat} {U : List Bool}
theorem Bw.le (h : Bw W U) : U.length ≤ 64 * W.length := by have := h.len; omega
theorem Bw.bit (h : Bw W U) {i : Nat} (hi : i < 64 * W.length) : (W.getD (i / 64) 0).testBit (i % 64) = U.getD i false := by
  have h1 := wl_get W i hi
  rw [h.all] at h1
  rw [show U.getD i false = (U[i]?).getD false from List.getD_eq_getElem?_getD ..]
  by_cases hu : i < U.length
  · rw [List.getElem?_append_left hu] at h1
    rw [h1]; rfl
  · rw [List.getElem?_append_right (by omega), List.getElem?_replicate] at h1
    rw [List.getElem?_eq_none (by omega)]
    split at h1
    · injection h1 with h1; rw [← h1]; rfl
    · cases h1
theorem Bw.out (h : Bw W U) {i : Nat} (hi : 64 * W.length ≤ i) : U.getD i false = false := by
  have := h.le
  rw [List.getD_eq_getElem?_getD, List.getElem?_eq_none (by omega)]; rfl
theorem Bw.wlt (h : Bw W U) {j : Nat} (hj : j < W.length) : W.getD j 0 < 18446744073709551616 := by
  rw [List.getD_eq_getElem?_getD, List.getElem?_eq_getElem hj]
  exact h.lt _ (List.getElem_mem hj)
theorem Bw.none (n : Nat) : Bw (List.replicate ((n + 63) / 64) 0) (List.replicate n false) := by
  refine ⟨by simp, fun x hx => by rw [List.eq_of_mem_replicate hx]; omega, ?_⟩
  rw [List.length_replicate, List.length_replicate, List.replicate_append_replicate]
  have : ∀ k, wl (List.replicate k 0) = List.replicate (64 * k) false := by
    intro k
    apply List.ext_getElem?
    intro i
    by_cases hi : i < 64 * k
    · rw [wl_get _ _ (by simpa using hi), List.getElem?_replicate, if_pos hi]
      congr 1
      have : (List.replicate k 0).getD (i / 64) 0 = 0 := by
        rw [List.getD_eq_getElem?_getD, List.getElem?_replicate]
        split <;> rfl
      rw [this]; simp
    · rw [List.getElem?_eq_none (by rw [wl_length]; simpa using hi), List.getElem?_eq_none (by simpa using hi)]
  rw [this]
  congr 1
  omega
theorem Bw.put (h : Bw W U) {i y : Nat} {b : Bool} (hi : i < U.length) (hy : y < 18446744073709551616) (hb : ∀ k, k < 64 → y.testBit k = if k = i % 64 then b else (W.getD (i / 64) 0).testBit k) :
    Bw (W.set (i / 64) y) (U.set i b) := by
  have hle := h.le
  refine ⟨by rw [List.length_set, List.length_set]; exact h.len, ?_, ?_⟩
  · intro x hx
    rcases List.mem_or_eq_of_mem_set hx with h' | h'
    · exact h.lt x h'
    · rw [h']; exact hy
  · rw [List.length_set, List.length_set]
    have : (U.set i b) ++ List.replicate (64 * W.length - U.length) false = (wl W).set i b := by
      rw [h.all, List.set_append_left _ _ hi]
    rw [this]
    apply List.ext_getElem?
    intro j
    by_cases hj : j < 64 * W.length
    · rw [wl_get _ _ (by rw [List.length_set]; exact hj)]
      by_cases hij : i = j
      · subst hij
        rw [List.getElem?_set_self (by rw [wl_length]; exact hj), List.getD_eq_getElem?_getD, List.getElem?_set_self (by omega)]
        simp only [Option.getD_some]
        rw [hb _ (Nat.mod_lt _ (by decide)), if_pos rfl]
      · rw [List.getElem?_set_ne hij, wl_get _ _ hj]
        congr 1
        by_cases hq : i / 64 = j / 64
        · rw [← hq, List.getD_eq_getElem?_getD, List.getElem?_set_self (by omega)]
          simp only [Option.getD_some]
          rw [hb _ (Nat.mod_lt _ (by decide)), if_neg (by omega)]
        · rw [List.getD_eq_getElem?_getD, List.getElem?_set_ne hq, ← List.getD_eq_getElem?_getD]
    · rw [List.getElem?_eq_none (by rw [wl_length, List.length_set]; omega), List.getElem?_eq_none (by rw [List.length_set, wl_length]; omega)]
theorem Bw.add (h : Bw W U) {i : Nat} (hi : i < U.length) : Bw (W.set (i / 64) (W.getD (i / 64) 0 ||| 2 ^ (i % 64))) (U.set i true) := by
  have hle := h.le
  have hlt := h.wlt (j := i / 64) (by omega)
  refine h.put hi (Nat.or_lt_two_pow (n := 64) hlt (Nat.pow_lt_pow_right (show 1 < 2 by decide) (Nat.mod_lt _ (by decide)))) ?_
  intro k hk
  rw [Nat.testBit_or, Nat.testBit_two_pow]
  by_cases hki : k = i % 64
  · subst hki; simp
  · rw [if_neg hki]; simp [Ne.symm hki]
/-- A word without one bit. -/
def drop1 (x k : Nat) : Nat := x &&& (18446744073709551615 - 2 ^ k)
theorem drop1_bit {x k : Nat} (hk : k < 64) (j : Nat) (hj : j < 64) : (drop1 x k).testBit j = if j = k then false else x.testBit j := by
  have hp : 2 ^ k < 18446744073709551616 := Nat.pow_lt_pow_right (show 1 < 2 by decide) hk
  have := Nat.testBit_two_pow_sub_succ (x := 2 ^ k) (n := 64) hp j
  have e : 2 ^ 64 - (2 ^ k + 1) = 18446744073709551615 - 2 ^ k := by omega
  rw [drop1, Nat.testBit_and, ← e, this, Nat.testBit_two_pow]
  by_cases hjk : j = k
  · subst hjk; simp
  · rw [if_neg hjk]; simp [hj, Ne.symm hjk]
theorem Bw.remove (h : Bw W U) {i : Nat} (hi : i < U.length) : Bw (W.set (i / 64) (drop1 (W.getD (i / 64) 0) (i % 64))) (U.set i false) := by
  have hle := h.le
  have hlt := h.wlt (j := i / 64) (by omega)
  have hm : i % 64 < 64 := Nat.mod_lt _ (by decide)
  refine h.put hi (Nat.lt_of_le_of_lt Nat.and_le_left hlt) ?_
  intro k hk
  rw [drop1_bit hm k hk]
theorem count_wl : ∀ W : List Nat, (wl W).count true = (W.map (pop 64)).sum
  | [] => rfl
  | x :: W => by rw [wl_cons, List.count_append, count_wl W]; rfl
theorem Bw.count (h : Bw W U) : (W.map (pop 64)).sum = U.count true := by
  rw [← count_wl, h.all, List.count_append, List.count_replicate]
  simp
theorem Bw.trues (h : Bw W U) : trues 0 (wl W) = Go.Proofs.YtdfihpnmiiaflaaDoor.trues 0 U := by
  rw [h.all, trues_append, trues_none _ (List.replicate _ false) (fun b hb => List.eq_of_mem_replicate hb), List.append_nil]
/-- The least number that is not in. -/
def leastW : Nat → List Nat → Nat
  | i, [] => i * 64
  | i, x :: r => if Lib.ctz 64 (18446744073709551615 - x) < 64 then i * 64 + Lib.ctz 64 (18446744073709551615 - x) else leastW (i + 1) r
theorem leastW_idx : ∀ (i : Nat) (W : List Nat), (∀ x ∈ W, x < 18446744073709551616) → leastW i W = i * 64 + (wl W).idxOf false
  | i, [], _ => by simp [leastW, wl]
  | i, x :: r, h => by
    obtain ⟨h1, h2⟩ := idx_word (h x (by simp))
    rw [leastW, wl_cons, List.idxOf_append, leastW_idx (i + 1) r (fun y hy => h y (by simp [hy]))]
    have hm : false ∈ bitsN 64 x ↔ Lib.ctz 64 (18446744073709551615 - x) < 64 := by
      rw [← h1, ← List.idxOf_lt_length_iff, bitsN_length]
    by_cases hc : Lib.ctz 64 (18446744073709551615 - x) < 64
    · rw [if_pos hc, if_pos (hm.2 hc), h1]
    · rw [if_neg hc, if_neg (fun e => hc (hm.1 e)), bitsN_length]
      omega
theorem Bw.least (h : Bw W U) : leastW 0 W = U.idxOf false := by
  rw [leastW_idx 0 W h.lt, h.all, List.idxOf_append]
  by_cases hm : false ∈ U
  · rw [if_pos hm]; omega
  · rw [if_neg hm, List.idxOf_eq_length hm]
    cases 64 * W.length - U.length <;> simp [List.replicate_succ]
end
end Go.Proofs.YtdfihpnmiiaflaaDoor
end
section
/- How many bits of a word are set: math/bits.OnesCount64. -/
namespace Go.Proofs.YtdfihpnmiiaflaaDoor
open Go.RowKit
set_option linter.unusedSimpArgs false
set_option linter.unusedVariables false

theorem and127 (n : Nat) (h : n < 9223372036854775808) : bits .and .i64 (n : Int) 127 = ((n % 128 : Nat) : Int) := by
  have h1 : (BitVec.ofInt 64 (n : Int)).toNat = n := by
    rw [BitVec.ofInt_natCast, BitVec.toNat_ofNat]; exact Nat.mod_eq_of_lt (by omega)
  have h2 : (BitVec.ofInt 64 127).toNat = 127 := by decide
  show IntKind.i64.wrap ((BitVec.ofInt 64 (n : Int) &&& BitVec.ofInt 64 127).toNat : Int) = _
  rw [BitVec.toNat_and, h1, h2, show (127 : Nat) = 2 ^ 7 - 1 from rfl, Nat.and_two_pow_sub_one_eq_mod]
  simp [IntKind.wrap, IntKind.signed, IntKind.bits]
  omega
theorem ones_any (x : Nat) (hx : x < 18446744073709551616) (w : World) : Calls Tryd.prog 50 #[.int .u64 (x : Int)] w fun e w' => e = .returned (.int .i64 (pop 64 x : Nat)) ∧ w' = w := by
  obtain ⟨x1, h1⟩ : ∃ y, y = (x / 2 &&& 6148914691236517205) + (x &&& 6148914691236517205) := ⟨_, rfl⟩
  obtain ⟨x2, h2⟩ : ∃ y, y = (x1 / 4 &&& 3689348814741910323) + (x1 &&& 3689348814741910323) := ⟨_, rfl⟩
  obtain ⟨x3, h3⟩ : ∃ y, y = (x2 / 16 + x2) &&& 1085102592571150095 := ⟨_, rfl⟩
  obtain ⟨x4, h4⟩ : ∃ y, y = x3 + x3 / 256 := ⟨_, rfl⟩
  obtain ⟨x5, h5⟩ : ∃ y, y = x4 + x4 / 65536 := ⟨_, rfl⟩
  obtain ⟨x6, h6⟩ : ∃ y, y = x5 + x5 / 4294967296 := ⟨_, rfl⟩
  obtain ⟨b1, b2, b3, b4, b5, b6, hp⟩ := pop64 hx h1 h2 h3 h4 h5 h6
  have A1 : IntKind.u64.wrap (bits BinOp.and IntKind.u64 ((x : Int) / 2) 6148914691236517205 + bits BinOp.and IntKind.u64 (x : Int) 6148914691236517205) = (x1 : Int) := by
    have e1 := u64_and_nat (x / 2) 6148914691236517205 (by omega) (by omega)
    have e2 := u64_and_nat x 6148914691236517205 (by omega) (by omega)
    simp only [Int.natCast_ediv, Int.cast_ofNat_Int] at e1 e2
    rw [e1, e2, ← Int.natCast_add, ← h1, wrapN, Nat.mod_eq_of_lt b1]
  have A2 : IntKind.u64.wrap (bits BinOp.and IntKind.u64 ((x1 : Int) / 4) 3689348814741910323 + bits BinOp.and IntKind.u64 (x1 : Int) 3689348814741910323) = (x2 : Int) := by
    have e1 := u64_and_nat (x1 / 4) 3689348814741910323 (by omega) (by omega)
    have e2 := u64_and_nat x1 3689348814741910323 (by omega) (by omega)
    simp only [Int.natCast_ediv, Int.cast_ofNat_Int] at e1 e2
    rw [e1, e2, ← Int.natCast_add, ← h2, wrapN, Nat.mod_eq_of_lt b2]
  have A3 : bits BinOp.and IntKind.u64 (IntKind.u64.wrap ((x2 : Int) / 16 + (x2 : Int))) 1085102592571150095 = (x3 : Int) := by
    have e0 : IntKind.u64.wrap ((x2 : Int) / 16 + (x2 : Int)) = ((x2 / 16 + x2 : Nat) : Int) := by
      rw [show ((x2 : Int) / 16 + (x2 : Int)) = ((x2 / 16 + x2 : Nat) : Int) by simp, wrapN, Nat.mod_eq_of_lt b3]
    have e1 := u64_and_nat (x2 / 16 + x2) 1085102592571150095 (by omega) (by omega)
    simp only [Int.cast_ofNat_Int] at e1
    rw [e0, e1, ← h3]
  have A4 : IntKind.u64.wrap ((x3 : Int) + (x3 : Int) / 256) = (x4 : Int) := by
    rw [show ((x3 : Int) + (x3 : Int) / 256) = ((x3 + x3 / 256 : Nat) : Int) by simp, ← h4, wrapN, Nat.mod_eq_of_lt (by omega)]
  have A5 : IntKind.u64.wrap ((x4 : Int) + (x4 : Int) / 65536) = (x5 : Int) := by
    rw [show ((x4 : Int) + (x4 : Int) / 65536) = ((x4 + x4 / 65536 : Nat) : Int) by simp, ← h5, wrapN, Nat.mod_eq_of_lt (by omega)]
  have A6 : IntKind.u64.wrap ((x5 : Int) + (x5 : Int) / 4294967296) = (x6 : Int) := by
    rw [show ((x5 : Int) + (x5 : Int) / 4294967296) = ((x5 + x5 / 4294967296 : Nat) : Int) by simp, ← h6, wrapN, Nat.mod_eq_of_lt (by omega)]
  have A7 : (x6 : Int) < 9223372036854775808 := by omega
  have A8 : bits .and .i64 (x6 : Int) 127 = (pop 64 x : Nat) := by rw [and127 x6 b6, hp]
  clear h1 h2 h3 h4 h5 h6 b1 b2 b3 b4 b5 b6 hp
  have H1 := Lib.hid A1; have H2 := Lib.hid A2; have H3 := Lib.hid A3; have H4 := Lib.hid A4; have H5 := Lib.hid A5; have H6 := Lib.hid A6; have H7 := Lib.hid A7; have H8 := Lib.hid A8
  clear A1 A2 A3 A4 A5 A6 A7 A8
  go_enter Tryd.func50, Tryd.ntmps50
  go_wp2
  go_ret
  refine ⟨?_, rfl⟩
  rw [H1.out, H2.out, H3.out]
  rw [H4.out, H5.out, H6.out]
  go_simp
  rw [show wrap64 (x6 : Int) = (x6 : Int) from by have := H7.out; unfold wrap64; omega, H8.out]
end Go.Proofs.YtdfihpnmiiaflaaDoor
end
section
/- The least bit that is set: math/bits.TrailingZeros64, its table as the program lays it. -/
namespace Go.Proofs.YtdfihpnmiiaflaaDoor
open Go.RowKit Go.Shelf

def tz_ren : Go.Shelf.Ren := ⟨fun | 29 => 49 | n => n, fun | 0 => 0 | 3 => 3 | 4 => 4 | 5 => 5 | 22 => 78 | 25 => 91 | 54 => 85 | n => n, fun | 1 => 0 | n => n⟩
theorem tz_lays : Go.Proofs.Lays7.n29 Tryd.prog tz_ren := {
  mixed := by kernel_rfl
  f29 := Tryd.func49.trans (congrArg some (by kernel_rfl))
  t0 := Tryd.underlying0
  a0 := Tryd.isAgg0
  z0 := Tryd.sizeOf0
  v0 := Tryd.zeroValue0
  i0 := by kernel_rfl
  t3 := Tryd.underlying3
  a3 := Tryd.isAgg3
  z3 := Tryd.sizeOf3
  v3 := Tryd.zeroValue3
  i3 := by kernel_rfl
  t4 := Tryd.underlying4
  a4 := Tryd.isAgg4
  z4 := Tryd.sizeOf4
  v4 := Tryd.zeroValue4
  i4 := by kernel_rfl
  t5 := Tryd.underlying5
  a5 := Tryd.isAgg5
  z5 := Tryd.sizeOf5
  v5 := Tryd.zeroValue5
  i5 := by kernel_rfl
  t22 := Tryd.underlying78
  a22 := Tryd.isAgg78
  z22 := Tryd.sizeOf78
  v22 := Tryd.zeroValue78
  i22 := by kernel_rfl
  t25 := Tryd.underlying91
  a25 := Tryd.isAgg91
  z25 := Tryd.sizeOf91
  v25 := Tryd.zeroValue91
  i25 := by kernel_rfl
  t54 := Tryd.underlying85
  a54 := Tryd.isAgg85
  z54 := Tryd.sizeOf85
  g1 := by kernel_rfl }
/-- The library's table stands in its variable. -/
def Tab (w : World) : Prop := ∀ j, j < 64 → w.cell? ⟨0, j, none⟩ = some (.int .u8 (Lib.deBruijn64tab.getD j 0))
theorem tz_any (x : Nat) (hx : x < 18446744073709551616) (w : World) (hT : Tab w) : Calls Tryd.prog 49 #[.int .u64 (x : Int)] w fun e w' => e = .returned (.int .i64 (Lib.ctz 64 x : Nat)) ∧ w' = w :=
  Any7.bits_TrailingZeros64 tz_lays x hx w (fun _ => hT)
theorem Tab.pos {w : World} (h : Tab w) : 0 < w.heap.size := block_lt_of_cell (h 0 (by decide))
theorem Tab.below {w w' : World} {B : Nat} (h : Tab w) (hb : Below B w w') (hB : 0 < B) : Tab w' := fun j hj => (hb.cell (p := ⟨0, j, none⟩) hB).trans (h j hj)
theorem Tab.kp {w w' : World} {may : Nat → Prop} (h : Tab w) (hk : Kp may w w') (hm : ¬ may 0) : Tab w' := fun j hj => (hk.cell (p := ⟨0, j, none⟩) h.pos hm).trans (h j hj)
end Go.Proofs.YtdfihpnmiiaflaaDoor
end
section
/- Arrays of bytes, compared. -/
namespace Go.Proofs.YtdfihpnmiiaflaaDoor
open Go.RowKit

theorem cellsOf5 : Tryd.prog.cellsOf 5 = 1 := by kernel_rfl
theorem part8 (l : List UInt8) (i : Nat) (h : i < l.length) (w : World) : (part 5 (cs8 l).toArray (i * 1)).run Tryd.prog w = .ok (B8 l[i]) w := by
  have hx : (cs8 l).toArray[i * 1]? = some (B8 l[i]) := by simp [cs8, h]
  unfold part
  simp only [Sem.run_bind, Tryd.isAgg5, Result.andThen_ok, hx]
  simp
theorem items8 (d : Nat) (a b : List UInt8) (hab : a.length = b.length) (w : World) : ∀ (is : List Nat), (∀ i ∈ is, i < a.length) →
    (Op.eqItems (d + 1) 5 1 (cs8 a).toArray (cs8 b).toArray is).run Tryd.prog w = .ok (is.all fun i => a[i]? == b[i]?) w
  | [], _ => by simp [Op.eqItems]
  | i :: is, h => by
    have hi := h i (by simp)
    have hi' : i < b.length := by omega
    have ih := items8 d a b hab w is (fun j hj => h j (by simp [hj]))
    simp only [Op.eqItems, Sem.run_bind, part8 a i hi w, part8 b i hi' w, Result.andThen_ok, B8, run_equalIn_int w d 5 .u8 .u8 _ _ Tryd.underlying5]
    rw [List.all_cons, List.getElem?_eq_getElem hi, List.getElem?_eq_getElem hi']
    by_cases he : a[i] = b[i]
    · rw [he]
      simp [ih]
    · have hne : (((a[i]).toNat : Int) == ((b[i]).toNat : Int)) = false := by
        rw [beq_eq_false_iff_ne]
        intro hc
        exact he (UInt8.toNat_inj.1 (by omega))
      simp [hne, he]
theorem arr8 (d : Nat) (t : TypeId) (n : Nat) (hu : Tryd.prog.underlying t = some (.array n 5)) (a b : List UInt8) (ha : a.length = n) (hb : b.length = n) (w : World) :
    (Op.equalIn (d + 2) t (.agg (cs8 a).toArray) (.agg (cs8 b).toArray)).run Tryd.prog w = .ok (decide (a = b)) w := by
  obtain ⟨i, hi, _, _, _⟩ := info_parts info_u8
  rw [run_equalIn_array (w := w) (d + 1) _ _ hu hi, cellsOf5, items8 d a b (by omega) w _ (fun i h => by simpa [ha] using h)]
  refine congrArg (fun x => Result.ok x w) ?_
  rw [Bool.eq_iff_iff, decide_eq_true_iff, List.all_eq_true]
  constructor
  · intro h
    apply List.ext_getElem?
    intro i
    by_cases hlt : i < n
    · simpa using h i (by simpa using hlt)
    · rw [List.getElem?_eq_none (by omega), List.getElem?_eq_none (by omega)]
  · intro h i _
    rw [h]
    simp
set_option maxRecDepth 100000 in
theorem exec_neq {o : Oper} {a : Act} {w : World} (t : TypeId) (n : Nat) (hu : Tryd.prog.underlying t = some (.array n 5)) (x y : Operand) (ho : o.op = .binOp .neq t x y t) (hm : Tryd.prog.eqGuardType Tryd.prog.depth t = false) {l l2 : List UInt8} (hl : l.length = n) (hl2 : l2.length = n) (hx : a.eval x = .agg (cs8 l).toArray) (hy : a.eval y = .agg (cs8 l2).toArray) :
    (execOp a.eval o).run Tryd.prog w = .ok (.value (.bool (!decide (l = l2)))) w := by
  have h := arr8 9998 t n hu l l2 hl hl2 w
  unfold execOp
  simp only [ho, hx, hy]
  have h2 : (Op.equalIn 10000 t (.agg (cs8 l).toArray) (.agg (cs8 l2).toArray)).run Tryd.prog w = .ok (decide (l = l2)) w := h
  simp [go_sem, run_eqGuard_agg (hm := hm), h2]
end Go.Proofs.YtdfihpnmiiaflaaDoor
end
