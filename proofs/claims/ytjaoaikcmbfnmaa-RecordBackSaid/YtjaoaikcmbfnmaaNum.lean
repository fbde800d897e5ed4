/- Numbers as bytes, in plain words: their sizes, their order, that unlike ones are unlike. -/
import Derived.Test.YtjaoaikcmbfnmaaOctb
namespace Go.Proofs.Ytjaoaikcmbfnmaa
open Go.RowKit

theorem bitLen_pos (x : Nat) (h : x ≠ 0) (hx : x < 2 ^ 64) : 1 ≤ Lib.bitLen x := by rw [Lib.bitLen_half x h hx]; omega

theorem bitLen_gt (x k : Nat) (h : 2 ^ k ≤ x) (hx : x < 2 ^ 64) : k + 1 ≤ Lib.bitLen x := by
  rw [Lib.bitLen_shift k x h hx]
  have hp : 0 < 2 ^ k := Nat.two_pow_pos k
  have : 1 ≤ x / 2 ^ k := by rw [Nat.le_div_iff_mul_le hp]; omega
  have hl : x / 2 ^ k < 2 ^ 64 := Nat.lt_of_le_of_lt (Nat.div_le_self _ _) hx
  have := bitLen_pos (x / 2 ^ k) (by omega) hl
  omega

theorem numSize_lt (n : Nat) (h : n < 2 ^ 64) (h8 : numSize n ≤ 8) : n < 2 ^ (7 * numSize n) := by
  rcases Nat.lt_or_ge n (2 ^ (7 * numSize n)) with hl | hg
  · exact hl
  · have := bitLen_gt n _ hg h
    have hd : numSize n = min (max ((Lib.bitLen n + 6) / 7) 1) 9 := rfl
    omega
theorem numSize_ge (n : Nat) (h2 : 2 ≤ numSize n) : 2 ^ (7 * (numSize n - 1)) ≤ n := by
  rcases Nat.lt_or_ge n (2 ^ (7 * (numSize n - 1))) with hl | hg
  · have hb := numSize_bd n
    have := Lib.bitLen_le n (7 * (numSize n - 1)) (by omega) hl
    have hd : numSize n = min (max ((Lib.bitLen n + 6) / 7) 1) 9 := rfl
    omega
  · exact hg
theorem numSize_mono (n m : Nat) (hm : m < 2 ^ 64) (h : n ≤ m) : numSize n ≤ numSize m := by
  rcases Nat.lt_or_ge (numSize m) (numSize n) with hl | hg
  · have h1 := numSize_bd n
    have h2 := numSize_bd m
    have h3 := numSize_ge n (by omega)
    have h4 := numSize_lt m hm (by omega)
    have : 2 ^ (7 * numSize m) ≤ 2 ^ (7 * (numSize n - 1)) := Nat.pow_le_pow_right (by decide) (by omega)
    omega
  · exact hg

/-- The head of a number's bytes. -/
def headOf (n : Nat) : Nat := leadOf (numSize n) + n / 2 ^ (8 * (numSize n - 1))

theorem lead_or : ∀ (k : Fin 10) (x : Fin 256), 1 ≤ k.val → x.val < 2 ^ (8 - k.val) → leadOf k.val ||| x.val = leadOf k.val + x.val := by decide +kernel
theorem lead_step : ∀ (k : Fin 10), 1 ≤ k.val → leadOf k.val + 2 ^ (8 - k.val) ≤ 256 := by decide +kernel
theorem lead_next : ∀ (k j : Fin 10), 1 ≤ k.val → k.val < j.val → leadOf k.val + 2 ^ (8 - k.val) ≤ leadOf j.val := by decide +kernel

theorem top_lt (n : Nat) (h : n < 2 ^ 64) : n / 2 ^ (8 * (numSize n - 1)) < 2 ^ (8 - numSize n) := by
  have hb := numSize_bd n
  rcases Nat.lt_or_ge (numSize n) 9 with h8 | h9
  · have hl := numSize_lt n h (by omega)
    rw [Nat.div_lt_iff_lt_mul (Nat.two_pow_pos _), ← Nat.pow_add]
    rwa [show 8 - numSize n + 8 * (numSize n - 1) = 7 * numSize n from by omega]
  · have : numSize n = 9 := by omega
    rw [this, Nat.div_eq_of_lt (by simpa using h)]
    decide

theorem headOf_lt (n : Nat) (h : n < 2 ^ 64) : headOf n < 256 := by
  have hb := numSize_bd n
  have h1 := top_lt n h
  have h2 := lead_step ⟨numSize n, by omega⟩ hb.1
  simp only at h2
  unfold headOf
  omega

theorem numB_eq (n : Nat) (h : n < 2 ^ 64) : numB n = UInt8.ofNat (headOf n) :: putB n 0 (numSize n - 1) := by
  have hb := numSize_bd n
  have h1 := top_lt n h
  have hle : 2 ^ (8 - numSize n) ≤ 2 ^ 7 := Nat.pow_le_pow_right (by decide) (by omega)
  have h2 := lead_or ⟨numSize n, by omega⟩ ⟨n / 2 ^ (8 * (numSize n - 1)), by omega⟩ hb.1 h1
  simp only at h2
  have hx : n / 2 ^ (8 * (numSize n - 1)) % 256 = n / 2 ^ (8 * (numSize n - 1)) := Nat.mod_eq_of_lt (by omega)
  obtain ⟨r, hr⟩ : ∃ r, numSize n = r + 1 := ⟨numSize n - 1, by omega⟩
  unfold numB headOf
  rw [hr, Nat.add_sub_cancel] at h2 hx ⊢
  rw [putB, hx, h2]

theorem putB_less (n m : Nat) : ∀ r, Op.bytesLess (putB n 0 r) (putB m 0 r) = decide (n % 2 ^ (8 * r) < m % 2 ^ (8 * r))
  | 0 => by simp [putB, Op.bytesLess, Nat.mod_one]
  | r + 1 => by
    have ih := putB_less n m r
    rw [putB, putB, Op.bytesLess, ih, Nat.zero_or, Nat.zero_or]
    rw [show 2 ^ (8 * (r + 1)) = 2 ^ (8 * r) * 256 from by rw [show 8 * (r + 1) = 8 * r + 8 from by omega, Nat.pow_add]]
    rw [Nat.mod_mul, Nat.mod_mul]
    have hP : 0 < 2 ^ (8 * r) := Nat.two_pow_pos _
    generalize 2 ^ (8 * r) = P at *
    have ha : n / P % 256 < 256 := Nat.mod_lt _ (by decide)
    have hb : m / P % 256 < 256 := Nat.mod_lt _ (by decide)
    have hn : n % P < P := Nat.mod_lt _ hP
    have hm : m % P < P := Nat.mod_lt _ hP
    generalize n / P % 256 = a at *
    generalize m / P % 256 = b at *
    generalize n % P = x at *
    generalize m % P = y at *
    have e1 : decide (UInt8.ofNat a < UInt8.ofNat b) = decide (a < b) := by
      congr 1
      rw [UInt8.lt_iff_toNat_lt]
      simp only [UInt8.toNat_ofNat']
      rw [Nat.mod_eq_of_lt (by omega), Nat.mod_eq_of_lt (by omega)]
    have e2 : (UInt8.ofNat a == UInt8.ofNat b) = decide (a = b) := by
      rw [Bool.eq_iff_iff, beq_iff_eq, decide_eq_true_iff]
      constructor
      · intro h
        have := congrArg UInt8.toNat h
        simp only [UInt8.toNat_ofNat'] at this
        omega
      · intro h; rw [h]
    rw [e1, e2]
    rcases Nat.lt_trichotomy a b with h | h | h
    · have : P * (a + 1) ≤ P * b := Nat.mul_le_mul_left P h
      rw [Nat.mul_succ] at this
      simp only [h, decide_true, Bool.true_or]
      simp; omega
    · subst h
      simp
    · have : P * (b + 1) ≤ P * a := Nat.mul_le_mul_left P h
      rw [Nat.mul_succ] at this
      have n1 : ¬ a < b := by omega
      have n2 : ¬ a = b := by omega
      simp only [n1, n2, decide_false, Bool.false_or, Bool.false_and]
      simp; omega

theorem bytesLess_irr : ∀ l : List UInt8, Op.bytesLess l l = false
  | [] => rfl
  | a :: l => by simp [Op.bytesLess, bytesLess_irr l]

theorem cons_less (a b : Nat) (ha : a < 256) (hb : b < 256) (x y : List UInt8) :
    Op.bytesLess (UInt8.ofNat a :: x) (UInt8.ofNat b :: y) = (decide (a < b) || (decide (a = b) && Op.bytesLess x y)) := by
  have e1 : decide (UInt8.ofNat a < UInt8.ofNat b) = decide (a < b) := by
    congr 1
    rw [UInt8.lt_iff_toNat_lt]
    simp only [UInt8.toNat_ofNat']
    rw [Nat.mod_eq_of_lt (by omega), Nat.mod_eq_of_lt (by omega)]
  have e2 : (UInt8.ofNat a == UInt8.ofNat b) = decide (a = b) := by
    rw [Bool.eq_iff_iff, beq_iff_eq, decide_eq_true_iff]
    constructor
    · intro h
      have := congrArg UInt8.toNat h
      simp only [UInt8.toNat_ofNat'] at this
      omega
    · intro h; rw [h]
  rw [Op.bytesLess, e1, e2]

theorem numB_less (n m : Nat) (hn : n < 2 ^ 64) (hm : m < 2 ^ 64) : Op.bytesLess (numB n) (numB m) = decide (n < m) := by
  rw [numB_eq n hn, numB_eq m hm, cons_less _ _ (headOf_lt n hn) (headOf_lt m hm)]
  have bn := numSize_bd n
  have bm := numSize_bd m
  have tn := top_lt n hn
  have tm := top_lt m hm
  unfold headOf
  rcases Nat.lt_trichotomy (numSize n) (numSize m) with h | h | h
  · have hl := lead_next ⟨numSize n, by omega⟩ ⟨numSize m, by omega⟩ bn.1 h
    simp only at hl
    have : n < m := by
      have h3 := numSize_ge m (by omega)
      have h4 := numSize_lt n hn (by omega)
      have : 2 ^ (7 * numSize n) ≤ 2 ^ (7 * (numSize m - 1)) := Nat.pow_le_pow_right (by decide) (by omega)
      omega
    generalize n / 2 ^ (8 * (numSize n - 1)) = x at *
    generalize m / 2 ^ (8 * (numSize m - 1)) = y at *
    rw [decide_eq_true this, decide_eq_true (by omega), Bool.true_or]
  · rw [← h] at tm ⊢
    have hP : 0 < 2 ^ (8 * (numSize n - 1)) := Nat.two_pow_pos _
    rw [putB_less]
    have dn := Nat.div_add_mod n (2 ^ (8 * (numSize n - 1)))
    have dm := Nat.div_add_mod m (2 ^ (8 * (numSize n - 1)))
    have hrn := Nat.mod_lt n hP
    have hrm := Nat.mod_lt m hP
    generalize 2 ^ (8 * (numSize n - 1)) = P at *
    generalize n / P = a at *
    generalize m / P = b at *
    rcases Nat.lt_trichotomy a b with h' | h' | h'
    · have : P * (a + 1) ≤ P * b := Nat.mul_le_mul_left P h'
      rw [Nat.mul_succ] at this
      rw [decide_eq_true (by omega : leadOf (numSize n) + a < leadOf (numSize n) + b), decide_eq_true (by omega : n < m), Bool.true_or]
    · subst h'
      simp only [Nat.lt_irrefl, decide_false, Bool.false_or, decide_true, Bool.true_and]
      congr 1
      simp only [eq_iff_iff]
      omega
    · have : P * (b + 1) ≤ P * a := Nat.mul_le_mul_left P h'
      rw [Nat.mul_succ] at this
      rw [decide_eq_false (by omega : ¬ leadOf (numSize n) + a < leadOf (numSize n) + b), decide_eq_false (by omega : ¬ leadOf (numSize n) + a = leadOf (numSize n) + b), decide_eq_false (by omega : ¬ n < m)]
      rfl
  · have hl := lead_next ⟨numSize m, by omega⟩ ⟨numSize n, by omega⟩ bm.1 h
    simp only at hl
    have : m < n := by
      have h3 := numSize_ge n (by omega)
      have h4 := numSize_lt m hm (by omega)
      have : 2 ^ (7 * numSize m) ≤ 2 ^ (7 * (numSize n - 1)) := Nat.pow_le_pow_right (by decide) (by omega)
      omega
    generalize n / 2 ^ (8 * (numSize n - 1)) = x at *
    generalize m / 2 ^ (8 * (numSize m - 1)) = y at *
    rw [decide_eq_false (by omega : ¬ n < m), decide_eq_false (by omega), decide_eq_false (by omega)]
    rfl

theorem numB_inj (n m : Nat) (hn : n < 2 ^ 64) (hm : m < 2 ^ 64) (h : numB n = numB m) : n = m := by
  have h1 := numB_less n m hn hm
  have h2 := numB_less m n hm hn
  rw [h, bytesLess_irr] at h1
  rw [h, bytesLess_irr] at h2
  have := of_decide_eq_false h1.symm
  have := of_decide_eq_false h2.symm
  omega
theorem numB_length (n : Nat) : (numB n).length = numSize n := putB_length n _ _
end Go.Proofs.Ytjaoaikcmbfnmaa
