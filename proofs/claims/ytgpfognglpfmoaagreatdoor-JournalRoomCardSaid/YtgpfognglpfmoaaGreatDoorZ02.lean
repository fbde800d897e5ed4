/- Texts of this claim, one behind the other: Num, Pur, Sp, Wd, Ar. -/
import Derived.Test.YtgpfognglpfmoaaGreatDoorZ01
import Derived.Test.YtgpfognglpfmoaaGreatDoorZ00
import Derived.Laws.BitsAllLaws
set_option linter.unusedSimpArgs false
set_option linter.unusedVariables false
section
/- Numbers as bytes, in plain words: their sizes, their order, that unlike ones are unlike. -/
namespace Go.Proofs.YtgpfognglpfmoaaGreatDoor
open Go.RowKit

theorem bitLen_pos (x : Nat) (h : x ≠ 0) (hx : x < 2 ^ 64) : 1 ≤ Lib.bitLen x := by rw [Lib.bitLen_half x h hx]; omega

theorem bitLen_gt (x k : Nat) (h : 2 ^ k ≤ x) (hx : x < 2 ^ 64) : k + 1 ≤ Lib.bitLen x := by
  rw [Lib.bitLen_shift k x h hx]
  have hp : 0 < 2 ^ k := Nat.two_pow_pos k
  have : 1 ≤ x / 2 ^ k := by rw [Nat.le_div_iff_mul_le hp]; omega
  have hl : x / 2 ^ k < 2 ^ 64 := Nat.lt_of_le_of_lt (Nat.div_le_self _ _) hx
  have := bitLen_pos (x / 2 ^ k) (by omega) hl
  omega

theorem numSize_lt (n : Nat) (h : n < 2 ^ 64) (h8 : numSize n ≤ 8) : n < 2 ^ (7 * numSize n) := by
  rcases Nat.lt_or_ge n (2 ^ (7 * numSize n)) with hl | hg
  · exact hl
  · have := bitLen_gt n _ hg h
    have hd : numSize n = min (max ((Lib.bitLen n + 6) / 7) 1) 9 := rfl
    omega
theorem numSize_ge (n : Nat) (h2 : 2 ≤ numSize n) : 2 ^ (7 * (numSize n - 1)) ≤ n := by
  rcases Nat.lt_or_ge n (2 ^ (7 * (numSize n - 1))) with hl | hg
  · have hb := numSize_bd n
    have := Lib.bitLen_le n (7 * (numSize n - 1)) (by omega) hl
    have hd : numSize n = min (max ((Lib.bitLen n + 6) / 7) 1) 9 := rfl
    omega
  · exact hg
theorem numSize_mono (n m : Nat) (hm : m < 2 ^ 64) (h : n ≤ m) : numSize n ≤ numSize m := by
  rcases Nat.lt_or_ge (numSize m) (numSize n) with hl | hg
  · have h1 := numSize_bd n
    have h2 := numSize_bd m
    have h3 := numSize_ge n (by omega)
    have h4 := numSize_lt m hm (by omega)
    have : 2 ^ (7 * numSize m) ≤ 2 ^ (7 * (numSize n - 1)) := Nat.pow_le_pow_right (by decide) (by omega)
    omega
  · exact hg

/-- The head of a number's bytes. -/
def headOf (n : Nat) : Nat := leadOf (numSize n) + n / 2 ^ (8 * (numSize n - 1))

theorem lead_or : ∀ (k : Fin 10) (x : Fin 256), 1 ≤ k.val → x.val < 2 ^ (8 - k.val) → leadOf k.val ||| x.val = leadOf k.val + x.val := by decide +kernel
theorem lead_step : ∀ (k : Fin 10), 1 ≤ k.val → leadOf k.val + 2 ^ (8 - k.val) ≤ 256 := by decide +kernel
theorem lead_next : ∀ (k j : Fin 10), 1 ≤ k.val → k.val < j.val → leadOf k.val + 2 ^ (8 - k.val) ≤ leadOf j.val := by decide +kernel

theorem top_lt (n : Nat) (h : n < 2 ^ 64) : n / 2 ^ (8 * (numSize n - 1)) < 2 ^ (8 - numSize n) := by
  have hb := numSize_bd n
  rcases Nat.lt_or_ge (numSize n) 9 with h8 | h9
  · have hl := numSize_lt n h (by omega)
    rw [Nat.div_lt_iff_lt_mul (Nat.two_pow_pos _), ← Nat.pow_add]
    rwa [show 8 - numSize n + 8 * (numSize n - 1) = 7 * numSize n from by omega]
  · have : numSize n = 9 := by omega
    rw [this, Nat.div_eq_of_lt (by simpa using h)]
    decide

theorem headOf_lt (n : Nat) (h : n < 2 ^ 64) : headOf n < 256 := by
  have hb := numSize_bd n
  have h1 := top_lt n h
  have h2 := lead_step ⟨numSize n, by omega⟩ hb.1
  simp only at h2
  unfold headOf
  omega

theorem numB_eq (n : Nat) (h : n < 2 ^ 64) : numB n = UInt8.ofNat (headOf n) :: putB n 0 (numSize n - 1) := by
  have hb := numSize_bd n
  have h1 := top_lt n h
  have hle : 2 ^ (8 - numSize n) ≤ 2 ^ 7 := Nat.pow_le_pow_right (by decide) (by omega)
  have h2 := lead_or ⟨numSize n, by omega⟩ ⟨n / 2 ^ (8 * (numSize n - 1)), by omega⟩ hb.1 h1
  simp only at h2
  have hx : n / 2 ^ (8 * (numSize n - 1)) % 256 = n / 2 ^ (8 * (numSize n - 1)) := Nat.mod_eq_of_lt (by omega)
  obtain ⟨r, hr⟩ : ∃ r, numSize n = r + 1 := ⟨numSize n - 1, by omega⟩
  unfold numB headOf
  rw [hr, Nat.add_sub_cancel] at h2 hx ⊢
  rw [putB, hx, h2]

theorem putB_less (n m : Nat) : ∀ r, Op.bytesLess (putB n 0 r) (putB m 0 r) = decide (n % 2 ^ (8 * r) < m % 2 ^ (8 * r))
  | 0 => by simp [putB, Op.bytesLess, Nat.mod_one]
  | r + 1 => by
    have ih := putB_less n m r
    rw [putB, putB, Op.bytesLess, ih, Nat.zero_or, Nat.zero_or]
    rw [show 2 ^ (8 * (r + 1)) = 2 ^ (8 * r) * 256 from by rw [show 8 * (r + 1) = 8 * r + 8 from by omega, Nat.pow_add]]
    rw [Nat.mod_mul, Nat.mod_mul]
    have hP : 0 < 2 ^ (8 * r) := Nat.two_pow_pos _
    generalize 2 ^ (8 * r) = P at *
    have ha : n / P % 256 < 256 := Nat.mod_lt _ (by decide)
    have hb : m / P % 256 < 256 := Nat.mod_lt _ (by decide)
    have hn : n % P < P := Nat.mod_lt _ hP
    have hm : m % P < P := Nat.mod_lt _ hP
    generalize n / P % 256 = a at *
    generalize m / P % 256 = b at *
    generalize n % P = x at *
    generalize m % P = y at *
    have e1 : decide (UInt8.ofNat a < UInt8.ofNat b) = decide (a < b) := by
      congr 1
      rw [UInt8.lt_iff_toNat_lt]
      simp only [UInt8.toNat_ofNat']
      rw [Nat.mod_eq_of_lt (by omega), Nat.mod_eq_of_lt (by omega)]
    have e2 : (UInt8.ofNat a == UInt8.ofNat b) = decide (a = b) := by
      rw [Bool.eq_iff_iff, beq_iff_eq, decide_eq_true_iff]
      constructor
      · intro h
        have := congrArg UInt8.toNat h
        simp only [UInt8.toNat_ofNat'] at this
        omega
      · intro h; rw [h]
    rw [e1, e2]
    rcases Nat.lt_trichotomy a b with h | h | h
    · have : P * (a + 1) ≤ P * b := Nat.mul_le_mul_left P h
      rw [Nat.mul_succ] at this
      simp only [h, decide_true, Bool.true_or]
      simp; omega
    · subst h
      simp
    · have : P * (b + 1) ≤ P * a := Nat.mul_le_mul_left P h
      rw [Nat.mul_succ] at this
      have n1 : ¬ a < b := by omega
      have n2 : ¬ a = b := by omega
      simp only [n1, n2, decide_false, Bool.false_or, Bool.false_and]
      simp; omega

theorem bytesLess_irr : ∀ l : List UInt8, Op.bytesLess l l = false
  | [] => rfl
  | a :: l => by simp [Op.bytesLess, bytesLess_irr l]

theorem cons_less (a b : Nat) (ha : a < 256) (hb : b < 256) (x y : List UInt8) :
    Op.bytesLess (UInt8.ofNat a :: x) (UInt8.ofNat b :: y) = (decide (a < b) || (decide (a = b) && Op.bytesLess x y)) := by
  have e1 : decide (UInt8.ofNat a < UInt8.ofNat b) = decide (a < b) := by
    congr 1
    rw [UInt8.lt_iff_toNat_lt]
    simp only [UInt8.toNat_ofNat']
    rw [Nat.mod_eq_of_lt (by omega), Nat.mod_eq_of_lt (by omega)]
  have e2 : (UInt8.ofNat a == UInt8.ofNat b) = decide (a = b) := by
    rw [Bool.eq_iff_iff, beq_iff_eq, decide_eq_true_iff]
    constructor
    · intro h
      have := congrArg UInt8.toNat h
      simp only [UInt8.toNat_ofNat'] at this
      omega
    · intro h; rw [h]
  rw [Op.bytesLess, e1, e2]

theorem numB_less (n m : Nat) (hn : n < 2 ^ 64) (hm : m < 2 ^ 64) : Op.bytesLess (numB n) (numB m) = decide (n < m) := by
  rw [numB_eq n hn, numB_eq m hm, cons_less _ _ (headOf_lt n hn) (headOf_lt m hm)]
  have bn := numSize_bd n
  have bm := numSize_bd m
  have tn := top_lt n hn
  have tm := top_lt m hm
  unfold headOf
  rcases Nat.lt_trichotomy (numSize n) (numSize m) with h | h | h
  · have hl := lead_next ⟨numSize n, by omega⟩ ⟨numSize m, by omega⟩ bn.1 h
    simp only at hl
    have : n < m := by
      have h3 := numSize_ge m (by omega)
      have h4 := numSize_lt n hn (by omega)
      have : 2 ^ (7 * numSize n) ≤ 2 ^ (7 * (numSize m - 1)) := Nat.pow_le_pow_right (by decide) (by omega)
      omega
    generalize n / 2 ^ (8 * (numSize n - 1)) = x at *
    generalize m / 2 ^ (8 * (numSize m - 1)) = y at *
    rw [decide_eq_true this, decide_eq_true (by omega), Bool.true_or]
  · rw [← h] at tm ⊢
    have hP : 0 < 2 ^ (8 * (numSize n - 1)) := Nat.two_pow_pos _
    rw [putB_less]
    have dn := Nat.div_add_mod n (2 ^ (8 * (numSize n - 1)))
    have dm := Nat.div_add_mod m (2 ^ (8 * (numSize n - 1)))
    have hrn := Nat.mod_lt n hP
    have hrm := Nat.mod_lt m hP
    generalize 2 ^ (8 * (numSize n - 1)) = P at *
    generalize n / P = a at *
    generalize m / P = b at *
    rcases Nat.lt_trichotomy a b with h' | h' | h'
    · have : P * (a + 1) ≤ P * b := Nat.mul_le_mul_left P h'
      rw [Nat.mul_succ] at this
      rw [decide_eq_true (by omega : leadOf (numSize n) + a < leadOf (numSize n) + b), decide_eq_true (by omega : n < m), Bool.true_or]
    · subst h'
      simp only [Nat.lt_irrefl, decide_false, Bool.false_or, decide_true, Bool.true_and]
      congr 1
      simp only [eq_iff_iff]
      omega
    · have : P * (b + 1) ≤ P * a := Nat.mul_le_mul_left P h'
      rw [Nat.mul_succ] at this
      rw [decide_eq_false (by omega : ¬ leadOf (numSize n) + a < leadOf (numSize n) + b), decide_eq_false (by omega : ¬ leadOf (numSize n) + a = leadOf (numSize n) + b), decide_eq_false (by omega : ¬ n < m)]
      rfl
  · have hl := lead_next ⟨numSize m, by omega⟩ ⟨numSize n, by omega⟩ bm.1 h
    simp only at hl
    have : m < n := by
      have h3 := numSize_ge n (by omega)
      have h4 := numSize_lt m hm (by omega)
      have : 2 ^ (7 * numSize m) ≤ 2 ^ (7 * (numSize n - 1)) := Nat.pow_le_pow_right (by decide) (by omega)
      omega
    generalize n / 2 ^ (8 * (numSize n - 1)) = x at *
    generalize m / 2 ^ (8 * (numSize m - 1)) = y at *
    rw [decide_eq_false (by omega : ¬ n < m), decide_eq_false (by omega), decide_eq_false (by omega)]
    rfl

theorem numB_inj (n m : Nat) (hn : n < 2 ^ 64) (hm : m < 2 ^ 64) (h : numB n = numB m) : n = m := by
  have h1 := numB_less n m hn hm
  have h2 := numB_less m n hm hn
  rw [h, bytesLess_irr] at h1
  rw [h, bytesLess_irr] at h2
  have := of_decide_eq_false h1.symm
  have := of_decide_eq_false h2.symm
  omega
theorem numB_length (n : Nat) : (numB n).length = numSize n := putB_length n _ _
end Go.Proofs.YtgpfognglpfmoaaGreatDoor
end
section
/- What is put is read again; no other bytes are read so: in plain words. -/
namespace Go.Proofs.YtgpfognglpfmoaaGreatDoor
open Go.RowKit

theorem size_of_head : ∀ (k : Fin 10) (x : Fin 256), 1 ≤ k.val → x.val < 2 ^ (8 - k.val) → 9 - Lib.bitLen (255 - (leadOf k.val + x.val)) = k.val := by decide +kernel
theorem strip_head : ∀ (k : Fin 10) (x : Fin 256), 1 ≤ k.val → x.val < 2 ^ (8 - k.val) → (leadOf k.val + x.val) &&& (255 - leadOf k.val) = x.val := by decide +kernel
theorem head_of_size : ∀ h : Fin 256, 1 ≤ 9 - Lib.bitLen (255 - h.val) ∧ 9 - Lib.bitLen (255 - h.val) ≤ 9 ∧ leadOf (9 - Lib.bitLen (255 - h.val)) ≤ h.val ∧ h.val - leadOf (9 - Lib.bitLen (255 - h.val)) < 2 ^ (8 - (9 - Lib.bitLen (255 - h.val))) ∧
    (h.val &&& (255 - leadOf (9 - Lib.bitLen (255 - h.val)))) = h.val - leadOf (9 - Lib.bitLen (255 - h.val)) := by decide +kernel

theorem byte_ofNat (x : Nat) (h : x < 256) : (UInt8.ofNat x).toNat = x := by simp; omega
theorem ofNat_byte (u : UInt8) : UInt8.ofNat u.toNat = u := by simp

theorem and255 (x : Nat) (h : x < 256) : x &&& 255 = x := by
  have := Nat.and_two_pow_sub_one_eq_mod x 8
  simp only [Nat.reducePow, Nat.reduceSub] at this
  rw [this]; omega

/-- Numbers' bytes behind the head, added up, are the number again. -/
theorem acc_putB (n : Nat) (hn : n < 18446744073709551616) : ∀ r, numAcc (n / 2 ^ (8 * r)) 0 (putB n 0 r) = n
  | 0 => by simp [putB, numAcc]
  | r + 1 => by
    rw [putB, numAcc, Nat.zero_or, byte_ofNat _ (Nat.mod_lt _ (by decide)), Nat.sub_zero, and255 _ (Nat.mod_lt _ (by decide))]
    have e : n / 2 ^ (8 * (r + 1)) = n / 2 ^ (8 * r) / 256 := by
      rw [show 8 * (r + 1) = 8 * r + 8 from by omega, Nat.pow_add, ← Nat.div_div_eq_div_mul]
    have hl : n / 2 ^ (8 * r) ≤ n := Nat.div_le_self _ _
    rw [e]
    have : n / 2 ^ (8 * r) / 256 * 256 % 18446744073709551616 + n / 2 ^ (8 * r) % 256 = n / 2 ^ (8 * r) := by omega
    rw [this]
    exact acc_putB n hn r

/-- Bytes added up: what comes out, parted, is these bytes. -/
theorem acc_back : ∀ (t : List UInt8) (acc : Nat), t.length ≤ 8 → acc < 2 ^ (64 - 8 * t.length) →
    numAcc acc 0 t / 2 ^ (8 * t.length) = acc ∧ putB (numAcc acc 0 t) 0 t.length = t
  | [], acc, _, _ => by simp [numAcc, putB]
  | c :: t, acc, hl, ha => by
    simp only [List.length_cons] at hl ha ⊢
    have hc : c.toNat < 256 := c.toNat_lt
    have hp : 2 ^ (64 - 8 * (t.length + 1)) * 256 = 2 ^ (64 - 8 * t.length) := by
      rw [show (64 - 8 * t.length) = (64 - 8 * (t.length + 1)) + 8 from by omega, Nat.pow_add]
    have hb : acc * 256 + c.toNat < 2 ^ (64 - 8 * t.length) := by rw [← hp]; omega
    have h64 : 2 ^ (64 - 8 * t.length) ≤ 2 ^ 64 := Nat.pow_le_pow_right (by decide) (by omega)
    have hstep : numAcc acc 0 (c :: t) = numAcc (acc * 256 + c.toNat) 0 t := by
      rw [numAcc, Nat.sub_zero, and255 _ hc]
      congr 1
      omega
    obtain ⟨i1, i2⟩ := acc_back t (acc * 256 + c.toNat) (by omega) hb
    rw [hstep]
    refine ⟨?_, ?_⟩
    · rw [show 8 * (t.length + 1) = 8 * t.length + 8 from by omega, Nat.pow_add, ← Nat.div_div_eq_div_mul, i1]
      omega
    · rw [putB, i1, i2, Nat.zero_or, show (acc * 256 + c.toNat) % 256 = c.toNat from by omega, ofNat_byte]

theorem sizeAt_numB (n : Nat) (hn : n < 2 ^ 64) (t : List UInt8) : sizeAt (numB n ++ t) = numSize n := by
  have hb := numSize_bd n
  have h1 := top_lt n hn
  have hle : 2 ^ (8 - numSize n) ≤ 2 ^ 7 := Nat.pow_le_pow_right (by decide) (by omega)
  rw [numB_eq n hn, List.cons_append, sizeAt, byte_ofNat _ (headOf_lt n hn)]
  exact size_of_head ⟨numSize n, by omega⟩ ⟨n / 2 ^ (8 * (numSize n - 1)), by omega⟩ hb.1 h1

theorem numOf_numB (n : Nat) (hn : n < 2 ^ 64) : numOf (numB n) = n := by
  have hb := numSize_bd n
  have h1 := top_lt n hn
  have hle : 2 ^ (8 - numSize n) ≤ 2 ^ 7 := Nat.pow_le_pow_right (by decide) (by omega)
  have hs := strip_head ⟨numSize n, by omega⟩ ⟨n / 2 ^ (8 * (numSize n - 1)), by omega⟩ hb.1 h1
  simp only at hs
  rw [numOf, numB_length]
  have e := numB_eq n hn
  rw [e, numAcc, byte_ofNat _ (headOf_lt n hn)]
  have : 0 * 256 % 18446744073709551616 + (headOf n &&& (255 - leadOf (numSize n))) = n / 2 ^ (8 * (numSize n - 1)) := by
    unfold headOf
    omega
  rw [this]
  exact acc_putB n (by simpa using hn) _

theorem rdNum_put (n : Nat) (hn : n < 2 ^ 64) (t : List UInt8) : rdNum (numB n ++ t) 0 = (n, t, 0) := by
  have hl := numB_length n
  have ht : (numB n ++ t).take (numSize n) = numB n := by rw [← hl, List.take_left]
  have hd : (numB n ++ t).drop (numSize n) = t := by rw [← hl, List.drop_left]
  rw [rdNum, if_pos rfl, sizeAt_numB n hn, if_pos (by rw [List.length_append, hl]; omega), ht, hd, numOf_numB n hn, if_neg (Nat.lt_irrefl _)]

theorem tk_put (p t : List UInt8) (k : Nat) (h : p.length = k) : tk k (p ++ t) 0 = (p, t, 0) := by
  subst h
  rw [tk, if_pos rfl, if_pos (by simp), List.take_left, List.drop_left]

theorem rdBlk_put (p t : List UInt8) (hp : p.length < 2 ^ 64) : rdBlk (numB p.length ++ (p ++ t)) 0 = (p, t, 0) := by
  rw [rdBlk, if_pos rfl, rdNum_put _ hp]
  simp only [tk_put p t _ rfl]
  rw [if_pos trivial]

theorem leNat_wordB (n : Nat) : ∀ k, leNat (OwordB n k) = n % 2 ^ (8 * k)
  | 0 => by simp [OwordB, leNat, Nat.mod_one]
  | k + 1 => by
    have hw : OwordB n (k + 1) = OwordB n k ++ [UInt8.ofNat (n / 2 ^ (8 * k) % 256)] := by
      rw [OwordB, OwordB, List.range_succ, List.map_append]; rfl
    rw [hw, leNat_snoc, leNat_wordB n k, byte_ofNat _ (Nat.mod_lt _ (by decide)), show (OwordB n k).length = k from by simp [OwordB]]
    rw [show 8 * (k + 1) = 8 * k + 8 from by omega, Nat.pow_add, Nat.mod_mul]
    congr 1
    exact Nat.mul_comm _ _

/-- A number that is read stands there as it is put. -/
theorem rdNum_back (b : List UInt8) (h : (rdNum b 0).2.2 = 0) : b = numB (rdNum b 0).1 ++ (rdNum b 0).2.1 := by
  unfold rdNum at h ⊢
  rw [if_pos rfl] at h ⊢
  split at h
  · rename_i hs
    rw [if_pos hs]
    split at h
    · cases h
    · rename_i hk
      rw [if_neg hk]
      simp only
      cases b with
      | nil => simp [sizeAt] at hs
      | cons c t =>
        have hf := head_of_size ⟨c.toNat, c.toNat_lt⟩
        simp only [] at hf
        have hsz : sizeAt (c :: t) = 9 - Lib.bitLen (255 - c.toNat) := rfl
        generalize hS : 9 - Lib.bitLen (255 - c.toNat) = s at hf
        rw [hS] at hsz
        rw [hsz] at hs hk ⊢
        obtain ⟨f1, f2, f3, f4, f5⟩ := hf
        obtain ⟨r, rfl⟩ : ∃ r, s = r + 1 := ⟨s - 1, by omega⟩
        simp only [List.length_cons] at hs
        have hlen : (t.take r).length = r := by rw [List.length_take]; omega
        have htk : (c :: t).take (r + 1) = c :: t.take r := rfl
        have hnum : numOf ((c :: t).take (r + 1)) = numAcc (c.toNat - leadOf (r + 1)) 0 (t.take r) := by
          rw [htk, numOf, List.length_cons, hlen, numAcc, f5]
          congr 1
          omega
        have hacc : c.toNat - leadOf (r + 1) < 2 ^ (64 - 8 * (t.take r).length) := by
          rw [hlen]
          exact Nat.lt_of_lt_of_le f4 (Nat.pow_le_pow_right (by decide) (by omega))
        obtain ⟨i1, i2⟩ := acc_back (t.take r) (c.toNat - leadOf (r + 1)) (by omega) hacc
        rw [hlen] at i1 i2
        have hult := numOf_lt ((c :: t).take (r + 1))
        rw [hnum] at hult hk ⊢
        generalize numAcc (c.toNat - leadOf (r + 1)) 0 (t.take r) = u at *
        have hsize : numSize u = r + 1 := by
          have hb := numSize_bd u
          rcases Nat.lt_or_ge (r + 1) (numSize u) with hg | hg
          · have h2 := numSize_ge u (by omega)
            have h3 : u < 2 ^ (7 * (r + 1)) := by
              have : u / 2 ^ (8 * r) < 2 ^ (8 - (r + 1)) := by rw [i1]; exact f4
              rw [Nat.div_lt_iff_lt_mul (Nat.two_pow_pos _), ← Nat.pow_add] at this
              rwa [show 8 - (r + 1) + 8 * r = 7 * (r + 1) from by omega] at this
            have h4 : 2 ^ (7 * (r + 1)) ≤ 2 ^ (7 * (numSize u - 1)) := Nat.pow_le_pow_right (by decide) (by omega)
            omega
          · omega
        have hhead : headOf u = c.toNat := by
          unfold headOf
          rw [hsize, Nat.add_sub_cancel, i1]
          omega
        rw [numB_eq u (by simpa using hult), hhead, hsize, Nat.add_sub_cancel, i2, ofNat_byte]
        simp
  · cases h

theorem rdBlk_back (b : List UInt8) (h : (rdBlk b 0).2.2 = 0) : b = numB (rdBlk b 0).1.length ++ ((rdBlk b 0).1 ++ (rdBlk b 0).2.1) := by
  unfold rdBlk at h ⊢
  rw [if_pos rfl] at h ⊢
  split at h
  · rename_i hz
    rw [if_pos hz]
    have he : (rdNum b 0).2.2 = 0 := by
      unfold tk at hz
      split at hz
      · assumption
      · exact hz
    have hb := rdNum_back b he
    unfold tk at hz ⊢
    rw [if_pos he] at hz ⊢
    split at hz
    · rename_i hl
      rw [if_pos hl]
      simp only
      rw [List.take_append_drop, List.length_take, Nat.min_eq_left hl]
      exact hb
    · cases hz
  · rename_i hz
    exact absurd h hz
end Go.Proofs.YtgpfognglpfmoaaGreatDoor
end
section
/- What sha's functions answer, as plain functions on words and bytes. -/
namespace Go.Proofs.YtgpfognglpfmoaaGreatDoor

/-- A word turned right by k places. -/
def rotr (k : Nat) (x : UInt64) : UInt64 := UInt64.ofNat ((x.toNat * 2 ^ (64 - k) % 18446744073709551616) ||| (x.toNat / 2 ^ k))
def rot3 (a b c : Nat) (x : UInt64) : UInt64 := rotr a x ^^^ rotr b x ^^^ rotr c x
def shf3 (a b c : Nat) (x : UInt64) : UInt64 := rotr a x ^^^ rotr b x ^^^ UInt64.ofNat (x.toNat / 2 ^ c)
def wordStep (n : UInt64) (b : UInt8) : UInt64 := UInt64.ofNat (n.toNat * 256 % 18446744073709551616 ||| b.toNat)
/-- Eight bytes as a word, the high one first. -/
def wordOf (l : List UInt8) : UInt64 := l.foldl wordStep 0
/-- The first t bytes of a word. -/
def wordB : Nat → UInt64 → List UInt8
  | 0, _ => []
  | t + 1, n => wordB t n ++ [UInt8.ofNat (n.toNat / 2 ^ (56 - 8 * t) % 256)]
def nextW (p : List UInt8) (t : Nat) (ws : List UInt64) : UInt64 :=
  if t < 16 then wordOf ((p.drop (8 * t)).take 8) else ws.getD (t - 16) 0 + shf3 1 8 7 (ws.getD (t - 15) 0) + ws.getD (t - 7) 0 + shf3 19 61 6 (ws.getD (t - 2) 0)
/-- The first t words made from a piece. -/
def sch (p : List UInt8) : Nat → List UInt64
  | 0 => []
  | t + 1 => sch p t ++ [nextW p t (sch p t)]
structure S8 where
  a : UInt64
  b : UInt64
  c : UInt64
  d : UInt64
  e : UInt64
  f : UInt64
  g : UInt64
  h : UInt64
def S8.list (s : S8) : List UInt64 := [s.a, s.b, s.c, s.d, s.e, s.f, s.g, s.h]
def S8.of (l : List UInt64) : S8 := ⟨l.getD 0 0, l.getD 1 0, l.getD 2 0, l.getD 3 0, l.getD 4 0, l.getD 5 0, l.getD 6 0, l.getD 7 0⟩
def round (k w : UInt64) (s : S8) : S8 :=
  let t1 := s.h + rot3 14 18 41 s.e + (s.e &&& s.f ^^^ ~~~s.e &&& s.g) + k + w
  let t2 := rot3 28 34 39 s.a + (s.a &&& s.b ^^^ s.a &&& s.c ^^^ s.b &&& s.c)
  ⟨t1 + t2, s.a, s.b, s.c, s.d + t1, s.e, s.f, s.g⟩
def rounds (K W : List UInt64) : Nat → S8 → S8
  | 0, s => s
  | t + 1, s => round (K.getD t 0) (W.getD t 0) (rounds K W t s)
/-- The eight words behind a piece. -/
def mix (K st : List UInt64) (p : List UInt8) : List UInt64 := List.zipWith (· + ·) st (rounds K (sch p 80) 80 (S8.of st)).list
/-- The words behind n pieces. -/
def eat (K : List UInt64) : Nat → List UInt64 → List UInt8 → List UInt64
  | 0, st, _ => st
  | n + 1, st, l => eat K n (mix K st (l.take 128)) (l.drop 128)
/-- What stands behind n bytes. -/
def padB (n : Nat) : List UInt8 := 128 :: List.replicate ((239 - n % 128) % 128) 0 ++ wordB 8 (UInt64.ofNat (n * 8 / 18446744073709551616)) ++ wordB 8 (UInt64.ofNat (n * 8 % 18446744073709551616))
def signsOf (st : List UInt64) : List UInt8 := st.flatMap (wordB 8)
/-- The sum of all bytes l. -/
def sumOf (K st : List UInt64) (l : List UInt8) : List UInt8 := signsOf (eat K ((l ++ padB l.length).length / 128) st (l ++ padB l.length))
end Go.Proofs.YtgpfognglpfmoaaGreatDoor
end
section
/- Words turned and shifted: rotated, shifted. -/
namespace Go.Proofs.YtgpfognglpfmoaaGreatDoor
open Go.RowKit
theorem ret_int {k : IntKind} {a b : Int} (h : a = b) : Ending.returned (.int k a) = .returned (.int k b) := by rw [h]
theorem val_int {k : IntKind} {a b : Int} (h : a = b) : Value.int k a = .int k b := by rw [h]
theorem wrapU (z : Int) : IntKind.u64.wrap z = z % 18446744073709551616 := by simp [IntKind.wrap, IntKind.signed, IntKind.bits]
theorem wrapN (n : Nat) : IntKind.u64.wrap (n : Int) = ((n % 18446744073709551616 : Nat) : Int) := by rw [wrapU]; simp
theorem rot_and : ∀ m : Fin 64, 1 ≤ m.val → bits BinOp.and IntKind.u64 (IntKind.u64.wrap (-(64 - (m.val : Int)))) 63 = (m.val : Int) := by decide +kernel
/-- Nothing changes. -/
def Sm (w w' : World) : Prop := w' = w
theorem Sm.stays : Stays Sm := ⟨fun _ => rfl, fun h k => k.trans h⟩
theorem toNat_of {n : Nat} (h : n < 18446744073709551616) : (UInt64.ofNat n).toNat = n := UInt64.toNat_ofNat_of_lt' h

theorem wrapI_neg' : ∀ m : Fin 64, IntKind.i64.wrap (-(m.val : Int)) = -(m.val : Int) := by decide +kernel
theorem wrapI_neg {a : Nat} (h : a ≤ 63) : IntKind.i64.wrap (-(a : Int)) = -(a : Int) := wrapI_neg' ⟨a, by omega⟩

set_option maxHeartbeats 400000 in
theorem rot_any (x : UInt64) (n : Int) (k : Nat) (hk : 1 ≤ k) (hk2 : k ≤ 63) (hn : n = -(k : Int)) (w : World) : Calls Tryz.prog 190 #[.int .u64 (x.toNat : Int), .int .i64 n] w fun e w' => e = .returned (.int .u64 ((rotr k x).toNat : Int)) ∧ w' = w := by
  have hx : x.toNat < 18446744073709551616 := x.toNat_lt
  obtain ⟨m, hm, hkm, hm1, hm2⟩ : ∃ m : Nat, n = -(64 - (m : Int)) ∧ 64 - k = m ∧ 1 ≤ m ∧ m ≤ 63 := ⟨64 - k, by omega, rfl, by omega, by omega⟩
  have ha := rot_and ⟨m, by omega⟩ hm1
  simp only at ha
  subst hm
  clear hn
  go_enter Tryz.func190, Tryz.ntmps190
  go_wp2
  go_ret
  refine ⟨ret_int ?_, rfl⟩
  unfold rotr
  rw [hkm, show 64 - m = k from by omega]
  have e1 : IntKind.u64.wrap ((x.toNat : Int) * 2 ^ m) = ((x.toNat * 2 ^ m % 18446744073709551616 : Nat) : Int) := by
    rw [← wrapN]; simp
  have e2 : ((x.toNat : Int) / 2 ^ k) = ((x.toNat / 2 ^ k : Nat) : Int) := by simp
  have b1 : x.toNat * 2 ^ m % 18446744073709551616 < 18446744073709551616 := Nat.mod_lt _ (by omega)
  have b2 : x.toNat / 2 ^ k < 18446744073709551616 := Nat.lt_of_le_of_lt (Nat.div_le_self _ _) hx
  have : x.toNat * 2 ^ m % 18446744073709551616 ||| x.toNat / 2 ^ k < 2 ^ 64 := Nat.or_lt_two_pow (by omega) (by omega)
  rw [e1, e2, u64_or_nat _ _ b1 b2, toNat_of this]

theorem xorU (x y : UInt64) : bits .xor .u64 (x.toNat : Int) (y.toNat : Int) = ((x ^^^ y).toNat : Int) := by rw [u64_xor_nat _ _ x.toNat_lt y.toNat_lt, UInt64.toNat_xor]
theorem andU (x y : UInt64) : bits .and .u64 (x.toNat : Int) (y.toNat : Int) = ((x &&& y).toNat : Int) := by rw [u64_and_nat _ _ x.toNat_lt y.toNat_lt, UInt64.toNat_and]
theorem orU (x y : UInt64) : bits .or .u64 (x.toNat : Int) (y.toNat : Int) = ((x ||| y).toNat : Int) := by rw [u64_or_nat _ _ x.toNat_lt y.toNat_lt, UInt64.toNat_or]
theorem addU (x y : UInt64) : IntKind.u64.wrap ((x.toNat : Int) + (y.toNat : Int)) = ((x + y).toNat : Int) := by
  rw [UInt64.toNat_add, ← wrapN]; simp
theorem divU (x : UInt64) (c : Nat) : ((x.toNat : Int) / 2 ^ c) = ((UInt64.ofNat (x.toNat / 2 ^ c)).toNat : Int) := by
  rw [toNat_of (Nat.lt_of_le_of_lt (Nat.div_le_self _ _) x.toNat_lt)]; simp

set_option maxHeartbeats 400000 in
theorem rot3_any (x : UInt64) (a b c : Nat) (ha : 1 ≤ a ∧ a ≤ 63) (hb : 1 ≤ b ∧ b ≤ 63) (hc : 1 ≤ c ∧ c ≤ 63) (w : World) :
    Calls Tryz.prog 186 #[.int .u64 (x.toNat : Int), .int .i64 a, .int .i64 b, .int .i64 c] w fun e w' => e = .returned (.int .u64 ((rot3 a b c x).toNat : Int)) ∧ w' = w := by
  have hx : x.toNat < 18446744073709551616 := x.toNat_lt
  go_enter Tryz.func186, Tryz.ntmps186
  go_wp2_with fail
  refine (rot_any x _ a ha.1 ha.2 rfl _).mono ?_; rintro e w1 ⟨rfl, rfl⟩
  go_wp2_with fail
  refine (rot_any x _ b hb.1 hb.2 rfl _).mono ?_; rintro e w1 ⟨rfl, rfl⟩
  go_wp2_with fail
  refine (rot_any x _ c hc.1 hc.2 rfl _).mono ?_; rintro e w1 ⟨rfl, rfl⟩
  go_wp2
  go_ret
  refine ⟨ret_int ?_, rfl⟩
  rw [xorU, xorU, rot3]

set_option maxHeartbeats 400000 in
theorem shf3_any (x : UInt64) (a b c : Nat) (ha : 1 ≤ a ∧ a ≤ 63) (hb : 1 ≤ b ∧ b ≤ 63) (hc : 1 ≤ c ∧ c ≤ 63) (w : World) :
    Calls Tryz.prog 189 #[.int .u64 (x.toNat : Int), .int .i64 a, .int .i64 b, .int .i64 c] w fun e w' => e = .returned (.int .u64 ((shf3 a b c x).toNat : Int)) ∧ Below w.heap.size w w' := by
  have hx : x.toNat < 18446744073709551616 := x.toNat_lt
  go_enter Tryz.func189, Tryz.ntmps189
  go_wp2_with fail
  have hR := Sm.stays
  refine reg_start Sm follows_mixed ?_
-- region 1 of f34: 14 operations, draws: true
  refine reg_take (v := ?_) hR 0 rfl (by kernel_rfl) (by kernel_rfl) (by kernel_rfl) (fun _ _ _ h => h) (by rfl) ?_ ?_
  rotate_left
  · intro W hW; go_simp; try with_reducible rfl
  try simp only [Act.put, List.getElem_toArray, List.getElem_cons_succ, List.getElem_cons_zero, List.setIfInBounds_toArray, List.set_cons_zero, List.set_cons_succ]
  refine reg_take (v := ?_) hR 1 rfl (by kernel_rfl) (by kernel_rfl) (by kernel_rfl) (fun _ _ _ h => h) (by rfl) ?_ ?_
  rotate_left
  · intro W hW; go_simp; try with_reducible rfl
  try simp only [Act.put, List.getElem_toArray, List.getElem_cons_succ, List.getElem_cons_zero, List.setIfInBounds_toArray, List.set_cons_zero, List.set_cons_succ]
  refine reg_take (v := ?_) hR 2 rfl (by kernel_rfl) (by kernel_rfl) (by kernel_rfl) (fun _ _ _ h => h) (by rfl) ?_ ?_
  rotate_left
  · intro W hW; go_simp; try with_reducible rfl
  try simp only [Act.put, List.getElem_toArray, List.getElem_cons_succ, List.getElem_cons_zero, List.setIfInBounds_toArray, List.set_cons_zero, List.set_cons_succ]
  refine reg_take (v := ?_) hR 4 rfl (by kernel_rfl) (by kernel_rfl) (by kernel_rfl) (fun _ _ _ h => h) (by rfl) ?_ ?_
  rotate_left
  · intro W hW; go_simp; try with_reducible rfl
  try simp only [Act.put, List.getElem_toArray, List.getElem_cons_succ, List.getElem_cons_zero, List.setIfInBounds_toArray, List.set_cons_zero, List.set_cons_succ]
  refine reg_take (v := ?_) hR 5 rfl (by kernel_rfl) (by kernel_rfl) (by kernel_rfl) (fun _ _ _ h => h) (by rfl) ?_ ?_
  rotate_left
  · intro W hW; go_simp; try with_reducible rfl
  try simp only [Act.put, List.getElem_toArray, List.getElem_cons_succ, List.getElem_cons_zero, List.setIfInBounds_toArray, List.set_cons_zero, List.set_cons_succ]
  refine reg_take (v := ?_) hR 6 rfl (by kernel_rfl) (by kernel_rfl) (by kernel_rfl) (fun _ _ _ h => h) (by rfl) ?_ ?_
  rotate_left
  · intro W hW; go_simp; try with_reducible rfl
  try simp only [Act.put, List.getElem_toArray, List.getElem_cons_succ, List.getElem_cons_zero, List.setIfInBounds_toArray, List.set_cons_zero, List.set_cons_succ]
  refine reg_take (v := ?_) hR 9 rfl (by kernel_rfl) (by kernel_rfl) (by kernel_rfl) (fun _ _ _ h => h) (by rfl) ?_ ?_
  rotate_left
  · intro W hW; go_simp; try with_reducible rfl
  try simp only [Act.put, List.getElem_toArray, List.getElem_cons_succ, List.getElem_cons_zero, List.setIfInBounds_toArray, List.set_cons_zero, List.set_cons_succ]
  refine reg_take (v := ?_) hR 10 rfl (by kernel_rfl) (by kernel_rfl) (by kernel_rfl) (fun _ _ _ h => h) (by rfl) ?_ ?_
  rotate_left
  · intro W hW; go_simp; try with_reducible rfl
  try simp only [Act.put, List.getElem_toArray, List.getElem_cons_succ, List.getElem_cons_zero, List.setIfInBounds_toArray, List.set_cons_zero, List.set_cons_succ]
  refine reg_take (v := ?_) hR 11 rfl (by kernel_rfl) (by kernel_rfl) (by kernel_rfl) (fun _ _ _ h => h) (by rfl) ?_ ?_
  rotate_left
  · intro W hW; go_simp; try with_reducible rfl
  try simp only [Act.put, List.getElem_toArray, List.getElem_cons_succ, List.getElem_cons_zero, List.setIfInBounds_toArray, List.set_cons_zero, List.set_cons_succ]
  -- STEP 3: Op.call { callee := Callee.value (Operand.func 190), args := #[t9, t11], argTypes := #[40, 3] }
  refine reg_step hR 3 (by kernel_rfl) rfl fun K hK => ?_
  try simp only [Act.put, List.getElem_toArray, List.getElem_cons_succ, List.getElem_cons_zero, List.setIfInBounds_toArray, List.set_cons_zero, List.set_cons_succ]
  go_simp
  refine (rot_any x _ a ha.1 ha.2 (wrapI_neg ha.2) _).mono ?_; rintro e w1 ⟨rfl, rfl⟩
  refine hK.out _ _ ?_ ?_
  · exact rfl
  clear hK K
  try simp only [Act.put, List.getElem_toArray, List.getElem_cons_succ, List.getElem_cons_zero, List.setIfInBounds_toArray, List.set_cons_zero, List.set_cons_succ]
  -- STEP 7: Op.call { callee := Callee.value (Operand.func 190), args := #[t13, t15], argTypes := #[40, 3] }
  refine reg_step hR 7 (by kernel_rfl) rfl fun K hK => ?_
  try simp only [Act.put, List.getElem_toArray, List.getElem_cons_succ, List.getElem_cons_zero, List.setIfInBounds_toArray, List.set_cons_zero, List.set_cons_succ]
  go_simp
  refine (rot_any x _ b hb.1 hb.2 (wrapI_neg hb.2) _).mono ?_; rintro e w1 ⟨rfl, rfl⟩
  refine hK.out _ _ ?_ ?_
  · exact rfl
  clear hK K
  try simp only [Act.put, List.getElem_toArray, List.getElem_cons_succ, List.getElem_cons_zero, List.setIfInBounds_toArray, List.set_cons_zero, List.set_cons_succ]
  refine reg_take (v := ?_) hR 8 rfl (by kernel_rfl) (by kernel_rfl) (by kernel_rfl) (fun _ _ _ h => h) (by rfl) ?_ ?_
  rotate_left
  · intro W hW; go_simp; try with_reducible rfl
  try simp only [Act.put, List.getElem_toArray, List.getElem_cons_succ, List.getElem_cons_zero, List.setIfInBounds_toArray, List.set_cons_zero, List.set_cons_succ]
  refine reg_take (v := ?_) hR 12 rfl (by kernel_rfl) (by kernel_rfl) (by kernel_rfl) (fun _ _ _ h => h) (by rfl) ?_ ?_
  rotate_left
  · intro W hW; go_simp; try with_reducible rfl
  try simp only [Act.put, List.getElem_toArray, List.getElem_cons_succ, List.getElem_cons_zero, List.setIfInBounds_toArray, List.set_cons_zero, List.set_cons_succ]
  refine reg_take (v := ?_) hR 13 rfl (by kernel_rfl) (by kernel_rfl) (by kernel_rfl) (fun _ _ _ h => h) (by rfl) ?_ ?_
  rotate_left
  · intro W hW; go_simp; try with_reducible rfl
  try simp only [Act.put, List.getElem_toArray, List.getElem_cons_succ, List.getElem_cons_zero, List.setIfInBounds_toArray, List.set_cons_zero, List.set_cons_succ]
  refine reg_done (by kernel_rfl) ?_ _

  go_wp2
  go_ret
  refine ⟨ret_int ?_, (Below.refl _ _).drew⟩
  rw [divU, xorU, xorU, shf3]
end Go.Proofs.YtgpfognglpfmoaaGreatDoor
end
section
/- Rows of words and bytes: read, written; a word read out of bytes. -/
namespace Go.Proofs.YtgpfognglpfmoaaGreatDoor
open Go.RowKit

/-- The cell of a word. -/
def B64 (u : UInt64) : Value := .int .u64 (u.toNat : Int)
def cs64 (l : List UInt64) : List Value := l.map B64
theorem cs64_length (l : List UInt64) : (cs64 l).length = l.length := by simp [cs64]
theorem cs64_one (l : List UInt64) : (cs64 l).toArray.all (·.oneCell') = true := by
  simp [cs64, B64]
  intro u _
  rfl
theorem cs8_all (l : List UInt8) : (cs8 l).toArray.all (·.oneCell') = true := by
  simp [cs8, B8]
  intro u _
  rfl

theorem run_index8 {T : TypeId} {n : Nat} (hu : Tryz.prog.underlying T = some (.array n 5)) {cs : Array Value} {t : Nat} {v : Value} (ht : t < n) (hc : cs[t]? = some v) (w : World) :
    (Instr.index T (.agg cs) (.int .i64 (t : Int))).run Tryz.prog w = .ok v w := by
  simp [Instr.index, run_underlying hu, asIntOf, ht, Tryz.sizeOf5, part, Tryz.isAgg5, hc, go_sem]
theorem run_index64 {T : TypeId} {n : Nat} (hu : Tryz.prog.underlying T = some (.array n 40)) {cs : Array Value} {t : Nat} {v : Value} (ht : t < n) (hc : cs[t]? = some v) (w : World) :
    (Instr.index T (.agg cs) (.int .i64 (t : Int))).run Tryz.prog w = .ok v w := by
  simp [Instr.index, run_underlying hu, asIntOf, ht, Tryz.sizeOf40, part, Tryz.isAgg40, hc, go_sem]

theorem info69 : (Tryz.prog.info? 217).map (·.size) = some 8 := by kernel_rfl
theorem info41 : (Tryz.prog.info? 209).map (·.size) = some 128 := by kernel_rfl
theorem info38 : (Tryz.prog.info? 161).map (·.size) = some 8 := by kernel_rfl
theorem info47 : (Tryz.prog.info? 160).map (·.size) = some 80 := by kernel_rfl
theorem info33 : (Tryz.prog.info? 165).map (·.size) = some 64 := by kernel_rfl
theorem info36 : (Tryz.prog.info? 59).map (·.size) = some 32 := by kernel_rfl
theorem info49 : (Tryz.prog.info? 163).map (·.size) = some 96 := by kernel_rfl
theorem info60 : (Tryz.prog.info? 186).map (·.size) = some 10 := by kernel_rfl

theorem foldW (p : List UInt8) (t : Nat) (h : t < p.length) : (p.take (t + 1)).foldl wordStep 0 = wordStep ((p.take t).foldl wordStep 0) p[t] := by
  rw [List.take_succ_eq_append_getElem h, List.foldl_append]; rfl

theorem step_word (N : UInt64) (b : UInt8) : bits .or .u64 (IntKind.u64.wrap ((N.toNat : Int) * 256)) (b.toNat : Int) = ((wordStep N b).toNat : Int) := by
  have e1 : IntKind.u64.wrap ((N.toNat : Int) * 256) = ((N.toNat * 256 % 18446744073709551616 : Nat) : Int) := by
    rw [← wrapN]; simp
  have hb : b.toNat < 256 := b.toNat_lt
  rw [e1, u64_or_nat _ _ (Nat.mod_lt _ (by omega)) (by omega), wordStep]
  have : N.toNat * 256 % 18446744073709551616 ||| b.toNat < 2 ^ 64 := Nat.or_lt_two_pow (by omega) (by omega)
  rw [toNat_of this]

set_option maxHeartbeats 400000 in
theorem Word_any (p : List UInt8) (hp : p.length = 8) (w : World) : Calls Tryz.prog 188 #[.agg (cs8 p).toArray] w fun e w' => e = .returned (.int .u64 ((wordOf p).toNat : Int)) ∧ Below w.heap.size w w' := by
  have HS := Lib.hid (show (cs8 p).toArray.size = 8 by simp [cs8, hp])
  go_enter Tryz.func188, Tryz.ntmps188
  go_wp2_with (refine wpList_load_row rfl 217 _ rfl w.heap.size rfl 217 _ (0, 0) _ (heap_alloc_new w _) Tryz.underlying217 rfl (by rw [HS.out]; exact info69) ?_)
  go_loopw [3, 7] (fun vn vi wr => ∃ t : Nat, t ≤ 8 ∧ vi = .int .i64 (t : Int) ∧ vn = .int .u64 ((((p.take t).foldl wordStep 0).toNat : Nat) : Int) ∧ Below w.heap.size w wr) (fun _ vi _ => 8 - (intOf vi).toNat)
  case atStart => exact ⟨0, by omega, rfl, by simp, (Below.refl _ _).alloc (Nat.le_refl _) _⟩
  case round =>
    obtain ⟨t, ht, rfl, rfl, hb⟩ := hrel
    by_cases hlt : t < 8
    · have hc : (cs8 p).toArray[t]? = some (.int .u8 ((p[t]'(by omega)).toNat : Int)) := by simp [cs8, hp, hlt, B8]
      have hx := run_index8 Tryz.underlying217 hlt hc
      have HN := Lib.hid (foldW p t (by omega))
      generalize (p.take t).foldl wordStep 0 = N at HN ⊢
      generalize p[t]'(by omega) = b at hc hx HN
      have HW := Lib.hid (step_word N b)
      have hbb : b.toNat < 256 := b.toNat_lt
      clear hc
      go_wp2
      go_roundw
      case rel => exact ⟨t + 1, by omega, by go_num, by rw [HW.out, HN.out], hb⟩
      case measure => simp [intOf]; omega
    · go_wp2
      go_ret
      obtain rfl : t = 8 := by omega
      rw [List.take_of_length_le (by omega)]
      exact ⟨rfl, hb⟩
end Go.Proofs.YtgpfognglpfmoaaGreatDoor
end
