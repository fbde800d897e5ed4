/- What is put is read again; no other bytes are read so: in plain words. -/
import Derived.Test.YtjaoaikcmbfnmaaRdm
import Derived.Test.YtjaoaikcmbfnmaaNum
namespace Go.Proofs.Ytjaoaikcmbfnmaa
open Go.RowKit

theorem size_of_head : ∀ (k : Fin 10) (x : Fin 256), 1 ≤ k.val → x.val < 2 ^ (8 - k.val) → 9 - Lib.bitLen (255 - (leadOf k.val + x.val)) = k.val := by decide +kernel
theorem strip_head : ∀ (k : Fin 10) (x : Fin 256), 1 ≤ k.val → x.val < 2 ^ (8 - k.val) → (leadOf k.val + x.val) &&& (255 - leadOf k.val) = x.val := by decide +kernel
theorem head_of_size : ∀ h : Fin 256, 1 ≤ 9 - Lib.bitLen (255 - h.val) ∧ 9 - Lib.bitLen (255 - h.val) ≤ 9 ∧ leadOf (9 - Lib.bitLen (255 - h.val)) ≤ h.val ∧ h.val - leadOf (9 - Lib.bitLen (255 - h.val)) < 2 ^ (8 - (9 - Lib.bitLen (255 - h.val))) ∧
    (h.val &&& (255 - leadOf (9 - Lib.bitLen (255 - h.val)))) = h.val - leadOf (9 - Lib.bitLen (255 - h.val)) := by decide +kernel

theorem byte_ofNat (x : Nat) (h : x < 256) : (UInt8.ofNat x).toNat = x := by simp; omega
theorem ofNat_byte (u : UInt8) : UInt8.ofNat u.toNat = u := by simp

theorem and255 (x : Nat) (h : x < 256) : x &&& 255 = x := by
  have := Nat.and_two_pow_sub_one_eq_mod x 8
  simp only [Nat.reducePow, Nat.reduceSub] at this
  rw [this]; omega

/-- Numbers' bytes behind the head, added up, are the number again. -/
theorem acc_putB (n : Nat) (hn : n < 18446744073709551616) : ∀ r, numAcc (n / 2 ^ (8 * r)) 0 (putB n 0 r) = n
  | 0 => by simp [putB, numAcc]
  | r + 1 => by
    rw [putB, numAcc, Nat.zero_or, byte_ofNat _ (Nat.mod_lt _ (by decide)), Nat.sub_zero, and255 _ (Nat.mod_lt _ (by decide))]
    have e : n / 2 ^ (8 * (r + 1)) = n / 2 ^ (8 * r) / 256 := by
      rw [show 8 * (r + 1) = 8 * r + 8 from by omega, Nat.pow_add, ← Nat.div_div_eq_div_mul]
    have hl : n / 2 ^ (8 * r) ≤ n := Nat.div_le_self _ _
    rw [e]
    have : n / 2 ^ (8 * r) / 256 * 256 % 18446744073709551616 + n / 2 ^ (8 * r) % 256 = n / 2 ^ (8 * r) := by omega
    rw [this]
    exact acc_putB n hn r

/-- Bytes added up: what comes out, parted, is these bytes. -/
theorem acc_back : ∀ (t : List UInt8) (acc : Nat), t.length ≤ 8 → acc < 2 ^ (64 - 8 * t.length) →
    numAcc acc 0 t / 2 ^ (8 * t.length) = acc ∧ putB (numAcc acc 0 t) 0 t.length = t
  | [], acc, _, _ => by simp [numAcc, putB]
  | c :: t, acc, hl, ha => by
    simp only [List.length_cons] at hl ha ⊢
    have hc : c.toNat < 256 := c.toNat_lt
    have hp : 2 ^ (64 - 8 * (t.length + 1)) * 256 = 2 ^ (64 - 8 * t.length) := by
      rw [show (64 - 8 * t.length) = (64 - 8 * (t.length + 1)) + 8 from by omega, Nat.pow_add]
    have hb : acc * 256 + c.toNat < 2 ^ (64 - 8 * t.length) := by rw [← hp]; omega
    have h64 : 2 ^ (64 - 8 * t.length) ≤ 2 ^ 64 := Nat.pow_le_pow_right (by decide) (by omega)
    have hstep : numAcc acc 0 (c :: t) = numAcc (acc * 256 + c.toNat) 0 t := by
      rw [numAcc, Nat.sub_zero, and255 _ hc]
      congr 1
      omega
    obtain ⟨i1, i2⟩ := acc_back t (acc * 256 + c.toNat) (by omega) hb
    rw [hstep]
    refine ⟨?_, ?_⟩
    · rw [show 8 * (t.length + 1) = 8 * t.length + 8 from by omega, Nat.pow_add, ← Nat.div_div_eq_div_mul, i1]
      omega
    · rw [putB, i1, i2, Nat.zero_or, show (acc * 256 + c.toNat) % 256 = c.toNat from by omega, ofNat_byte]

theorem sizeAt_numB (n : Nat) (hn : n < 2 ^ 64) (t : List UInt8) : sizeAt (numB n ++ t) = numSize n := by
  have hb := numSize_bd n
  have h1 := top_lt n hn
  have hle : 2 ^ (8 - numSize n) ≤ 2 ^ 7 := Nat.pow_le_pow_right (by decide) (by omega)
  rw [numB_eq n hn, List.cons_append, sizeAt, byte_ofNat _ (headOf_lt n hn)]
  exact size_of_head ⟨numSize n, by omega⟩ ⟨n / 2 ^ (8 * (numSize n - 1)), by omega⟩ hb.1 h1

theorem numOf_numB (n : Nat) (hn : n < 2 ^ 64) : numOf (numB n) = n := by
  have hb := numSize_bd n
  have h1 := top_lt n hn
  have hle : 2 ^ (8 - numSize n) ≤ 2 ^ 7 := Nat.pow_le_pow_right (by decide) (by omega)
  have hs := strip_head ⟨numSize n, by omega⟩ ⟨n / 2 ^ (8 * (numSize n - 1)), by omega⟩ hb.1 h1
  simp only at hs
  rw [numOf, numB_length]
  have e := numB_eq n hn
  rw [e, numAcc, byte_ofNat _ (headOf_lt n hn)]
  have : 0 * 256 % 18446744073709551616 + (headOf n &&& (255 - leadOf (numSize n))) = n / 2 ^ (8 * (numSize n - 1)) := by
    unfold headOf
    omega
  rw [this]
  exact acc_putB n (by simpa using hn) _

theorem rdNum_put (n : Nat) (hn : n < 2 ^ 64) (t : List UInt8) : rdNum (numB n ++ t) 0 = (n, t, 0) := by
  have hl := numB_length n
  have ht : (numB n ++ t).take (numSize n) = numB n := by rw [← hl, List.take_left]
  have hd : (numB n ++ t).drop (numSize n) = t := by rw [← hl, List.drop_left]
  rw [rdNum, if_pos rfl, sizeAt_numB n hn, if_pos (by rw [List.length_append, hl]; omega), ht, hd, numOf_numB n hn, if_neg (Nat.lt_irrefl _)]

theorem tk_put (p t : List UInt8) (k : Nat) (h : p.length = k) : tk k (p ++ t) 0 = (p, t, 0) := by
  subst h
  rw [tk, if_pos rfl, if_pos (by simp), List.take_left, List.drop_left]

theorem rdBlk_put (p t : List UInt8) (hp : p.length < 2 ^ 64) : rdBlk (numB p.length ++ (p ++ t)) 0 = (p, t, 0) := by
  rw [rdBlk, if_pos rfl, rdNum_put _ hp]
  simp only [tk_put p t _ rfl]
  rw [if_pos trivial]

theorem leNat_wordB (n : Nat) : ∀ k, leNat (OwordB n k) = n % 2 ^ (8 * k)
  | 0 => by simp [OwordB, leNat, Nat.mod_one]
  | k + 1 => by
    have hw : OwordB n (k + 1) = OwordB n k ++ [UInt8.ofNat (n / 2 ^ (8 * k) % 256)] := by
      rw [OwordB, OwordB, List.range_succ, List.map_append]; rfl
    rw [hw, leNat_snoc, leNat_wordB n k, byte_ofNat _ (Nat.mod_lt _ (by decide)), show (OwordB n k).length = k from by simp [OwordB]]
    rw [show 8 * (k + 1) = 8 * k + 8 from by omega, Nat.pow_add, Nat.mod_mul]
    congr 1
    exact Nat.mul_comm _ _

/-- A number that is read stands there as it is put. -/
theorem rdNum_back (b : List UInt8) (h : (rdNum b 0).2.2 = 0) : b = numB (rdNum b 0).1 ++ (rdNum b 0).2.1 := by
  unfold rdNum at h ⊢
  rw [if_pos rfl] at h ⊢
  split at h
  · rename_i hs
    rw [if_pos hs]
    split at h
    · cases h
    · rename_i hk
      rw [if_neg hk]
      simp only
      cases b with
      | nil => simp [sizeAt] at hs
      | cons c t =>
        have hf := head_of_size ⟨c.toNat, c.toNat_lt⟩
        simp only [] at hf
        have hsz : sizeAt (c :: t) = 9 - Lib.bitLen (255 - c.toNat) := rfl
        generalize hS : 9 - Lib.bitLen (255 - c.toNat) = s at hf
        rw [hS] at hsz
        rw [hsz] at hs hk ⊢
        obtain ⟨f1, f2, f3, f4, f5⟩ := hf
        obtain ⟨r, rfl⟩ : ∃ r, s = r + 1 := ⟨s - 1, by omega⟩
        simp only [List.length_cons] at hs
        have hlen : (t.take r).length = r := by rw [List.length_take]; omega
        have htk : (c :: t).take (r + 1) = c :: t.take r := rfl
        have hnum : numOf ((c :: t).take (r + 1)) = numAcc (c.toNat - leadOf (r + 1)) 0 (t.take r) := by
          rw [htk, numOf, List.length_cons, hlen, numAcc, f5]
          congr 1
          omega
        have hacc : c.toNat - leadOf (r + 1) < 2 ^ (64 - 8 * (t.take r).length) := by
          rw [hlen]
          exact Nat.lt_of_lt_of_le f4 (Nat.pow_le_pow_right (by decide) (by omega))
        obtain ⟨i1, i2⟩ := acc_back (t.take r) (c.toNat - leadOf (r + 1)) (by omega) hacc
        rw [hlen] at i1 i2
        have hult := numOf_lt ((c :: t).take (r + 1))
        rw [hnum] at hult hk ⊢
        generalize numAcc (c.toNat - leadOf (r + 1)) 0 (t.take r) = u at *
        have hsize : numSize u = r + 1 := by
          have hb := numSize_bd u
          rcases Nat.lt_or_ge (r + 1) (numSize u) with hg | hg
          · have h2 := numSize_ge u (by omega)
            have h3 : u < 2 ^ (7 * (r + 1)) := by
              have : u / 2 ^ (8 * r) < 2 ^ (8 - (r + 1)) := by rw [i1]; exact f4
              rw [Nat.div_lt_iff_lt_mul (Nat.two_pow_pos _), ← Nat.pow_add] at this
              rwa [show 8 - (r + 1) + 8 * r = 7 * (r + 1) from by omega] at this
            have h4 : 2 ^ (7 * (r + 1)) ≤ 2 ^ (7 * (numSize u - 1)) := Nat.pow_le_pow_right (by decide) (by omega)
            omega
          · omega
        have hhead : headOf u = c.toNat := by
          unfold headOf
          rw [hsize, Nat.add_sub_cancel, i1]
          omega
        rw [numB_eq u (by simpa using hult), hhead, hsize, Nat.add_sub_cancel, i2, ofNat_byte]
        simp
  · cases h

theorem rdBlk_back (b : List UInt8) (h : (rdBlk b 0).2.2 = 0) : b = numB (rdBlk b 0).1.length ++ ((rdBlk b 0).1 ++ (rdBlk b 0).2.1) := by
  unfold rdBlk at h ⊢
  rw [if_pos rfl] at h ⊢
  split at h
  · rename_i hz
    rw [if_pos hz]
    have he : (rdNum b 0).2.2 = 0 := by
      unfold tk at hz
      split at hz
      · assumption
      · exact hz
    have hb := rdNum_back b he
    unfold tk at hz ⊢
    rw [if_pos he] at hz ⊢
    split at hz
    · rename_i hl
      rw [if_pos hl]
      simp only
      rw [List.take_append_drop, List.length_take, Nat.min_eq_left hl]
      exact hb
    · cases hz
  · rename_i hz
    exact absurd h hz
end Go.Proofs.Ytjaoaikcmbfnmaa
