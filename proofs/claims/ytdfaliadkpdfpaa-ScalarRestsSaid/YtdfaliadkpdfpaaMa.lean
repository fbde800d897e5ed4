/- Numbers of four words, and of bytes: plain mathematics. -/
import Derived.Test.YtdfaliadkpdfpaaWo
namespace Go.Proofs.Ytdfaliadkpdfpaa
set_option linter.unusedSimpArgs false
set_option linter.unusedVariables false

/-- The order of the curve's points. -/
def LL : Nat := 7237005577332262213973186563042994240857116359379907606001950938285454250989
theorem LL_lt : LL < 7237005577332262213973186563042994240857116359379907606001950938285454250990 := by decide
theorem LL_pos : 0 < LL := by decide

/-- The number n as four words, the high one first. -/
def wd (n : Nat) : List UInt64 := [UInt64.ofNat (n / 18446744073709551616 / 18446744073709551616 / 18446744073709551616), UInt64.ofNat (n / 18446744073709551616 / 18446744073709551616), UInt64.ofNat (n / 18446744073709551616), UInt64.ofNat n]
theorem wd_length (n : Nat) : (wd n).length = 4 := rfl
theorem toNat_ofN (n : Nat) : (UInt64.ofNat n).toNat = n % 18446744073709551616 := by simp
theorem ofN_eq {a b : Nat} (h : a % 18446744073709551616 = b % 18446744073709551616) : UInt64.ofNat a = UInt64.ofNat b := by
  apply UInt64.toNat_inj.1
  rw [toNat_ofN, toNat_ofN, h]

theorem add_step (a b c s : Nat) (hc : c ≤ 1) (hs : a % 18446744073709551616 + b % 18446744073709551616 + c = s) :
    s % 18446744073709551616 = (a + b + c) % 18446744073709551616 ∧ (a + b + c) / 18446744073709551616 = a / 18446744073709551616 + b / 18446744073709551616 + s / 18446744073709551616 ∧ s / 18446744073709551616 ≤ 1 := by
  refine ⟨?_, ?_, ?_⟩ <;> omega
theorem sub_step (a b c br : Nat) (hc : c ≤ 1) (h : b + c ≤ a) (hb : (if a % 18446744073709551616 < b % 18446744073709551616 + c then 1 else 0) = br) :
    (a % 18446744073709551616 + 18446744073709551616 - b % 18446744073709551616 - c) % 18446744073709551616 = (a - b - c) % 18446744073709551616 ∧ (a - b - c) / 18446744073709551616 = a / 18446744073709551616 - b / 18446744073709551616 - br ∧ b / 18446744073709551616 + br ≤ a / 18446744073709551616 ∧ br ≤ 1 := by
  split at hb <;> subst hb <;> refine ⟨?_, ?_, ?_, ?_⟩ <;> omega

/-- What adding the words comes to, word by word. -/
theorem add_words (a b : Nat) : ∃ s3 o3 s2 o2 s1 o1 : UInt64,
    ((UInt64.ofNat a).toNat + (UInt64.ofNat b).toNat + 0) % 18446744073709551616 = s3.toNat ∧ ((UInt64.ofNat a).toNat + (UInt64.ofNat b).toNat + 0) / 18446744073709551616 = o3.toNat ∧ o3.toNat ≤ 1 ∧
    ((UInt64.ofNat (a / 18446744073709551616)).toNat + (UInt64.ofNat (b / 18446744073709551616)).toNat + o3.toNat) % 18446744073709551616 = s2.toNat ∧ ((UInt64.ofNat (a / 18446744073709551616)).toNat + (UInt64.ofNat (b / 18446744073709551616)).toNat + o3.toNat) / 18446744073709551616 = o2.toNat ∧ o2.toNat ≤ 1 ∧
    ((UInt64.ofNat (a / 18446744073709551616 / 18446744073709551616)).toNat + (UInt64.ofNat (b / 18446744073709551616 / 18446744073709551616)).toNat + o2.toNat) % 18446744073709551616 = s1.toNat ∧ ((UInt64.ofNat (a / 18446744073709551616 / 18446744073709551616)).toNat + (UInt64.ofNat (b / 18446744073709551616 / 18446744073709551616)).toNat + o2.toNat) / 18446744073709551616 = o1.toNat ∧ o1.toNat ≤ 1 ∧
    wd (a + b) = [UInt64.ofNat (a / 18446744073709551616 / 18446744073709551616 / 18446744073709551616) + (UInt64.ofNat (b / 18446744073709551616 / 18446744073709551616 / 18446744073709551616) + o1), s1, s2, s3] := by
  obtain ⟨h1, h2, h3⟩ := add_step a b 0 _ (by omega) rfl
  obtain ⟨c3, hc3⟩ : ∃ c, (a % 18446744073709551616 + b % 18446744073709551616 + 0) / 18446744073709551616 = c := ⟨_, rfl⟩
  rw [hc3] at h2 h3
  obtain ⟨k1, k2, k3⟩ := add_step (a / 18446744073709551616) (b / 18446744073709551616) c3 _ h3 rfl
  obtain ⟨c2, hc2⟩ : ∃ c, (a / 18446744073709551616 % 18446744073709551616 + b / 18446744073709551616 % 18446744073709551616 + c3) / 18446744073709551616 = c := ⟨_, rfl⟩
  rw [hc2] at k2 k3
  obtain ⟨l1, l2, l3⟩ := add_step (a / 18446744073709551616 / 18446744073709551616) (b / 18446744073709551616 / 18446744073709551616) c2 _ k3 rfl
  obtain ⟨c1, hc1⟩ : ∃ c, (a / 18446744073709551616 / 18446744073709551616 % 18446744073709551616 + b / 18446744073709551616 / 18446744073709551616 % 18446744073709551616 + c2) / 18446744073709551616 = c := ⟨_, rfl⟩
  rw [hc1] at l2 l3
  refine ⟨UInt64.ofNat (a + b), UInt64.ofNat c3, UInt64.ofNat (a / 18446744073709551616 + b / 18446744073709551616 + c3), UInt64.ofNat c2, UInt64.ofNat (a / 18446744073709551616 / 18446744073709551616 + b / 18446744073709551616 / 18446744073709551616 + c2), UInt64.ofNat c1, ?_⟩
  simp only [toNat_ofN]
  rw [Nat.mod_eq_of_lt (show c3 < 18446744073709551616 by omega), Nat.mod_eq_of_lt (show c2 < 18446744073709551616 by omega), Nat.mod_eq_of_lt (show c1 < 18446744073709551616 by omega)]
  refine ⟨h1, hc3, h3, k1, hc2, k3, l1, hc1, l3, ?_⟩
  rw [Nat.add_zero] at h2
  unfold wd
  rw [h2, k2, l2]
  congr 1
  apply UInt64.toNat_inj.1
  rw [UInt64.toNat_add, UInt64.toNat_add, toNat_ofN, toNat_ofN, toNat_ofN, toNat_ofN]
  omega

/-- What taking words away comes to, word by word. -/
theorem sub_words (a b : Nat) (hab : b ≤ a) : ∃ s3 o3 s2 o2 s1 o1 : UInt64,
    ((UInt64.ofNat a).toNat + 18446744073709551616 - (UInt64.ofNat b).toNat - 0) % 18446744073709551616 = s3.toNat ∧ (if (UInt64.ofNat a).toNat < (UInt64.ofNat b).toNat + 0 then 1 else 0) = o3.toNat ∧ o3.toNat ≤ 1 ∧
    ((UInt64.ofNat (a / 18446744073709551616)).toNat + 18446744073709551616 - (UInt64.ofNat (b / 18446744073709551616)).toNat - o3.toNat) % 18446744073709551616 = s2.toNat ∧ (if (UInt64.ofNat (a / 18446744073709551616)).toNat < (UInt64.ofNat (b / 18446744073709551616)).toNat + o3.toNat then 1 else 0) = o2.toNat ∧ o2.toNat ≤ 1 ∧
    ((UInt64.ofNat (a / 18446744073709551616 / 18446744073709551616)).toNat + 18446744073709551616 - (UInt64.ofNat (b / 18446744073709551616 / 18446744073709551616)).toNat - o2.toNat) % 18446744073709551616 = s1.toNat ∧ (if (UInt64.ofNat (a / 18446744073709551616 / 18446744073709551616)).toNat < (UInt64.ofNat (b / 18446744073709551616 / 18446744073709551616)).toNat + o2.toNat then 1 else 0) = o1.toNat ∧ o1.toNat ≤ 1 ∧
    wd (a - b) = [UInt64.ofNat (a / 18446744073709551616 / 18446744073709551616 / 18446744073709551616) - (UInt64.ofNat (b / 18446744073709551616 / 18446744073709551616 / 18446744073709551616) + o1), s1, s2, s3] := by
  obtain ⟨c3, hc3⟩ : ∃ c, (if a % 18446744073709551616 < b % 18446744073709551616 + 0 then 1 else 0) = c := ⟨_, rfl⟩
  obtain ⟨h1, h2, h4, h3⟩ := sub_step a b 0 _ (by omega) hab hc3
  obtain ⟨c2, hc2⟩ : ∃ c, (if a / 18446744073709551616 % 18446744073709551616 < b / 18446744073709551616 % 18446744073709551616 + c3 then 1 else 0) = c := ⟨_, rfl⟩
  obtain ⟨k1, k2, k4, k3⟩ := sub_step (a / 18446744073709551616) (b / 18446744073709551616) c3 _ h3 h4 hc2
  obtain ⟨c1, hc1⟩ : ∃ c, (if a / 18446744073709551616 / 18446744073709551616 % 18446744073709551616 < b / 18446744073709551616 / 18446744073709551616 % 18446744073709551616 + c2 then 1 else 0) = c := ⟨_, rfl⟩
  obtain ⟨l1, l2, l4, l3⟩ := sub_step (a / 18446744073709551616 / 18446744073709551616) (b / 18446744073709551616 / 18446744073709551616) c2 _ k3 k4 hc1
  refine ⟨UInt64.ofNat (a - b), UInt64.ofNat c3, UInt64.ofNat (a / 18446744073709551616 - b / 18446744073709551616 - c3), UInt64.ofNat c2, UInt64.ofNat (a / 18446744073709551616 / 18446744073709551616 - b / 18446744073709551616 / 18446744073709551616 - c2), UInt64.ofNat c1, ?_⟩
  simp only [toNat_ofN]
  rw [Nat.mod_eq_of_lt (show c3 < 18446744073709551616 by omega), Nat.mod_eq_of_lt (show c2 < 18446744073709551616 by omega), Nat.mod_eq_of_lt (show c1 < 18446744073709551616 by omega)]
  refine ⟨h1, hc3, h3, k1, hc2, k3, l1, hc1, l3, ?_⟩
  rw [Nat.sub_zero] at h2
  unfold wd
  rw [h2, k2, l2]
  congr 1
  apply UInt64.toNat_inj.1
  rw [UInt64.toNat_sub, UInt64.toNat_add, toNat_ofN, toNat_ofN, toNat_ofN, toNat_ofN]
  omega

/-- How two numbers of words stand to each other. -/
def cmpW : List UInt64 → List UInt64 → Int
  | a :: xs, b :: ys => if a.toNat < b.toNat then -1 else if b.toNat < a.toNat then 1 else cmpW xs ys
  | _, _ => 0
theorem cmp_wd (a b : Nat) (ha : a < 115792089237316195423570985008687907853269984665640564039457584007913129639936) (hb : b < 115792089237316195423570985008687907853269984665640564039457584007913129639936) : decide (cmpW (wd a) (wd b) < 0) = decide (a < b) := by
  unfold wd
  simp only [cmpW, toNat_ofN]
  have e : ∀ x : Nat, x < 115792089237316195423570985008687907853269984665640564039457584007913129639936 → x / 18446744073709551616 / 18446744073709551616 / 18446744073709551616 < 18446744073709551616 := fun x h => by omega
  have ha3 := e a ha
  have hb3 := e b hb
  rw [Nat.mod_eq_of_lt ha3, Nat.mod_eq_of_lt hb3]
  have da := Nat.div_add_mod a 18446744073709551616
  have db := Nat.div_add_mod b 18446744073709551616
  have da1 := Nat.div_add_mod (a / 18446744073709551616) 18446744073709551616
  have db1 := Nat.div_add_mod (b / 18446744073709551616) 18446744073709551616
  have da2 := Nat.div_add_mod (a / 18446744073709551616 / 18446744073709551616) 18446744073709551616
  have db2 := Nat.div_add_mod (b / 18446744073709551616 / 18446744073709551616) 18446744073709551616
  have ma := Nat.mod_lt a (show 18446744073709551616 > 0 by omega)
  have mb := Nat.mod_lt b (show 18446744073709551616 > 0 by omega)
  have ma1 := Nat.mod_lt (a / 18446744073709551616) (show 18446744073709551616 > 0 by omega)
  have mb1 := Nat.mod_lt (b / 18446744073709551616) (show 18446744073709551616 > 0 by omega)
  have ma2 := Nat.mod_lt (a / 18446744073709551616 / 18446744073709551616) (show 18446744073709551616 > 0 by omega)
  have mb2 := Nat.mod_lt (b / 18446744073709551616 / 18446744073709551616) (show 18446744073709551616 > 0 by omega)
  generalize a / 18446744073709551616 / 18446744073709551616 / 18446744073709551616 = a3 at *
  generalize b / 18446744073709551616 / 18446744073709551616 / 18446744073709551616 = b3 at *
  generalize a / 18446744073709551616 / 18446744073709551616 % 18446744073709551616 = r2 at *
  generalize b / 18446744073709551616 / 18446744073709551616 % 18446744073709551616 = t2 at *
  generalize a / 18446744073709551616 / 18446744073709551616 = a2 at *
  generalize b / 18446744073709551616 / 18446744073709551616 = b2 at *
  generalize a / 18446744073709551616 % 18446744073709551616 = r1 at *
  generalize b / 18446744073709551616 % 18446744073709551616 = t1 at *
  generalize a / 18446744073709551616 = a1 at *
  generalize b / 18446744073709551616 = b1 at *
  generalize a % 18446744073709551616 = r0 at *
  generalize b % 18446744073709551616 = t0 at *
  rw [Bool.eq_iff_iff, decide_eq_true_iff, decide_eq_true_iff]
  clear e ha hb
  by_cases h3 : a3 = b3
  · subst h3
    rw [if_neg (by omega), if_neg (by omega)]
    by_cases h2 : r2 = t2
    · subst h2
      obtain rfl : a2 = b2 := by omega
      rw [if_neg (by omega), if_neg (by omega)]
      by_cases h1 : r1 = t1
      · subst h1
        obtain rfl : a1 = b1 := by omega
        rw [if_neg (by omega), if_neg (by omega)]
        split
        · constructor <;> intro _ <;> omega
        · split <;> constructor <;> intro _ <;> omega
      · split
        · constructor <;> intro _ <;> omega
        · rw [if_pos (by omega)]; constructor <;> intro _ <;> omega
    · split
      · constructor <;> intro _ <;> omega
      · rw [if_pos (by omega)]; constructor <;> intro _ <;> omega
  · split
    · constructor <;> intro _ <;> omega
    · rw [if_pos (by omega)]; constructor <;> intro _ <;> omega

/-- The number of bytes, the low one first. -/
def val : List UInt8 → Nat
  | [] => 0
  | b :: bs => b.toNat + 256 * val bs
/-- A number as k bytes, the low one first. -/
def le : Nat → Nat → List UInt8
  | 0, _ => []
  | k + 1, n => UInt8.ofNat n :: le k (n / 256)
theorem le_length : ∀ k n, (le k n).length = k
  | 0, _ => rfl
  | k + 1, n => by rw [le, List.length_cons, le_length k]
theorem le_at : ∀ (k n i : Nat), i < k → (le k n)[i]? = some (UInt8.ofNat (n / 256 ^ i))
  | 0, _, _, h => absurd h (by omega)
  | k + 1, n, 0, _ => by simp [le]
  | k + 1, n, i + 1, h => by
    rw [le, List.getElem?_cons_succ, le_at k (n / 256) i (by omega), Nat.div_div_eq_div_mul, Nat.pow_succ, Nat.mul_comm]
theorem val_le : ∀ k n, val (le k n) = n % 256 ^ k
  | 0, n => by rw [le, val, Nat.pow_zero, Nat.mod_one]
  | k + 1, n => by
    rw [le, val, val_le k, Nat.pow_succ, Nat.mul_comm (256 ^ k), Nat.mod_mul]
    simp
theorem val_lt : ∀ l : List UInt8, val l < 256 ^ l.length
  | [] => by simp [val]
  | b :: bs => by
    have := val_lt bs
    have hb := b.toNat_lt
    rw [val, List.length_cons, Nat.pow_succ]
    omega
theorem le_val : ∀ l : List UInt8, le l.length (val l) = l
  | [] => rfl
  | b :: bs => by
    have hb := b.toNat_lt
    rw [val, List.length_cons, le, show (b.toNat + 256 * val bs) / 256 = val bs by omega, le_val bs]
    congr 1
    apply UInt8.toNat_inj.1
    simp
theorem le_inj {k a b : Nat} (ha : a < 256 ^ k) (hb : b < 256 ^ k) (h : le k a = le k b) : a = b := by
  have := congrArg val h
  rw [val_le, val_le, Nat.mod_eq_of_lt ha, Nat.mod_eq_of_lt hb] at this
  exact this
theorem val_append : ∀ a b : List UInt8, val (a ++ b) = val a + 256 ^ a.length * val b
  | [], b => by simp [val]
  | x :: a, b => by
    rw [List.cons_append, val, val, val_append a b, List.length_cons, Nat.pow_succ, Nat.mul_add, ← Nat.mul_assoc, Nat.mul_comm 256 (256 ^ a.length), Nat.add_assoc]
theorem val_zeros : ∀ k, val (List.replicate k 0) = 0
  | 0 => rfl
  | k + 1 => by rw [List.replicate_succ, val, val_zeros k]; rfl

/-- A byte out of its word. -/
theorem word_byte (n q r : Nat) (hr : r < 8) : n / 2 ^ (64 * q) % 18446744073709551616 / 2 ^ (8 * r) % 256 = n / 256 ^ (8 * q + r) % 256 := by
  have e1 : (256 : Nat) ^ (8 * q + r) = 2 ^ (64 * q) * 2 ^ (8 * r) := by
    rw [show (256 : Nat) = 2 ^ 8 from rfl, ← Nat.pow_mul, ← Nat.pow_add]
    congr 1
    omega
  have e2 : (18446744073709551616 : Nat) = 2 ^ (8 * r) * 2 ^ (64 - 8 * r) := by
    rw [← Nat.pow_add, show 8 * r + (64 - 8 * r) = 64 by omega]
  rw [e1, ← Nat.div_div_eq_div_mul]
  generalize n / 2 ^ (64 * q) = m
  rw [e2, Nat.mod_mul_right_div_self]
  exact Nat.mod_mod_of_dvd _ (show 256 ∣ 2 ^ (64 - 8 * r) from ⟨2 ^ (56 - 8 * r), by rw [show (256 : Nat) = 2 ^ 8 from rfl, ← Nat.pow_add]; congr 1; omega⟩)
theorem wd_at (n i : Nat) (hi : i < 4) : (wd n)[i]? = some (UInt64.ofNat (n / 2 ^ (64 * (3 - i)))) := by
  rcases i with _ | _ | _ | _ | i
  · simp [wd, Nat.div_div_eq_div_mul]
  · simp [wd, Nat.div_div_eq_div_mul]
  · simp [wd]
  · simp [wd]
  · omega
end Go.Proofs.Ytdfaliadkpdfpaa
