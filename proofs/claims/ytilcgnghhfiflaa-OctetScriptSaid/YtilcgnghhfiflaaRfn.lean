/- The document's own reader: a number read. -/
import Derived.Test.YtilcgnghhfiflaaRfr
namespace Go.Proofs.Ytilcgnghhfiflaa
open Go.RowKit

/-- How many bytes the first one tells. -/
def sizeOfHead (h : Nat) : Nat := 9 - Lib.bitLen (255 - h)
theorem head_bit : ∀ (h : Fin 256) (k : Fin 9), 1 ≤ k.val → k.val ≤ sizeOfHead h.val → (((h.val : Int) / 2 ^ (8 - k.val)).tmod 2 == 1) = decide (k.val < sizeOfHead h.val) := by decide +kernel
theorem head_rest : ∀ (h : Fin 256), sizeOfHead h.val < 9 → (h.val : Int).tmod (IntKind.u64.wrap (2 ^ (8 - sizeOfHead h.val))) = ((h.val &&& (255 - leadOf (sizeOfHead h.val)) : Nat) : Int) := by decide +kernel
theorem head_none : ∀ (h : Fin 256), sizeOfHead h.val = 9 → h.val &&& (255 - leadOf (sizeOfHead h.val)) = 0 := by decide +kernel
theorem pow_some : ∀ j : Fin 10, 1 ≤ j.val → ¬ IntKind.u64.wrap (2 ^ (8 - j.val)) = 0 := by decide +kernel
theorem num_start {l : List UInt8} {u : UInt8} {j : Nat} (h0 : l[0]? = some u) (j1 : 1 ≤ j) (jl : j ≤ l.length) : numAcc (u.toNat &&& (255 - leadOf j)) 0 ((l.take j).drop 1) = numOf (l.take j) := by
  cases l with
  | nil => simp at h0
  | cons c t =>
    simp only [List.getElem?_cons_zero, Option.some.injEq] at h0
    subst h0
    obtain ⟨r, rfl⟩ : ∃ r, j = r + 1 := ⟨j - 1, by omega⟩
    simp only [List.length_cons] at jl
    have hlen : (t.take r).length = r := by rw [List.length_take]; omega
    have htk : (c :: t).take (r + 1) = c :: t.take r := rfl
    rw [htk, numOf, List.length_cons, hlen, numAcc, List.drop_one, List.tail_cons]
    congr 1
    omega
theorem take_at {l : List UInt8} {u : UInt8} {i j : Nat} (h : l[i]? = some u) (hij : i < j) : (l.take j).drop i = u :: (l.take j).drop (i + 1) := by
  have hi : i < l.length := (List.getElem?_eq_some_iff.1 h).1
  have hi2 : i < (l.take j).length := by rw [List.length_take]; omega
  rw [List.drop_eq_getElem_cons hi2, List.getElem_take]
  congr 1
  exact (List.getElem?_eq_some_iff.1 h).2
theorem ref_step (acc u : Nat) (hu : u < 256) : IntKind.u64.wrap (IntKind.u64.wrap ((acc : Int) * 256) + (u : Int)) = ((acc * 256 % 18446744073709551616 + (u &&& (255 - 0)) : Nat) : Int) := by
  have h1 : u &&& (255 - 0) = u := (Nat.and_two_pow_sub_one_eq_mod u 8).trans (Nat.mod_eq_of_lt hu)
  rw [h1]
  simp only [IntKind.wrap, IntKind.bits, IntKind.signed]
  simp
  omega
theorem sizeOfHead_bd : ∀ h : Fin 256, 1 ≤ sizeOfHead h.val ∧ sizeOfHead h.val ≤ 9 := by decide +kernel

theorem numSize_le (l : List UInt8) (hs : sizeAt l ≤ l.length) : numSize (numOf (l.take (sizeAt l))) ≤ sizeAt l := by
  cases l with
  | nil => simp [sizeAt] at hs
  | cons c t =>
    have hf := head_of_size ⟨c.toNat, c.toNat_lt⟩
    simp only [] at hf
    have hsz : sizeAt (c :: t) = 9 - Lib.bitLen (255 - c.toNat) := rfl
    generalize hS : 9 - Lib.bitLen (255 - c.toNat) = s at hf
    rw [hS] at hsz
    rw [hsz] at hs ⊢
    obtain ⟨f1, f2, f3, f4, f5⟩ := hf
    obtain ⟨r, rfl⟩ : ∃ r, s = r + 1 := ⟨s - 1, by omega⟩
    simp only [List.length_cons] at hs
    have hlen : (t.take r).length = r := by rw [List.length_take]; omega
    have htk : (c :: t).take (r + 1) = c :: t.take r := rfl
    have hnum : numOf ((c :: t).take (r + 1)) = numAcc (c.toNat - leadOf (r + 1)) 0 (t.take r) := by
      rw [htk, numOf, List.length_cons, hlen, numAcc, f5]
      congr 1
      omega
    have hacc : c.toNat - leadOf (r + 1) < 2 ^ (64 - 8 * (t.take r).length) := by
      rw [hlen]
      exact Nat.lt_of_lt_of_le f4 (Nat.pow_le_pow_right (by decide) (by omega))
    obtain ⟨i1, _⟩ := acc_back (t.take r) (c.toNat - leadOf (r + 1)) (by omega) hacc
    rw [hlen] at i1
    rw [hnum]
    generalize numAcc (c.toNat - leadOf (r + 1)) 0 (t.take r) = u at *
    have hb := numSize_bd u
    rcases Nat.lt_or_ge (r + 1) (numSize u) with hg | hg
    · have h2 := numSize_ge u (by omega)
      have h3 : u < 2 ^ (7 * (r + 1)) := by
        have : u / 2 ^ (8 * r) < 2 ^ (8 - (r + 1)) := by rw [i1]; exact f4
        rw [Nat.div_lt_iff_lt_mul (Nat.two_pow_pos _), ← Nat.pow_add] at this
        rwa [show 8 - (r + 1) + 8 * r = 7 * (r + 1) from by omega] at this
      have h4 : 2 ^ (7 * (r + 1)) ≤ 2 ^ (7 * (numSize u - 1)) := Nat.pow_le_pow_right (by decide) (by omega)
      omega
    · exact hg

set_option maxHeartbeats 1000000 in
theorem refNum_any {w : World} {g : Nat} {l : List UInt8} {e : Int} (hR : Rfr w g l e) (hl : l.length ≤ 4294967296) :
    Calls Try.prog 27 #[.pointer (some ⟨g, 0, none⟩)] w (LeftR w g (.int .u64 (rdNum l e).1) (rdNum l e).2.1 (rdNum l e).2.2) := by
  obtain ⟨A, k, c, hg, hr⟩ := id hR
  obtain ⟨c0, c1, cf⟩ := cells2 hg
  have H := Lib.hid hg
  have hlen := Lib.hid hr.len
  have hlt := hR.lt
  clear hg
  by_cases he : e = 0
  · subst he
    by_cases hk : k = 0
    · subst hk
      have hl0 : l = [] := List.eq_nil_of_length_eq_zero hlen.out
      subst hl0
      go_enter Try.func27, Try.ntmps27
      go_wp2
      go_ret
      rw [show rdNum [] 0 = (0, [], 5) from rfl]
      exact ⟨rfl, ⟨_, _, _, set_at H.out 1 _, hr.only (Only.set w 1 _) (Nat.le_of_lt hlt) (Nat.le_refl _)⟩, Only.set w 1 _⟩
    · obtain ⟨ad, rfl, hb, u, hu, hcell⟩ := hr.at_ (k := 0) (by omega)
      have hub : u.toNat < 256 := u.toNat_lt
      rw [show ad.add 0 = ad from rfl, B8] at hcell
      have hk0 : ((k : Int) == 0) = false := by simp; omega
      have hkp : (0 : Int) < (k : Int) := by omega
      have hsz : sizeAt l = sizeOfHead u.toNat := by
        cases l with
        | nil => simp at hu
        | cons y t => simp at hu; subst hu; rfl
      have hbd := sizeOfHead_bd ⟨u.toNat, hub⟩
      simp only at hbd
      have HSZ := Lib.hid hsz
      have HU := Lib.hid hu
      clear hsz hu hk
      go_enter Try.func27, Try.ntmps27
      go_wp2
      generalize hS : sizeOfHead u.toNat = S at *
      have HS := Lib.hid hS
      clear hS
      go_loop [3] (fun vk => ∃ j : Nat, 1 ≤ j ∧ j ≤ S ∧ vk = .int .i64 (j : Int)) (fun vk => 9 - (intOf vk).toNat)
      case atStart => exact ⟨1, by omega, by omega, rfl⟩
      case round =>
        obtain ⟨j, j1, jS, rfl⟩ := hrel
        by_cases hjS : j < S
        · have hbit := (head_bit ⟨u.toNat, hub⟩ ⟨j, by omega⟩ j1 (by simp only; rw [HS.out]; exact jS)).trans (decide_eq_true (by simp only; rw [HS.out]; exact hjS))
          simp only at hbit
          have hj9 : (j : Int) < 9 := by omega
          go_wp2
          exact ⟨⟨j + 1, by omega, by omega, by go_num⟩, by simp [intOf]; omega⟩
        · obtain rfl : j = S := by omega
          have hbit : (j : Int) < 9 → (((u.toNat : Int) / 2 ^ (8 - j)).tmod 2 == 1) = false := fun h9 => (head_bit ⟨u.toNat, hub⟩ ⟨j, by omega⟩ j1 (by simp only; rw [HS.out]; exact jS)).trans (decide_eq_false (by simp only; rw [HS.out]; exact hjS))
          by_cases hjk : (k : Int) < (j : Int)
          · have hsl : ¬ sizeAt l ≤ l.length := by rw [HSZ.out, hlen.out]; omega
            have hrd : rdNum l 0 = (0, l, 5) := by rw [rdNum, if_pos rfl, if_neg hsl]
            have HRD := Lib.hid hrd
            clear hrd hsl
            by_cases hj9 : (j : Int) < 9
            · have hbit := hbit hj9
              go_wp2
              go_ret
              rw [HRD.out]
              exact ⟨rfl, ⟨_, _, _, set_at H.out 1 _, hr.only (Only.set w 1 _) (Nat.le_of_lt hlt) (Nat.le_refl _)⟩, Only.set w 1 _⟩
            · clear hbit
              go_wp2
              go_ret
              rw [HRD.out]
              exact ⟨rfl, ⟨_, _, _, set_at H.out 1 _, hr.only (Only.set w 1 _) (Nat.le_of_lt hlt) (Nat.le_refl _)⟩, Only.set w 1 _⟩
          · by_cases hj9 : (j : Int) < 9
            · have hbit := hbit hj9
              have hpow := pow_some ⟨j, by omega⟩ j1
              simp only at hpow
              have hrest := head_rest ⟨u.toNat, hub⟩ (by simp only; rw [HS.out]; omega)
              simp only at hrest
              rw [HS.out] at hrest
              have HREST := Lib.hid hrest
              clear hrest
              go_wp2
              go_loop [4, 5] (fun vn vi => ∃ i acc : Nat, 1 ≤ i ∧ i ≤ j ∧ vi = .int .i64 (i : Int) ∧ vn = .int .u64 (acc : Int) ∧ acc < 18446744073709551616 ∧ Hid (numAcc acc 0 ((l.take j).drop i) = numOf (l.take j))) (fun _ vi => j - (intOf vi).toNat)
              case atStart => exact ⟨1, u.toNat &&& (255 - leadOf j), by omega, j1, rfl, congrArg (Value.int IntKind.u64) HREST.out, Nat.lt_of_le_of_lt Nat.and_le_left (by omega), Lib.hid (num_start HU.out j1 (by rw [hlen.out]; omega))⟩
              case round =>
                obtain ⟨i, acc, i1, ij, rfl, rfl, hacc, hn⟩ := hrel
                by_cases hij : i < j
                · obtain ⟨ad2, had, _, u2, hu2, hcell2⟩ := hr.at_ (k := i) (by omega)
                  injection had with had
                  subst had
                  have hu2b : u2.toNat < 256 := u2.toNat_lt
                  rw [B8] at hcell2
                  have HU2 := Lib.hid hu2
                  clear hu2
                  go_wp2
                  refine ⟨⟨i + 1, _, by omega, by omega, by go_num, congrArg (Value.int IntKind.u64) (ref_step acc u2.toNat hu2b), ?_, ?_⟩, by simp [intOf]; omega⟩
                  · have : u2.toNat &&& (255 - 0) ≤ 255 := Nat.and_le_right
                    omega
                  · have := hn.out
                    rw [take_at HU2.out hij, numAcc] at this
                    exact Lib.hid this
                · obtain rfl : i = j := by omega
                  have hn2 : acc = numOf (l.take i) := by
                    have := hn.out
                    rwa [List.drop_eq_nil_of_le (by rw [List.length_take]; omega), numAcc] at this
                  subst hn2
                  have hle := numSize_le l (by rw [HSZ.out, hlen.out]; omega)
                  rw [HSZ.out] at hle
                  have hns := numSize_bd (numOf (l.take i))
                  go_wp2_with fail
                  refine (refRoom_any _ _ hacc).mono ?_; rintro x w' ⟨rfl, rfl⟩
                  have hsl : sizeAt l ≤ l.length := by rw [HSZ.out, hlen.out]; omega
                  by_cases hb : numSize (numOf (l.take i)) < i
                  · have hrd : rdNum l 0 = (0, l, 4) := by rw [rdNum, if_pos rfl, if_pos hsl, if_pos (by rw [HSZ.out]; exact hb)]
                    have HRD := Lib.hid hrd
                    clear hrd hsl
                    go_wp2
                    go_ret
                    rw [HRD.out]
                    exact ⟨rfl, ⟨_, _, _, set_at H.out 1 _, hr.only (Only.set w 1 _) (Nat.le_of_lt hlt) (Nat.le_refl _)⟩, Only.set w 1 _⟩
                  · have hrd : rdNum l 0 = (numOf (l.take i), l.drop i, 0) := by rw [rdNum, if_pos rfl, if_pos hsl, if_neg (by rw [HSZ.out]; exact hb), HSZ.out]
                    have HRD := Lib.hid hrd
                    clear hrd hsl
                    have hib : numSize (numOf (l.take i)) = i := by omega
                    have hibi : ((numSize (numOf (l.take i)) : Int) == (i : Int)) = true := by rw [hib]; exact beq_self_eq_true _
                    have hd := Lib.hid (hr.drop_ (k := i) (by omega))
                    have hcap := hr.cap
                    have hik : (i : Int) ≤ (k : Int) := by omega
                    have hkc : (k : Int) ≤ (c : Int) := by omega
                    by_cases hci : (i : Int) = (c : Int)
                    · go_wp2
                      go_ret
                      rw [HRD.out, show l.drop i = [] from List.drop_eq_nil_of_le (by rw [hlen.out]; omega)]
                      exact ⟨rfl, ⟨_, _, _, set_at H.out 0 _, Rd.nil _ _ _ _⟩, Only.set w 0 _⟩
                    · go_wp2
                      go_ret
                      rw [HRD.out]
                      have hd := hd.out
                      rw [if_neg (by omega)] at hd
                      exact ⟨rfl, ⟨_, _, _, set_at H.out 0 _, hd.only (Only.set w 0 _) (Nat.le_of_lt hlt) (Nat.le_refl _)⟩, Only.set w 0 _⟩
            · clear hbit
              have hrest := head_none ⟨u.toNat, hub⟩ (by simp only; rw [HS.out]; omega)
              simp only at hrest
              rw [HS.out] at hrest
              have HREST := Lib.hid hrest
              clear hrest
              go_wp2
              go_loop [4, 5] (fun vn vi => ∃ i acc : Nat, 1 ≤ i ∧ i ≤ j ∧ vi = .int .i64 (i : Int) ∧ vn = .int .u64 (acc : Int) ∧ acc < 18446744073709551616 ∧ Hid (numAcc acc 0 ((l.take j).drop i) = numOf (l.take j))) (fun _ vi => j - (intOf vi).toNat)
              case atStart => exact ⟨1, u.toNat &&& (255 - leadOf j), by omega, j1, rfl, congrArg (Value.int IntKind.u64) (by rw [HREST.out]; rfl), Nat.lt_of_le_of_lt Nat.and_le_left (by omega), Lib.hid (num_start HU.out j1 (by rw [hlen.out]; omega))⟩
              case round =>
                obtain ⟨i, acc, i1, ij, rfl, rfl, hacc, hn⟩ := hrel
                by_cases hij : i < j
                · obtain ⟨ad2, had, _, u2, hu2, hcell2⟩ := hr.at_ (k := i) (by omega)
                  injection had with had
                  subst had
                  have hu2b : u2.toNat < 256 := u2.toNat_lt
                  rw [B8] at hcell2
                  have HU2 := Lib.hid hu2
                  clear hu2
                  go_wp2
                  refine ⟨⟨i + 1, _, by omega, by omega, by go_num, congrArg (Value.int IntKind.u64) (ref_step acc u2.toNat hu2b), ?_, ?_⟩, by simp [intOf]; omega⟩
                  · have : u2.toNat &&& (255 - 0) ≤ 255 := Nat.and_le_right
                    omega
                  · have := hn.out
                    rw [take_at HU2.out hij, numAcc] at this
                    exact Lib.hid this
                · obtain rfl : i = j := by omega
                  have hn2 : acc = numOf (l.take i) := by
                    have := hn.out
                    rwa [List.drop_eq_nil_of_le (by rw [List.length_take]; omega), numAcc] at this
                  subst hn2
                  have hle := numSize_le l (by rw [HSZ.out, hlen.out]; omega)
                  rw [HSZ.out] at hle
                  have hns := numSize_bd (numOf (l.take i))
                  go_wp2_with fail
                  refine (refRoom_any _ _ hacc).mono ?_; rintro x w' ⟨rfl, rfl⟩
                  have hsl : sizeAt l ≤ l.length := by rw [HSZ.out, hlen.out]; omega
                  by_cases hb : numSize (numOf (l.take i)) < i
                  · have hrd : rdNum l 0 = (0, l, 4) := by rw [rdNum, if_pos rfl, if_pos hsl, if_pos (by rw [HSZ.out]; exact hb)]
                    have HRD := Lib.hid hrd
                    clear hrd hsl
                    go_wp2
                    go_ret
                    rw [HRD.out]
                    exact ⟨rfl, ⟨_, _, _, set_at H.out 1 _, hr.only (Only.set w 1 _) (Nat.le_of_lt hlt) (Nat.le_refl _)⟩, Only.set w 1 _⟩
                  · have hrd : rdNum l 0 = (numOf (l.take i), l.drop i, 0) := by rw [rdNum, if_pos rfl, if_pos hsl, if_neg (by rw [HSZ.out]; exact hb), HSZ.out]
                    have HRD := Lib.hid hrd
                    clear hrd hsl
                    have hib : numSize (numOf (l.take i)) = i := by omega
                    have hibi : ((numSize (numOf (l.take i)) : Int) == (i : Int)) = true := by rw [hib]; exact beq_self_eq_true _
                    have hd := Lib.hid (hr.drop_ (k := i) (by omega))
                    have hcap := hr.cap
                    have hik : (i : Int) ≤ (k : Int) := by omega
                    have hkc : (k : Int) ≤ (c : Int) := by omega
                    by_cases hci : (i : Int) = (c : Int)
                    · go_wp2
                      go_ret
                      rw [HRD.out, show l.drop i = [] from List.drop_eq_nil_of_le (by rw [hlen.out]; omega)]
                      exact ⟨rfl, ⟨_, _, _, set_at H.out 0 _, Rd.nil _ _ _ _⟩, Only.set w 0 _⟩
                    · go_wp2
                      go_ret
                      rw [HRD.out]
                      have hd := hd.out
                      rw [if_neg (by omega)] at hd
                      exact ⟨rfl, ⟨_, _, _, set_at H.out 0 _, hd.only (Only.set w 0 _) (Nat.le_of_lt hlt) (Nat.le_refl _)⟩, Only.set w 0 _⟩
  · have hd : (e == 0) = false := by simpa using he
    go_enter Try.func27, Try.ntmps27
    go_wp2
    go_ret
    rw [rdNum, if_neg he]
    exact ⟨rfl, hR, Only.refl _ _⟩
end Go.Proofs.Ytilcgnghhfiflaa
