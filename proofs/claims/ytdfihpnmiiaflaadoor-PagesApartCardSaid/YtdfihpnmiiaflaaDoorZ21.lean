/- Texts of this claim, one behind the other: Pk, PAp. -/
import Derived.Test.YtdfihpnmiiaflaaDoorZ00
import Derived.Test.YtdfihpnmiiaflaaDoorZ19
import Derived.Test.YtdfihpnmiiaflaaDoorZ20
import Derived.Deep.CutBlock
set_option linter.unusedSimpArgs false
set_option linter.unusedVariables false
section
/- The kit's Pick. -/
namespace Go.Proofs.YtdfihpnmiiaflaaDoor
open Go.RowKit

theorem tmod_cases (n : Int) (m : Nat) (h : 1 ≤ m) : ∃ r : Nat, n % (m : Int) = r ∧ r < m ∧ ((n.tmod m < 0 ∧ n.tmod m = (r : Int) - m) ∨ (0 ≤ n.tmod m ∧ n.tmod m = r)) := by
  have h0 := Int.emod_nonneg n (show (m : Int) ≠ 0 by omega)
  have h1 := Int.emod_lt_of_pos n (show (0 : Int) < m by omega)
  refine ⟨(n % (m : Int)).toNat, by omega, by omega, ?_⟩
  have ht := Int.tmod_eq_emod (a := n) (b := m)
  rw [Int.toNat_of_nonneg h0]
  by_cases hc : 0 ≤ n ∨ (m : Int) ∣ n
  · rw [if_pos hc] at ht
    exact Or.inr ⟨by omega, by omega⟩
  · rw [if_neg hc] at ht
    simp only [Int.natAbs_natCast] at ht
    exact Or.inl ⟨by omega, by omega⟩

set_option maxHeartbeats 800000 in
theorem Pick_any (n : Int) (m : Nat) (h1 : 1 ≤ m) (h2 : m ≤ 1000000) (w : World) : Calls Tryd.prog 22 #[.int .i64 n, .int .i64 (m : Int)] w fun x w' => (∃ r : Nat, r < m ∧ x = .returned (.int .i64 (r : Int))) ∧ w = w' := by
  obtain ⟨r, -, hlt, hs⟩ := tmod_cases n m h1
  have hm0 : (m : Int) ≠ 0 := by omega
  rcases hs with ⟨hs, hq⟩ | ⟨hs, hq⟩
  · go_enter Tryd.func22, Tryd.ntmps22
    go_wp2
    go_ret
    exact ⟨⟨r, hlt, by first | rfl | (congr 3; omega)⟩, rfl⟩
  · go_enter Tryd.func22, Tryd.ntmps22
    go_wp2
    go_ret
    exact ⟨⟨r, hlt, by first | rfl | (congr 3; omega)⟩, rfl⟩
end Go.Proofs.YtdfihpnmiiaflaaDoor
end
section
/- A page's bytes are its own: PagesApart. -/
namespace Go.Proofs.YtdfihpnmiiaflaaDoor
set_option maxRecDepth 8192
set_option linter.unusedSimpArgs false
set_option linter.unusedVariables false
open Go.RowKit Go.Maps

section
variable {w0 w w' : World} {q g p s m : Nat} {B : List UInt8} {C : Ca} {U : List Bool}
theorem ps_write (h : Ps w0 w q g p s m B C U) {D : List UInt8} {i : Int} {k top c : Nat} {A : Option Addr} (hr : Rd w top A 256 c D) (hk : k < C.length) (hi : i = (k : Int)) :
    Calls Tryd.prog 25 #[ptr p, .int .i64 i, .slice A 256 c] w fun e w' => e = .returned (.int .i64 0) ∧ Ps w0 w' q g p s m B (C.set k (some D)) U ∧ Kp (· = m) w w' := by
  obtain ⟨W, hW⟩ := h.ex
  refine (wrt hW.hd hr hk hi).mono ?_
  rintro e w' ⟨he, hd, hk2⟩
  exact ⟨he, h.step ⟨W, hW.disk hd (by simp) (hk2.mono (fun _ e => .inr e))⟩ hk2 (by rintro x rfl; exact h.lm) h.lq h.lg, hk2⟩
end
theorem pageAt_two {B : List UInt8} {C : Ca} {n : Nat} {X Y : List UInt8} (h : 2 * n + 1 < C.length) : pageAt B ((C.set (2 * n) (some X)).set (2 * n + 1) (some Y)) n = X ++ Y := by
  rw [pageAt, look_set_ne (by omega), look_set_same (by omega), look_set_same (by simp; omega)]
theorem sp_good {n m : Nat} {b : List UInt8} (h : b.length ≤ 500) : goodP m (pageB n b) ↔ sumP n (padP b) = sumP m (padP b) := by
  have hd := (goodP_page (n := n) h).2
  unfold goodP
  rw [hd]
  unfold pageB
  rw [padP_self (padP_length h)]
  constructor
  · intro e
    exact (List.append_inj e (by rw [sumP_length, sumP_length])).1
  · intro e
    rw [e]
theorem pageB_take {n : Nat} {b : List UInt8} : (pageB n b).take 12 = sumP n (padP b) := by
  rw [pageB, List.take_append_of_le_length (by rw [sumP_length]; omega), List.take_of_length_le (by rw [sumP_length]; omega)]
theorem Rd.blk {w : World} {f n : Nat} {l : List UInt8} (h : Bk w f (cs8 l)) (hl : l.length = n) : Rd w w.heap.size (some ⟨f, 0, none⟩) n n l := by
  have h1 := h.lt
  obtain ⟨t, h2⟩ := h
  subst hl
  exact Rd.of_block h2 h1
theorem xor8 (u : UInt8) (y : Int) (h0 : 0 ≤ y) (h1 : y ≤ 255) : bits .xor .u8 (u.toNat : Int) y = ((u ^^^ UInt8.ofNat y.toNat).toNat : Int) := by
  obtain ⟨v, rfl⟩ : ∃ v : Nat, y = (v : Int) := ⟨y.toNat, by omega⟩
  have hu := u.toNat_lt
  have h2 : (BitVec.ofInt 8 (u.toNat : Int)).toNat = u.toNat := by
    rw [BitVec.ofInt_natCast, BitVec.toNat_ofNat]; exact Nat.mod_eq_of_lt (by omega)
  have h3 : (BitVec.ofInt 8 (v : Int)).toNat = v := by
    rw [BitVec.ofInt_natCast, BitVec.toNat_ofNat]; exact Nat.mod_eq_of_lt (by omega)
  show IntKind.u8.wrap ((BitVec.ofInt 8 (u.toNat : Int) ^^^ BitVec.ofInt 8 (v : Int)).toNat : Int) = _
  have h4 : u.toNat ^^^ v < 2 ^ 8 := Nat.xor_lt_two_pow (by omega) (by omega)
  rw [BitVec.toNat_xor, h2, h3, UInt8.toNat_xor, Int.toNat_natCast, show (UInt8.ofNat v).toNat = v by simp; omega]
  simp [IntKind.wrap, IntKind.signed, IntKind.bits]
  omega
theorem Ps.lts {w0 w : World} {q g p s m : Nat} {B : List UInt8} {C : Ca} {U : List Bool} (h : Ps w0 w q g p s m B C U) : q < w.heap.size ∧ g < w.heap.size ∧ p < w.heap.size ∧ s < w.heap.size ∧ m < w.heap.size := by
  obtain ⟨W, hW⟩ := h.ex
  exact ⟨hW.qlt, hW.hb.lt, hW.hd.plt, hW.hd.slt, hW.hd.mlt⟩
/-- A byte of a row of the call's own, written. -/
theorem set_row {w : World} {base t cap kk : Nat} {cur : Array Value} {cs : List UInt8} (ho : Ow w base (.slice (some ⟨t, 0, none⟩) cs.length cap) cs) (hth : w.heap[t]? = some (.cells cur 5 (0, 0))) (htc : 512 ≤ cap) (hcz : cur.size = cap * 1) (hct : cur.toList.take (512 * 1) = cs8 cs) (hl : cs.length = 512) (hk : kk < 512) (y : UInt8) :
    Rd (w.setCell ⟨t, kk, none⟩ (.int .u8 (y.toNat : Int))) (w.setCell ⟨t, kk, none⟩ (.int .u8 (y.toNat : Int))).heap.size (some ⟨t, 0, none⟩) 512 cap (cs.set kk y) := by
  have hlt : t < w.heap.size := (Array.getElem?_eq_some_iff.1 hth).1
  refine ⟨by rw [List.length_set, hl], htc, fun _ => ⟨_, rfl, by simpa [World.setCell] using hlt, fun j v hv => ?_⟩⟩
  have hj : j < 512 := by have := (List.getElem?_eq_some_iff.1 hv).1; rw [List.length_set, hl] at this; exact this
  have hadd : (⟨t, 0, none⟩ : Addr).add j = ⟨t, j, none⟩ := by unfold Addr.add; split <;> simp_all
  rw [hadd, cell_of_row _ t j _ 5 (0, 0) (heap_setCell_same w t kk _ 5 _ hth)]
  by_cases hjk : kk = j
  · subst hjk
    rw [List.getElem?_set_self (by omega)] at hv
    injection hv with hv
    subst hv
    rw [Array.getElem?_setIfInBounds_self_of_lt (by omega)]
    rfl
  · rw [List.getElem?_set_ne hjk] at hv
    have h1 : (cur.toList.take (512 * 1))[j]? = some (B8 v) := by rw [hct]; simp [cs8, hv]
    rw [List.getElem?_take, if_pos (by omega)] at h1
    simp [Array.getElem?_setIfInBounds, hjk]
    simpa using h1
theorem Rd.kpN2 {w w' : World} {t n c m : Nat} {l : List UInt8} (h : Rd w w.heap.size (some ⟨t, 0, none⟩) n c l) (hk : Kp (· = m) w w') (hm : t ≠ m) : Rd w' w'.heap.size (some ⟨t, 0, none⟩) n c l :=
  ⟨h.1, h.2.1, fun hn => by
    obtain ⟨ad, e, hb, hc⟩ := h.2.2 hn
    have he := e
    injection e with e
    subst e
    exact ⟨_, he, Nat.lt_of_lt_of_le hb hk.size, fun j u hu => (hk.cell (by rw [add_block]; exact hb) (by rw [add_block]; exact hm)).trans (hc j u hu)⟩⟩
theorem Rd.blk12 {w : World} {f : Nat} {l P : List UInt8} (h : Bk w f (cs8 l)) (hl : l.length = 512) (hd : l.drop 12 = P) : Rd w w.heap.size (some ⟨f, 12, none⟩) 500 500 P := by
  have := (Sl.of_block h (k := 12) (by omega)).1
  rw [hl, hd] at this
  exact this
set_option maxHeartbeats 64000000 in
theorem PagesApart_walk (n0 m0 : Int) (A : Option Addr) (k c : Nat) (body : List UInt8) (at_ by_ : Int) (w : World) (hT : Tab w) (_ : -9223372036854775808 ≤ n0) (_ : n0 ≤ 9223372036854775807) (_ : -9223372036854775808 ≤ m0) (_ : m0 ≤ 9223372036854775807)
    (hr : Rd w w.heap.size A k c body) (_ : -9223372036854775808 ≤ at_) (_ : at_ ≤ 9223372036854775807) (hy0 : 0 ≤ by_) (hy1 : by_ ≤ 255) :
    Calls Tryd.prog 6 #[.int .i64 n0, .int .i64 m0, .slice A k c, .int .i64 at_, .int .u8 by_] w fun e w' => e = .returned (.bool true) ∧ Below w.heap.size w w' := by
  have HT := Lib.hid hT
  have HR := Lib.hid hr
  have hbl := hr.len
  clear hT hr
  go_enter Tryd.func6, Tryd.ntmps6
  go_wp2_with fail
  refine (lives_any w HT.out).mono ?_; rintro e w1 ⟨rfl, hb⟩
  have HB1 := Lib.hid hb
  clear hb
  by_cases hk : k ≤ 500
  · have hk1 : ¬ ((500 : Int) < (k : Int)) := by omega
    go_wp2_with fail
    refine (Pick_any n0 30 (by omega) (by omega) w1).mono ?_; rintro e w2 ⟨⟨n, hn, rfl⟩, hw⟩; subst w2
    go_wp2_with fail
    refine (Pick_any m0 30 (by omega) (by omega) w1).mono ?_; rintro e w2 ⟨⟨m', hm, rfl⟩, hw⟩; subst w2
    have HRa := Lib.hid ((HR.out.below HB1.out).more HB1.out.size)
    go_wp2_with fail
    refine (OOwn_any w1 HRa.out (by omega)).mono ?_; rintro e w2 ⟨v2, rfl, ho2, hb2⟩
    obtain ⟨A2, c2, rfl, hs2⟩ := ho2.rdN hbl
    go_wp2_with fail
    refine (bytes_pg w2 n hs2 hk (by omega)).mono ?_; rintro e w3 ⟨fa, rfl, hfa, hka, hb3⟩
    have HB3 := Lib.hid (bl_call (bl_call HB1.out hb2) hb3)
    have HA3 := Lib.hid hka
    clear hb2 hb3 ho2 hs2 hka hfa
    have HRb := Lib.hid ((HR.out.below HB3.out).more HB3.out.size)
    go_wp2_with fail
    refine (OOwn_any w3 HRb.out (by omega)).mono ?_; rintro e w4 ⟨v4, rfl, ho4, hb4⟩
    obtain ⟨A4, c4, rfl, hs4⟩ := ho4.rdN hbl
    go_wp2_with fail
    refine (bytes_pg w4 m' hs4 hk (by omega)).mono ?_; rintro e w5 ⟨fb, rfl, hfb, hkb, hb5⟩
    have HB5 := Lib.hid (bl_call (bl_call HB3.out hb4) hb5)
    have HA5 := Lib.hid ((HA3.out.keep hb4).keep hb5)
    have HC5 := Lib.hid hkb
    have hne : fa ≠ fb := by have := (HA3.out.keep hb4).lt; omega
    clear hb4 hb5 ho4 hs4 hkb hfb HA3 HB3
    go_wp2_with fail
    refine (new_any w5 60 (by decide) (by decide)).mono ?_; rintro e w6 ⟨p, s, m, rfl, hd, hhi, hb⟩
    obtain ⟨h1, h2, h3⟩ := hhi
    have hsz := HB5.out.size
    have HD6 := Lib.hid hd
    have HB6 := Lib.hid (bl_call HB5.out hb)
    have HA6 := Lib.hid (HA5.out.keep hb)
    have HC6 := Lib.hid (HC5.out.keep hb)
    have HP1 : Hid (w.heap.size ≤ p) := Lib.hid (by omega)
    have HP2 : Hid (w.heap.size ≤ s) := Lib.hid (by omega)
    have HP3 : Hid (w.heap.size ≤ m) := Lib.hid (by omega)
    have HAlt := Lib.hid HA5.out.lt
    have HClt := Lib.hid HC5.out.lt
    have hma : m ≠ fa := by have := HA5.out.lt; omega
    have hmb : m ≠ fb := by have := HC5.out.lt; omega
    clear hd hb h1 h2 h3 HA5 HC5 HB5
    generalize hC : noC 60 = C at HD6
    generalize hBz : zs (60 * 256) = B at HD6
    have HC : Hid (C.length = 60) := Lib.hid (by rw [← hC]; simp [noC])
    clear hC hBz
    go_wp2_with fail
    have hb1 : Below w6.heap.size w6 (w6.alloc (.cells #[.int .i64 (m' : Int)] 3)) := bl_alloc (bl0 _) _
    have hin1 : inP (C.length / 2) [(m' : Int)] := by rw [HC.out]; intro u hu; simp at hu; omega
    refine (ps_open (HD6.out.old hb1) HT.out (bl_call HB6.out hb1) HP1.out HP2.out HP3.out (Zi.lit1 w6 m' (by omega) (by omega)) (by omega) hin1).mono ?_; rintro e w7 ⟨q, g, rfl, hps, hq, hg, hb7⟩
    rw [HC.out] at hps
    have HU : Hid ((setL (List.replicate (60 / 2) false) [(m' : Int)]).getD m' false = true) := Lib.hid (by
      simp only [setL, Int.toNat_natCast]
      rw [List.getD_eq_getElem?_getD, List.getElem?_set_self (by simp; omega)]; rfl)
    generalize setL (List.replicate (60 / 2) false) [(m' : Int)] = U at hps HU
    have HS7 := Lib.hid hps
    have HA7 := Lib.hid ((HA6.out.keep hb1).keep hb7)
    have HC7 := Lib.hid ((HC6.out.keep hb1).keep hb7)
    clear hps hq hg hb7 hb1 hin1 HD6 HA6 HC6 HB6
    have HPL := Lib.hid (padP_length (b := body) (by omega))
    have hstrA := run_str (Rd.blk12 HA7.out.drew (pageB_length (by omega)) (goodP_page (by omega)).2)
    have hstrB := run_str (Rd.blk12 HC7.out.drew (pageB_length (by omega)) (goodP_page (by omega)).2)
    go_wp2_with fail
    go_still (by kernel_rfl)
    change Exit.then _ _ _ _ w7.drew
    have HS8 := Lib.hid HS7.out.drew
    have HA8 := Lib.hid HA7.out.drew
    have HC8 := Lib.hid HC7.out.drew
    have hA512 : (pageB n body).length = 512 := pageB_length (by omega)
    have hB512 : (pageB m' body).length = 512 := pageB_length (by omega)
    have HA512 := Lib.hid hA512
    have HB512 := Lib.hid hB512
    clear hstrA hstrB HS7 HA7 HC7 hA512 hB512
    generalize w7.drew = w8 at HS8 HA8 HC8 ⊢
    have hla : ((pageB n body).take 256).length = 256 := by rw [List.length_take, HA512.out]; rfl
    have hlb : ((pageB n body).drop 256).length = 256 := by rw [List.length_drop, HA512.out]
    go_wp2_with fail
    refine (OOwn_any w8 ((Rd.blk HA8.out HA512.out).take_ (k := 256) (by omega)) (by omega)).mono ?_; rintro e w9 ⟨v9, rfl, ho9, hb9⟩
    obtain ⟨A9, c9, rfl, hs9⟩ := ho9.rdN hla
    go_wp2_with fail
    refine (ps_write (HS8.out.old hb9) hs9 (k := 2 * m') (by rw [HC.out]; omega) (by omega)).mono ?_; rintro e w10 ⟨rfl, hps, hk10⟩
    have HS10 := Lib.hid hps
    have HA10 : Hid (Bk w10 fa (cs8 (pageB n body))) := Lib.hid (by
      have h1 := HA8.out.keep hb9
      obtain ⟨t, h2⟩ := h1
      exact ⟨t, (hk10.block fa (Bk.lt ⟨t, h2⟩) (fun e => hma e.symm)).trans h2⟩)
    have HC10 : Hid (Bk w10 fb (cs8 (pageB m' body))) := Lib.hid (by
      have h1 := HC8.out.keep hb9
      obtain ⟨t, h2⟩ := h1
      exact ⟨t, (hk10.block fb (Bk.lt ⟨t, h2⟩) (fun e => hmb e.symm)).trans h2⟩)
    clear hps hk10 hb9 ho9 hs9 HS8 HA8 HC8
    go_wp2_with fail
    have hR256 : Rd w10 w10.heap.size (some ⟨fa, 256, none⟩) 256 256 ((pageB n body).drop 256) := by
      have := (Sl.of_block HA10.out (k := 256) (by rw [HA512.out]; omega)).1
      rw [HA512.out] at this
      exact this
    refine (OOwn_any w10 hR256 (by omega)).mono ?_; rintro e w11 ⟨v11, rfl, ho11, hb11⟩
    obtain ⟨A11, c11, rfl, hs11⟩ := ho11.rdN hlb
    go_wp2_with fail
    refine (ps_write (HS10.out.old hb11) hs11 (k := 2 * m' + 1) (by rw [List.length_set, HC.out]; omega) (by omega)).mono ?_; rintro e w12 ⟨rfl, hps, hk12⟩
    have HS12 := Lib.hid hps
    have HA12 : Hid (Bk w12 fa (cs8 (pageB n body))) := Lib.hid (by
      have h1 := HA10.out.keep hb11
      obtain ⟨t, h2⟩ := h1
      exact ⟨t, (hk12.block fa (Bk.lt ⟨t, h2⟩) (fun e => hma e.symm)).trans h2⟩)
    have HC12 : Hid (Bk w12 fb (cs8 (pageB m' body))) := Lib.hid (by
      have h1 := HC10.out.keep hb11
      obtain ⟨t, h2⟩ := h1
      exact ⟨t, (hk12.block fb (Bk.lt ⟨t, h2⟩) (fun e => hmb e.symm)).trans h2⟩)
    clear hps hk12 hb11 ho11 hs11 HS10 HA10 HC10 hR256
    have HPA : Hid (pageAt B ((C.set (2 * m') (some ((pageB n body).take 256))).set (2 * m' + 1) (some ((pageB n body).drop 256))) m' = pageB n body) := Lib.hid (by
      rw [pageAt_two (by rw [HC.out]; omega), List.take_append_drop])
    have HCl : Hid (((C.set (2 * m') (some ((pageB n body).take 256))).set (2 * m' + 1) (some ((pageB n body).drop 256))).length = 60) := Lib.hid (by rw [List.length_set, List.length_set, HC.out])
    generalize (C.set (2 * m') (some ((pageB n body).take 256))).set (2 * m' + 1) (some ((pageB n body).drop 256)) = C2 at HS12 HPA HCl
    have hrd := ps_read HS12.out m' HU.out
    rw [HPA.out] at hrd
    have HRD := Lib.hid hrd
    clear hrd HPA hla hlb
    go_wp2_with fail
    refine HRD.out.mono ?_; rintro e w13 ⟨hread, hb13⟩
    have HS13 := Lib.hid (HS12.out.old hb13)
    have HA13 := Lib.hid (HA12.out.keep hb13)
    have HC13 := Lib.hid (HC12.out.keep hb13)
    have hb13s := hb13.size
    clear HS12 HA12 HC12 HRD
    have hsp := sp_good (n := n) (m := m') (b := body) (by omega)
    have hdrop := (goodP_page (n := n) (b := body) (by omega)).2
    rw [hdrop] at hread
    clear hdrop
    have HTA := Lib.hid (pageB_take (n := n) (b := body))
    have HTB := Lib.hid (pageB_take (n := m') (b := body))
    have hstrA := run_str ((Rd.blk HA13.out.drew HA512.out).take_ (k := 12) (by omega))
    have hstrB := run_str ((Rd.blk HC13.out.drew HB512.out).take_ (k := 12) (by omega))
    rw [HTA.out] at hstrA
    rw [HTB.out] at hstrB
    have hread2 : ∃ X xn xc lx, ∃ ec : Int, e = .returned (.tuple #[.slice X xn xc, .int .i64 ec]) ∧ Rd w13 w13.heap.size X xn xc lx ∧ (ec = 0 ∧ sumP n (padP body) = sumP m' (padP body) ∧ lx = padP body ∨ ec = 4 ∧ sumP n (padP body) ≠ sumP m' (padP body)) := by
      by_cases hg : sumP n (padP body) = sumP m' (padP body)
      · rw [if_pos (hsp.2 hg)] at hread
        obtain ⟨Ax, he, hAx, hsx⟩ := hread
        exact ⟨_, _, _, _, _, he, hsx.1, .inl ⟨rfl, hg, rfl⟩⟩
      · rw [if_neg (fun h => hg (hsp.1 h))] at hread
        exact ⟨_, _, _, [], _, hread, Rd.nil _ _ _ _, .inr ⟨rfl, hg⟩⟩
    clear hread hsp
    obtain ⟨X, xn, xc, lx, ec, rfl, hsx, hcase⟩ := hread2
    have hnm : n = m' → sumP n (padP body) = sumP m' (padP body) := fun h => by rw [h]
    have HSX14 := Lib.hid (hsx.keep (w' := w13.drew) (fun _ _ => rfl))
    have HC14 := Lib.hid HC13.out.drew
    have HS14 := Lib.hid HS13.out.drew
    have HD12 := Lib.hid (goodP_page (n := m') (b := body) (by omega)).2
    have HHC := Lib.hid hcase
    have HNM := Lib.hid hnm
    clear hsx hcase hnm
    generalize hS1 : sumP n (padP body) = S1 at hstrA HHC HNM
    generalize hS2 : sumP m' (padP body) = S2 at hstrB HHC HNM
    generalize hP1 : padP body = P1 at HHC HD12
    clear hS1 hS2 hP1
    go_wp2_with fail
    go_still (by kernel_rfl)
    change Exit.then _ _ _ _ w13.drew
    clear hstrA hstrB HA13 HC13 HS13
    generalize w13.drew = w14 at HSX14 HC14 HS14 ⊢
    have hstrX := run_str (HSX14.out.keep (w' := w14.drew) (fun _ _ => rfl))
    have hstrC := run_str (Rd.blk12 HC14.out.drew HB512.out HD12.out)
    go_upto_region 16 with fail
    generalize hb20 : (S1 == S2) = b20
    have HB20 := Lib.hid hb20
    clear hb20
    go_cut [143] from 111 to 142 (fun v wx => v = .bool false ∧ wx = w14.drew)
    case first =>
      rcases HHC.out with ⟨rfl, hS, rfl⟩ | ⟨rfl, hS⟩
      · obtain rfl : b20 = true := by rw [← HB20.out, hS]; simp
        clear hS
        by_cases hnm2 : (n : Int) = (m' : Int)
        · obtain rfl : n = m' := by omega
          clear hnm2
          go_wp2_with fail
          go_still (by kernel_rfl)
          go_wp2_with fail
          go_meet
          case rel => exact ⟨rfl, rfl⟩
        · go_wp2_with fail
          go_still (by kernel_rfl)
          go_wp2_with fail
          go_meet
          case rel => exact ⟨rfl, rfl⟩
      · have hnm2 : ¬ ((n : Int) = (m' : Int)) := fun h => hS (HNM.out (by omega))
        obtain rfl : b20 = false := by rw [← HB20.out]; simp [hS]
        clear hS
        go_wp2_with fail
        go_still (by kernel_rfl)
        go_wp2_with fail
        go_meet
        case rel => exact ⟨rfl, rfl⟩
    case rest =>
      obtain ⟨rfl, rfl⟩ := hcut
      clear hstrX hstrC
      have HS15 := Lib.hid HS14.out.drew
      have HC15 := Lib.hid HC14.out.drew
      clear HS14 HC14 HSX14 HHC HNM HB20
      generalize w14.drew = w15 at HS15 HC15 ⊢
      go_wp2_with fail
      refine (OOwn_any w15 (Rd.blk HC15.out HB512.out) (by omega)).mono ?_; rintro e w16 ⟨v16, rfl, ho16, hb16⟩
      have HS16 := Lib.hid (HS15.out.old hb16)
      have hlo : w.heap.size ≤ w15.heap.size := HS15.out.bl.size
      have HPb := Lib.hid (show (pageB m' body).length = 512 from HB512.out)
      obtain ⟨cs, hcs⟩ : ∃ cs, cs = pageB m' body := ⟨_, rfl⟩
      have HCS := Lib.hid hcs
      rw [← hcs] at ho16 HPb
      clear hcs
      rcases ho16.2 with ⟨rfl, h0⟩ | ⟨t, cap, cur, rfl, htb, hth, htc, htm, hcz, hct⟩
      · have := HPb.out; omega
      have htlt : t < w16.heap.size := (Array.getElem?_eq_some_iff.1 hth).1
      rw [show cs.length = 512 from HPb.out] at htc hct ⊢
      go_wp2_with fail
      refine (Pick_any at_ 512 (by omega) (by omega) w16).mono ?_; rintro e w17 ⟨⟨kk, hkk, rfl⟩, hw⟩; subst w17
      obtain ⟨u, hu⟩ : ∃ u, cs[kk]? = some u := ⟨_, List.getElem?_eq_getElem (by rw [HPb.out]; exact hkk)⟩
      have hcell : w16.cell? ⟨t, kk, none⟩ = some (.int .u8 (u.toNat : Int)) := by
        rw [cell_of_row w16 t kk cur 5 (0, 0) hth]
        have h1 : (cur.toList.take (512 * 1))[kk]? = some (B8 u) := by rw [hct]; simp [cs8, hu]
        rw [List.getElem?_take, if_pos (by omega)] at h1
        simpa [B8] using h1
      have hfr : w16.frozen? ⟨t, kk, none⟩ = false := by simp [World.frozen?, hth]
      have htm : t ≠ m := by have := HS15.out.lts.2.2.2.2; omega
      have HY := Lib.hid (xor8 u by_ hy0 hy1)
      have HS17 : ∀ v : Value, Hid (Ps w (w16.setCell ⟨t, kk, none⟩ v) q g p s m B C2 U) := fun v => Lib.hid (by
        have h := HS15.out.lts
        exact HS16.out.kp (Kp.of_only (Only.set w16 kk v)) (by rintro x rfl; omega) (by omega) (by omega) (by omega) (by omega) (by omega))
      have HRt := Lib.hid (set_row ho16 hth htc hcz hct HPb.out hkk (u ^^^ UInt8.ofNat by_.toNat))
      have hkl : kk < 512 := hkk
      have HU2 := Lib.hid hu
      clear hth hcz hct ho16 hb16 HS16 hu
      have HGD : Hid (by_ = 0 → goodP m' (cs.set kk (u ^^^ UInt8.ofNat by_.toNat))) := Lib.hid (fun h => by
        have hs : cs.set kk (u ^^^ UInt8.ofNat by_.toNat) = cs := by
          rw [h]
          have : u ^^^ UInt8.ofNat (0 : Int).toNat = u := by simp
          rw [this]
          exact List.ext_getElem? (fun i => by
            by_cases hi : kk = i
            · subst hi; rw [List.getElem?_set_self (by rw [HPb.out]; exact hkl), HU2.out]
            · rw [List.getElem?_set_ne hi])
        rw [hs, HCS.out]
        exact (goodP_page (by omega)).1)
      have HDl : Hid ((cs.set kk (u ^^^ UInt8.ofNat by_.toNat)).length = 512) := Lib.hid (by rw [List.length_set, HPb.out])
      go_wp2_with fail
      rw [HY.out]
      have HSa := HS17 (.int .u8 ((u ^^^ UInt8.ofNat by_.toNat).toNat : Int))
      clear HS17 HY HCS HPb HC15 HS15 hcell hfr
      generalize w16.setCell ⟨t, kk, none⟩ (.int .u8 ((u ^^^ UInt8.ofNat by_.toNat).toNat : Int)) = w17 at HSa HRt ⊢
      generalize cs.set kk (u ^^^ UInt8.ofNat by_.toNat) = D at HRt HGD HDl
      have hl1 : (D.take 256).length = 256 := by rw [List.length_take, HDl.out]; rfl
      have hl2 : (D.drop 256).length = 256 := by rw [List.length_drop, HDl.out]
      refine (OOwn_any w17 (HRt.out.take_ (k := 256) (by omega)) (by omega)).mono ?_; rintro e w18 ⟨v18, rfl, ho18, hb18⟩
      obtain ⟨A18, c18, rfl, hs18⟩ := ho18.rdN hl1
      go_wp2_with fail
      refine (ps_write (HSa.out.old hb18) hs18 (k := 2 * m') (by rw [HCl.out]; omega) (by omega)).mono ?_; rintro e w19 ⟨rfl, hps, hk19⟩
      have HS19 := Lib.hid hps
      have HRt19 := Lib.hid (((HRt.out.below hb18).more hb18.size).kpN2 hk19 htm)
      clear hps hk19 hb18 ho18 hs18 HSa HRt
      go_wp2_with fail
      have hR2 : Rd w19 w19.heap.size (some ⟨t, 256, none⟩) 256 (cap - 256) (D.drop 256) := by
        have := HRt19.out.drop_ (k := 256) (by omega)
        rw [if_neg (by omega)] at this
        simpa [Addr.add] using this
      refine (OOwn_any w19 hR2 (by omega)).mono ?_; rintro e w20 ⟨v20, rfl, ho20, hb20⟩
      obtain ⟨A20, c20, rfl, hs20⟩ := ho20.rdN hl2
      go_wp2_with fail
      refine (ps_write (HS19.out.old hb20) hs20 (k := 2 * m' + 1) (by rw [List.length_set, HCl.out]; omega) (by omega)).mono ?_; rintro e w21 ⟨rfl, hps, hk21⟩
      have HS21 := Lib.hid hps
      have HRt21 := Lib.hid (((HRt19.out.below hb20).more hb20.size).kpN2 hk21 htm)
      have HPA : Hid (pageAt B ((C2.set (2 * m') (some (D.take 256))).set (2 * m' + 1) (some (D.drop 256))) m' = D) := Lib.hid (by
        rw [pageAt_two (by rw [HCl.out]; omega), List.take_append_drop])
      clear hps hk21 hb20 ho20 hs20 HS19 HRt19 hR2
      have hrd := ps_read HS21.out m' HU.out
      rw [HPA.out] at hrd
      have HRD := Lib.hid hrd
      clear hrd HPA hl1 hl2
      go_wp2_with fail
      refine HRD.out.mono ?_; rintro e w22 ⟨hread, hb22⟩
      have HB22 := Lib.hid (bl_call HS21.out.bl hb22)
      have HRt22 := Lib.hid ((HRt21.out.below hb22).more hb22.size)
      clear HRD HS21 HRt21 hb22
      by_cases hg : goodP m' D
      · rw [if_pos hg] at hread
        obtain ⟨Ay, rfl, hAy, hsy⟩ := hread
        have hgD : pageB m' (D.drop 12) = D := by unfold goodP at hg; exact hg.symm
        have HGE := Lib.hid hgD
        have hd500 : (D.drop 12).length = 500 := by rw [List.length_drop, HDl.out]
        have HD5 := Lib.hid hd500
        have HSY := Lib.hid hsy
        clear hg hgD hAy hsy hd500
        go_wp2_with fail
        refine (OOwn_any w22 HSY.out.1 (by omega)).mono ?_; rintro e w23 ⟨v23, rfl, ho23, hb23⟩
        obtain ⟨A23, c23, rfl, hs23⟩ := ho23.rdN HD5.out
        go_wp2_with fail
        refine (bytes_pg w23 m' hs23 (by omega) (by omega)).mono ?_; rintro e w24 ⟨fz, rfl, hfz, hkz, hb24⟩
        rw [HGE.out] at hkz
        have hstr1 := run_str (Rd.blk hkz HDl.out)
        have hstr2 := run_str (((HRt22.out.below hb23).below (hb24.mono hb23.size)))
        have HBF := Lib.hid (bl_call (bl_call HB22.out hb23) hb24)
        clear hkz hb23 hb24 ho23 hs23 hfz
        go_wp2
        go_ret
        exact ⟨by simp, HBF.out⟩
      · rw [if_neg hg] at hread
        subst hread
        have hy2 : ¬ (by_ = 0) := fun h => hg (HGD.out h)
        clear hg
        go_wp2
        go_ret
        exact ⟨by simp [hy2], HB22.out⟩
  · have hk1 : (500 : Int) < (k : Int) := by omega
    go_wp2
    go_ret
    exact ⟨rfl, HB1.out⟩
end Go.Proofs.YtdfihpnmiiaflaaDoor
end
