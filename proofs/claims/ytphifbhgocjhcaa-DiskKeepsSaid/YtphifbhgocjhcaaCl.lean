/- DiskClones: a clone is the disk as it is, cached sectors, too; from then on each goes its own way. -/
import Derived.Test.YtphifbhgocjhcaaDo
import Derived.Test.YtphifbhgocjhcaaIn
import Derived.Test.YtphifbhgocjhcaaLi
namespace Go.Proofs.Ytphifbhgocjhcaa
set_option linter.unusedSimpArgs false
set_option linter.unusedVariables false
open Go.RowKit Go.Maps

/-- What becomes of a disk by calls. -/
def runL (l : List Av) (S : List UInt8 × Ca) : List UInt8 × Ca := l.foldl (fun S x => doA x.a S) S
theorem runL_step (l : List Av) (S : List UInt8 × Ca) {i : Nat} {x : Av} (h : l[i]? = some x) : runL (l.take (i + 1)) S = doA ⟨x.a.kind, x.a.at_, x.a.b, x.a.long, x.a.keep⟩ (runL (l.take i) S) := by
  rw [List.take_add_one, h]
  simp [runL, List.foldl_append]
theorem runL_len (l : List Av) : ∀ (S : List UInt8 × Ca), (runL l S).2.length = S.2.length := by
  induction l with
  | nil => intro S; rfl
  | cons x r ih => intro S; exact (ih (doA x.a S)).trans (doA_len x.a S)
/-- Numbers that lie below block top. -/
def Nz (w : World) (top : Nat) (A : Option Addr) (n c : Nat) (l : List Nat) : Prop :=
  l.length = n ∧ n ≤ c ∧ (0 < n → ∃ ad, A = some ad ∧ ad.block < top ∧ ∀ (j u : Nat), l[j]? = some u → w.cell? (ad.add j) = some (.int .i64 (u : Int)))
theorem Ni.nz {w : World} {base : Nat} {A : Option Addr} {n c : Nat} {l : List Nat} (h : Ni w base A n c l) : Nz w w.heap.size A n c l :=
  ⟨h.1, h.2.1, fun hn => by obtain ⟨ad, e, _, ht, hc⟩ := h.2.2 hn; exact ⟨ad, e, ht, hc⟩⟩
theorem Nz.ni {w : World} {top : Nat} {A : Option Addr} {n c : Nat} {l : List Nat} (h : Nz w top A n c l) (ht : top ≤ w.heap.size) : Ni w 0 A n c l :=
  ⟨h.1, h.2.1, fun hn => by obtain ⟨ad, e, hb, hc⟩ := h.2.2 hn; exact ⟨ad, e, Nat.zero_le _, by omega, hc⟩⟩
theorem Nz.below {w w' : World} {top : Nat} {A : Option Addr} {n c : Nat} {l : List Nat} (h : Nz w top A n c l) (hb : Below top w w') : Nz w' top A n c l :=
  ⟨h.1, h.2.1, fun hn => by obtain ⟨ad, e, ht, hc⟩ := h.2.2 hn; exact ⟨ad, e, ht, fun j u hu => (hb.cell (p := ad.add j) (by rw [add_block]; exact ht)).trans (hc j u hu)⟩⟩
theorem new_one (w : World) (k : Nat) (h : k < 40) : Calls Try.prog 8 #[.int .i64 (1 + (k : Int))] w fun e w' => ∃ p s m, e = .returned (.tuple #[ptr p, .int .i64 0]) ∧ Dk w' p s m (zs ((1 + k) * 256)) (noC (1 + k)) ∧ Hi w.heap.size p s m ∧ Below w.heap.size w w' := by
  have := new_any w (1 + k) (by omega) (by omega)
  rw [show ((1 + k : Nat) : Int) = 1 + (k : Int) by omega] at this
  exact this

set_option maxRecDepth 100000 in
set_option maxHeartbeats 1000000 in
theorem DiskClones_walk (n : Int) (A1 : Option Addr) (n1 c1 : Nat) (l1 : List Av) (A2 : Option Addr) (n2 c2 : Nat) (l2 : List Av) (w : World) (_hn : -9223372036854775808 ≤ n) (_hn2 : n ≤ 9223372036854775807)
    (h1 : Ai w w.heap.size A1 n1 c1 l1) (h2 : Ai w w.heap.size A2 n2 c2 l2) :
    Calls Try.prog 7 #[.int .i64 n, .slice A1 n1 c1, .slice A2 n2 c2] w fun e w' => e = .returned (.bool true) ∧ Below w.heap.size w w' := by
  have HA1 := Lib.hid h1
  have HA2 := Lib.hid h2
  clear h1 h2 _hn _hn2
  go_enter Try.func7, Try.ntmps7
  go_wp2_with fail
  refine (lives_any _).mono ?_
  rintro e w1 ⟨rfl, hb⟩
  have HB := Lib.hid hb
  clear hb
  have HS1 := Lib.hid (small_any w1 (HA1.out.below HB.out))
  have HS2 := Lib.hid (small_any w1 (HA2.out.below HB.out))
  by_cases hf1 : few l1
  rotate_left
  · rw [show decide (few l1) = false from decide_eq_false hf1] at HS1
    clear hf1
    go_wp2_with fail
    refine HS1.out.mono ?_
    rintro e w2 ⟨rfl, rfl⟩
    go_wp2
    go_ret
    exact ⟨rfl, HB.out⟩
  rw [show decide (few l1) = true from decide_eq_true hf1] at HS1
  by_cases hf2 : few l2
  rotate_left
  · rw [show decide (few l2) = false from decide_eq_false hf2] at HS2
    clear hf1 hf2
    go_wp2_with fail
    refine HS1.out.mono ?_
    rintro e w2 ⟨rfl, rfl⟩
    go_wp2_with fail
    refine HS2.out.mono ?_
    rintro e w2 ⟨rfl, rfl⟩
    go_wp2
    go_ret
    exact ⟨rfl, HB.out⟩
  rw [show decide (few l2) = true from decide_eq_true hf2] at HS2
  have HF1 := Lib.hid hf1
  have HF2 := Lib.hid hf2
  have hn1 : n1 ≤ 80 := by have := hf1.1; have := HA1.out.1; omega
  have hn2 : n2 ≤ 80 := by have := hf2.1; have := HA2.out.1; omega
  clear hf1 hf2
  go_wp2_with fail
  refine HS1.out.mono ?_
  rintro e w2 ⟨rfl, rfl⟩
  go_wp2_with fail
  refine HS2.out.mono ?_
  rintro e w2 ⟨rfl, rfl⟩
  go_wp2_with fail
  have hlt := pickN_lt n 40 (by omega)
  refine (pick_any _ n 40 (by omega) (by omega)).mono ?_
  rintro e w2 ⟨rfl, rfl⟩
  generalize pickN n 40 = k at hlt
  have HNw := Lib.hid (new_one w2 k (by omega))
  have HKl := Lib.hid (show 1 + k ≤ 40 by omega)
  clear HS1 HS2
  go_wp2_with fail
  refine HNw.out.mono ?_
  rintro e w3 ⟨p, s, m, rfl, hd, hh, hb⟩
  have hs1 := HB.out.size
  have HH : Hid (Hi w.heap.size p s m) := Lib.hid (by unfold Hi at *; omega)
  obtain ⟨S0, hS0⟩ : ∃ S0 : List UInt8 × Ca, S0 = (zs ((1 + k) * 256), noC (1 + k)) := ⟨_, rfl⟩
  have HL0 : Hid (S0.2.length ≤ 40) := Lib.hid (by rw [hS0]; simp [noC]; omega)
  have HD : Hid (Dk w3 p s m S0.1 S0.2) := Lib.hid (by rw [hS0]; exact hd)
  have HB := Lib.hid (bl_call HB.out hb)
  have HOT : Hid (True) := Lib.hid trivial
  clear hd hh hb hs1 hS0 HNw hlt HKl
  go_wp2_with fail
  go_loopw [9] (fun v wr => ∃ i : Nat, i ≤ n1 ∧ v = .int .i64 (i : Int) ∧ Hid (Dk wr p s m (runL (l1.take i) S0).1 (runL (l1.take i) S0).2) ∧ Hid (Below w.heap.size w wr) ∧ Hid (True)) (fun v _ => n1 - (RowKit.intOf v).toNat)
  case atStart => exact ⟨0, by omega, rfl, Lib.hid HD.out, HB, Lib.hid HOT.out⟩
  case round =>
    clear HB HOT
    obtain ⟨i, hi, rfl, HX, HB, HOT⟩ := hrel
    by_cases hlt : i < n1
    · obtain ⟨ad, x, rfl, hx, hm, ho, e0, e1, e2, e3, e4⟩ := (HA1.out.below HB.out).at_ hlt
      have HS := Lib.hid (runL_step l1 S0 hx)
      have hdo := do_any (S := runL (l1.take i) S0) HX.out x.a.kind x.a.at_ x.a.b x.a.long x.K x.kc x.a.keep ho HB.out.size (HF1.out.2 x hm)
      have HDo := Lib.hid hdo
      clear hx hm ho hdo
      go_wp2_with fail
      refine HDo.out.mono ?_
      rintro e w2 ⟨rfl, hd, hk⟩
      have HX2 : Hid (Dk w2 p s m (runL (l1.take (i + 1)) S0).1 (runL (l1.take (i + 1)) S0).2) := Lib.hid (by rw [HS.out]; exact hd)
      have HB2 := Lib.hid (HB.out.trans (hk.below HB.out.size (fun q hq => by have := HH.out; unfold Hi at this; omega)))
      have HOT2 : Hid (True) := Lib.hid (trivial)
      clear hd hk
      go_wp2
      go_roundw
      case rel => exact ⟨i + 1, by omega, by go_num, HX2, HB2, HOT2⟩
      case measure => simp [RowKit.intOf]; omega
    · obtain rfl : n1 = i := by omega
      rw [List.take_of_length_le (show l1.length ≤ n1 by have := HA1.out.1; omega)] at HX

      have HD := HX
      clear hlt
      go_wp2_with fail
      have hR := Old.stays
      refine reg_start Old follows_mixed ?_
    -- region 12 of f7: 7 operations, draws: true
      refine reg_take (v := ?_) hR 0 rfl (by kernel_rfl) (by kernel_rfl) (by kernel_rfl) (fun _ _ _ h => h) (by rfl) ?_ ?_
      rotate_left
      · intro W hW; go_simp; try with_reducible rfl
      try simp only [Act.put, List.getElem_toArray, List.getElem_cons_succ, List.getElem_cons_zero, List.setIfInBounds_toArray, List.set_cons_zero, List.set_cons_succ]
      refine reg_take (v := ?_) hR 3 rfl (by kernel_rfl) (by kernel_rfl) (by kernel_rfl) (fun _ _ _ h => h) (by rfl) ?_ ?_
      rotate_left
      · intro W hW; go_simp; try with_reducible rfl
      try simp only [Act.put, List.getElem_toArray, List.getElem_cons_succ, List.getElem_cons_zero, List.setIfInBounds_toArray, List.set_cons_zero, List.set_cons_succ]
      -- STEP 1: Op.call { callee := Callee.value (Operand.func 29), args := #[t46], argTypes := #[22] }
      refine reg_step hR 1 (by kernel_rfl) rfl fun K hK => ?_
      try simp only [Act.put, List.getElem_toArray, List.getElem_cons_succ, List.getElem_cons_zero, List.setIfInBounds_toArray, List.set_cons_zero, List.set_cons_succ]
      go_simp
      refine (image_any HD.out.drew).mono ?_; rintro x u1 ⟨v1, rfl, ho1, hb1⟩
      obtain ⟨A1', c1', rfl, hr1⟩ := ho1.rd
      have HU1 := Lib.hid (undrewN hb1); have HR1 := Lib.hid hr1; clear hb1 ho1 hr1
      refine hK.out _ _ ?_ ?_
      · exact redrewN HU1.out
      clear hK K
      try simp only [Act.put, List.getElem_toArray, List.getElem_cons_succ, List.getElem_cons_zero, List.setIfInBounds_toArray, List.set_cons_zero, List.set_cons_succ]
      refine reg_take (v := .string (str (runL l1 S0).1)) hR 2 rfl (by kernel_rfl) (by kernel_rfl) (by kernel_rfl) (fun _ _ _ h => h) (by rfl) ?_ ?_
      · intro W hW; have := run_str (HR1.out.below hW); go_simp
      try simp only [Act.put, List.getElem_toArray, List.getElem_cons_succ, List.getElem_cons_zero, List.setIfInBounds_toArray, List.set_cons_zero, List.set_cons_succ]
      -- STEP 4: Op.call { callee := Callee.value (Operand.func 13), args := #[t49], argTypes := #[22] }
      refine reg_step hR 4 (by kernel_rfl) rfl fun K hK => ?_
      try simp only [Act.put, List.getElem_toArray, List.getElem_cons_succ, List.getElem_cons_zero, List.setIfInBounds_toArray, List.set_cons_zero, List.set_cons_succ]
      go_simp
      refine (cached_any (HD.out.old HU1.out)).mono ?_; rintro x u2 ⟨A2', c2', rfl, hn2, hb2⟩
      have HU2 := Lib.hid hb2; have HN2 := Lib.hid hn2; clear hb2 hn2
      refine hK.out _ _ ?_ ?_
      · exact HU2.out
      clear hK K
      try simp only [Act.put, List.getElem_toArray, List.getElem_cons_succ, List.getElem_cons_zero, List.setIfInBounds_toArray, List.set_cons_zero, List.set_cons_succ]
      refine reg_take (v := ?_) hR 5 rfl (by kernel_rfl) (by kernel_rfl) (by kernel_rfl) (fun _ _ _ h => h) (by rfl) ?_ ?_
      rotate_left
      · intro W hW; go_simp; try with_reducible rfl
      try simp only [Act.put, List.getElem_toArray, List.getElem_cons_succ, List.getElem_cons_zero, List.setIfInBounds_toArray, List.set_cons_zero, List.set_cons_succ]
      refine reg_take (v := ?_) hR 6 rfl (by kernel_rfl) (by kernel_rfl) (by kernel_rfl) (fun _ _ _ h => h) (by rfl) ?_ ?_
      rotate_left
      · intro W hW; go_simp; try with_reducible rfl
      try simp only [Act.put, List.getElem_toArray, List.getElem_cons_succ, List.getElem_cons_zero, List.setIfInBounds_toArray, List.set_cons_zero, List.set_cons_succ]
      refine reg_done (by kernel_rfl) ?_ _

      have HB := Lib.hid (bl_call (bl_call HB.out HU1.out) HU2.out)
      have HD := Lib.hid (HD.out.old (bl_call HU1.out HU2.out))
      have HNZ := Lib.hid HN2.out.nz
      clear HN2 HR1 hR
      go_wp2_with fail
      refine (clone_any HD.out).mono ?_
      rintro e w5 ⟨p', s', m', rfl, hd', hh', hb⟩
      have hs5 := HB.out.size
      have HP : Hid ((p < u2.heap.size ∧ s < u2.heap.size ∧ m < u2.heap.size) ∧ u2.heap.size ≤ p' ∧ u2.heap.size ≤ s' ∧ u2.heap.size ≤ m') := Lib.hid ⟨⟨HD.out.plt, HD.out.slt, HD.out.mlt⟩, hh'⟩
      have HHE : Hid (Hi w.heap.size p' s' m') := Lib.hid (by unfold Hi; omega)
      have HE := Lib.hid hd'
      have HOT : Hid (Dk w5 p s m (runL l1 S0).1 (runL l1 S0).2 ∧ Nz w5 u2.heap.size A2' (idx 0 (runL l1 S0).2).length c2' (idx 0 (runL l1 S0).2) ∧ u2.heap.size ≤ w5.heap.size) := Lib.hid ⟨HD.out.old hb, HNZ.out.below hb, hb.size⟩
      have HB := Lib.hid (bl_call HB.out hb)
      clear hd' hh' hb hs5 HNZ HU1 HU2
      go_wp2_with fail
      go_loopw [13] (fun v wr => ∃ i : Nat, i ≤ n2 ∧ v = .int .i64 (i : Int) ∧ Hid (Dk wr p' s' m' (runL (l2.take i) (runL l1 S0)).1 (runL (l2.take i) (runL l1 S0)).2) ∧ Hid (Below w.heap.size w wr) ∧ Hid (Dk wr p s m (runL l1 S0).1 (runL l1 S0).2 ∧ Nz wr u2.heap.size A2' (idx 0 (runL l1 S0).2).length c2' (idx 0 (runL l1 S0).2) ∧ u2.heap.size ≤ wr.heap.size)) (fun v _ => n2 - (RowKit.intOf v).toNat)
      case atStart => exact ⟨0, by omega, rfl, Lib.hid HE.out, HB, Lib.hid HOT.out⟩
      case round =>
        clear HB HOT
        obtain ⟨i, hi, rfl, HX, HB, HOT⟩ := hrel
        by_cases hlt : i < n2
        · obtain ⟨ad, x, rfl, hx, hm, ho, e0, e1, e2, e3, e4⟩ := (HA2.out.below HB.out).at_ hlt
          have HS := Lib.hid (runL_step l2 (runL l1 S0) hx)
          have hdo := do_any (S := runL (l2.take i) (runL l1 S0)) HX.out x.a.kind x.a.at_ x.a.b x.a.long x.K x.kc x.a.keep ho HB.out.size (HF2.out.2 x hm)
          have HDo := Lib.hid hdo
          clear hx hm ho hdo
          go_wp2_with fail
          refine HDo.out.mono ?_
          rintro e w2 ⟨rfl, hd, hk⟩
          have HX2 : Hid (Dk w2 p' s' m' (runL (l2.take (i + 1)) (runL l1 S0)).1 (runL (l2.take (i + 1)) (runL l1 S0)).2) := Lib.hid (by rw [HS.out]; exact hd)
          have HB2 := Lib.hid (HB.out.trans (hk.below HB.out.size (fun q hq => by have := HHE.out; unfold Hi at this; omega)))
          have HOT2 : Hid (Dk w2 p s m (runL l1 S0).1 (runL l1 S0).2 ∧ Nz w2 u2.heap.size A2' (idx 0 (runL l1 S0).2).length c2' (idx 0 (runL l1 S0).2) ∧ u2.heap.size ≤ w2.heap.size) := Lib.hid (⟨HOT.out.1.kp hk (by have := HP.out; omega) (by have := HP.out; omega) (by have := HP.out; omega), HOT.out.2.1.below (hk.below HOT.out.2.2 (fun q hq => by have := HP.out; omega)), Nat.le_trans HOT.out.2.2 hk.size⟩)
          clear hd hk
          go_wp2
          go_roundw
          case rel => exact ⟨i + 1, by omega, by go_num, HX2, HB2, HOT2⟩
          case measure => simp [RowKit.intOf]; omega
        · obtain rfl : n2 = i := by omega
          rw [List.take_of_length_le (show l2.length ≤ n2 by have := HA2.out.1; omega)] at HX
          have HE := HX
          have HIL0 : Hid ((idx 0 (runL l1 S0).2).length ≤ 16384) := Lib.hid (by have := idx_len (runL l1 S0).2 0; rw [runL_len] at this; have := HL0.out; omega)
          clear hlt
          go_wp2_with fail
          refine (image_any HOT.out.1).mono ?_
          rintro e w6 ⟨v6, rfl, ho6, hb6⟩
          obtain ⟨A6, c6, rfl, hr6⟩ := ho6.rd
          have hst := run_str hr6
          have HB6 := Lib.hid hb6
          clear ho6 hr6 hb6
          go_wp2_with fail
          clear hst
          refine (cached_any (HOT.out.1.old HB6.out)).mono ?_
          rintro e w7 ⟨A7, c7, rfl, hn7, hb7⟩
          have HB7 := Lib.hid (bl_call HB6.out hb7)
          have HN7 := Lib.hid hn7
          clear hn7 hb7
          go_wp2_with fail
          refine (ints_eq HN7.out ((HOT.out.2.1.below (HB7.out.mono HOT.out.2.2)).ni (Nat.le_trans HOT.out.2.2 HB7.out.size)) HIL0.out).mono ?_
          rintro e w8 ⟨rfl, hb8⟩
          have HB8 := Lib.hid (bl_call HB7.out hb8)
          have HD := Lib.hid (HOT.out.1.old HB8.out)
          have HOT := Lib.hid (HE.out.old HB8.out)
          have HB := Lib.hid (bl_call HB.out HB8.out)
          clear hb8 HB7 HN7 HB6 HB8
          go_wp2_with fail
          go_loopw [14] (fun v wr => ∃ i : Nat, i ≤ n2 ∧ v = .int .i64 (i : Int) ∧ Hid (Dk wr p s m (runL (l2.take i) (runL l1 S0)).1 (runL (l2.take i) (runL l1 S0)).2) ∧ Hid (Below w.heap.size w wr) ∧ Hid (Dk wr p' s' m' (runL l2 (runL l1 S0)).1 (runL l2 (runL l1 S0)).2)) (fun v _ => n2 - (RowKit.intOf v).toNat)
          case atStart => exact ⟨0, by omega, rfl, Lib.hid HD.out, HB, Lib.hid HOT.out⟩
          case round =>
            clear HB HOT
            obtain ⟨i, hi, rfl, HX, HB, HOT⟩ := hrel
            by_cases hlt : i < n2
            · obtain ⟨ad, x, rfl, hx, hm, ho, e0, e1, e2, e3, e4⟩ := (HA2.out.below HB.out).at_ hlt
              have HS := Lib.hid (runL_step l2 (runL l1 S0) hx)
              have hdo := do_any (S := runL (l2.take i) (runL l1 S0)) HX.out x.a.kind x.a.at_ x.a.b x.a.long x.K x.kc x.a.keep ho HB.out.size (HF2.out.2 x hm)
              have HDo := Lib.hid hdo
              clear hx hm ho hdo
              go_wp2_with fail
              refine HDo.out.mono ?_
              rintro e w2 ⟨rfl, hd, hk⟩
              have HX2 : Hid (Dk w2 p s m (runL (l2.take (i + 1)) (runL l1 S0)).1 (runL (l2.take (i + 1)) (runL l1 S0)).2) := Lib.hid (by rw [HS.out]; exact hd)
              have HB2 := Lib.hid (HB.out.trans (hk.below HB.out.size (fun q hq => by have := HH.out; unfold Hi at this; omega)))
              have HOT2 : Hid (Dk w2 p' s' m' (runL l2 (runL l1 S0)).1 (runL l2 (runL l1 S0)).2) := Lib.hid (HOT.out.kp hk (by have := HP.out; omega) (by have := HP.out; omega) (by have := HP.out; omega))
              clear hd hk
              go_wp2
              go_roundw
              case rel => exact ⟨i + 1, by omega, by go_num, HX2, HB2, HOT2⟩
              case measure => simp [RowKit.intOf]; omega
            · obtain rfl : n2 = i := by omega
              rw [List.take_of_length_le (show l2.length ≤ n2 by have := HA2.out.1; omega)] at HX
              have HD := HX
              have HE := Lib.hid HOT.out
              have HIL : Hid ((idx 0 (runL l2 (runL l1 S0)).2).length ≤ 16384) := Lib.hid (by have := idx_len (runL l2 (runL l1 S0)).2 0; rw [runL_len, runL_len] at this; have := HL0.out; omega)
              have hln : (runL l2 (runL l1 S0)).2.length = (runL l2 (runL l1 S0)).2.length := rfl
              clear hlt
              go_wp2_with fail
              have hR := Old.stays
              refine reg_start Old follows_mixed ?_
            -- region 24 of f7: 22 operations, draws: true
              refine reg_take (v := ?_) hR 0 rfl (by kernel_rfl) (by kernel_rfl) (by kernel_rfl) (fun _ _ _ h => h) (by rfl) ?_ ?_
              rotate_left
              · intro W hW; go_simp; try with_reducible rfl
              try simp only [Act.put, List.getElem_toArray, List.getElem_cons_succ, List.getElem_cons_zero, List.setIfInBounds_toArray, List.set_cons_zero, List.set_cons_succ]
              refine reg_take (v := ?_) hR 3 rfl (by kernel_rfl) (by kernel_rfl) (by kernel_rfl) (fun _ _ _ h => h) (by rfl) ?_ ?_
              rotate_left
              · intro W hW; go_simp; try with_reducible rfl
              try simp only [Act.put, List.getElem_toArray, List.getElem_cons_succ, List.getElem_cons_zero, List.setIfInBounds_toArray, List.set_cons_zero, List.set_cons_succ]
              -- STEP 1: Op.call { callee := Callee.value (Operand.func 29), args := #[t89], argTypes := #[22] }
              refine reg_step hR 1 (by kernel_rfl) rfl fun K hK => ?_
              try simp only [Act.put, List.getElem_toArray, List.getElem_cons_succ, List.getElem_cons_zero, List.setIfInBounds_toArray, List.set_cons_zero, List.set_cons_succ]
              go_simp
              refine (image_any HD.out.drew).mono ?_; rintro x u1 ⟨v1, rfl, ho1, hb1⟩
              obtain ⟨A1', c1', rfl, hr1⟩ := ho1.rd
              have HU1 := Lib.hid (undrewN hb1); have HR1 := Lib.hid hr1; clear hb1 ho1 hr1
              refine hK.out _ _ ?_ ?_
              · exact redrewN HU1.out
              clear hK K
              try simp only [Act.put, List.getElem_toArray, List.getElem_cons_succ, List.getElem_cons_zero, List.setIfInBounds_toArray, List.set_cons_zero, List.set_cons_succ]
              refine reg_take (v := .string (str (runL l2 (runL l1 S0)).1)) hR 2 rfl (by kernel_rfl) (by kernel_rfl) (by kernel_rfl) (fun _ _ _ h => h) (by rfl) ?_ ?_
              · intro W hW; have := run_str (HR1.out.below hW); go_simp
              try simp only [Act.put, List.getElem_toArray, List.getElem_cons_succ, List.getElem_cons_zero, List.setIfInBounds_toArray, List.set_cons_zero, List.set_cons_succ]
              -- STEP 4: Op.call { callee := Callee.value (Operand.func 29), args := #[t92], argTypes := #[22] }
              refine reg_step hR 4 (by kernel_rfl) rfl fun K hK => ?_
              try simp only [Act.put, List.getElem_toArray, List.getElem_cons_succ, List.getElem_cons_zero, List.setIfInBounds_toArray, List.set_cons_zero, List.set_cons_succ]
              go_simp
              refine (image_any (HE.out.old HU1.out)).mono ?_; rintro x u2 ⟨v2, rfl, ho2, hb2⟩
              obtain ⟨A2', c2', rfl, hr2⟩ := ho2.rd
              have HU2 := Lib.hid hb2; have HR2 := Lib.hid hr2; clear hb2 ho2 hr2
              refine hK.out _ _ ?_ ?_
              · exact HU2.out
              clear hK K
              try simp only [Act.put, List.getElem_toArray, List.getElem_cons_succ, List.getElem_cons_zero, List.setIfInBounds_toArray, List.set_cons_zero, List.set_cons_succ]
              refine reg_take (v := .string (str (runL l2 (runL l1 S0)).1)) hR 5 rfl (by kernel_rfl) (by kernel_rfl) (by kernel_rfl) (fun _ _ _ h => h) (by rfl) ?_ ?_
              · intro W hW; have := run_str (HR2.out.below hW); go_simp
              try simp only [Act.put, List.getElem_toArray, List.getElem_cons_succ, List.getElem_cons_zero, List.setIfInBounds_toArray, List.set_cons_zero, List.set_cons_succ]
              refine reg_take (v := .bool true) hR 6 rfl (by kernel_rfl) (by kernel_rfl) (by kernel_rfl) (fun _ _ _ h => h) (by rfl) ?_ ?_
              · intro W hW; go_simp
              try simp only [Act.put, List.getElem_toArray, List.getElem_cons_succ, List.getElem_cons_zero, List.setIfInBounds_toArray, List.set_cons_zero, List.set_cons_succ]
              refine reg_take (v := ?_) hR 7 rfl (by kernel_rfl) (by kernel_rfl) (by kernel_rfl) (fun _ _ _ h => h) (by rfl) ?_ ?_
              rotate_left
              · intro W hW; go_simp; try with_reducible rfl
              try simp only [Act.put, List.getElem_toArray, List.getElem_cons_succ, List.getElem_cons_zero, List.setIfInBounds_toArray, List.set_cons_zero, List.set_cons_succ]
              refine reg_take (v := ?_) hR 8 rfl (by kernel_rfl) (by kernel_rfl) (by kernel_rfl) (fun _ _ _ h => h) (by rfl) ?_ ?_
              rotate_left
              · intro W hW; go_simp; try with_reducible rfl
              try simp only [Act.put, List.getElem_toArray, List.getElem_cons_succ, List.getElem_cons_zero, List.setIfInBounds_toArray, List.set_cons_zero, List.set_cons_succ]
              refine reg_take (v := ?_) hR 10 rfl (by kernel_rfl) (by kernel_rfl) (by kernel_rfl) (fun _ _ _ h => h) (by rfl) ?_ ?_
              rotate_left
              · intro W hW; go_simp; try with_reducible rfl
              try simp only [Act.put, List.getElem_toArray, List.getElem_cons_succ, List.getElem_cons_zero, List.setIfInBounds_toArray, List.set_cons_zero, List.set_cons_succ]
              -- STEP 9: Op.call { callee := Callee.value (Operand.func 13), args := #[t97], argTypes := #[22] }
              refine reg_step hR 9 (by kernel_rfl) rfl fun K hK => ?_
              try simp only [Act.put, List.getElem_toArray, List.getElem_cons_succ, List.getElem_cons_zero, List.setIfInBounds_toArray, List.set_cons_zero, List.set_cons_succ]
              go_simp
              refine (cached_any (HD.out.old (bl_call HU1.out HU2.out))).mono ?_; rintro x u3 ⟨A3', c3', rfl, hn3, hb3⟩
              have HU3 := Lib.hid hb3; have HN3 := Lib.hid hn3; clear hb3 hn3
              refine hK.out _ _ ?_ ?_
              · exact HU3.out
              clear hK K
              try simp only [Act.put, List.getElem_toArray, List.getElem_cons_succ, List.getElem_cons_zero, List.setIfInBounds_toArray, List.set_cons_zero, List.set_cons_succ]
              -- STEP 11: Op.call { callee := Callee.value (Operand.func 13), args := #[t99], argTypes := #[22] }
              refine reg_step hR 11 (by kernel_rfl) rfl fun K hK => ?_
              try simp only [Act.put, List.getElem_toArray, List.getElem_cons_succ, List.getElem_cons_zero, List.setIfInBounds_toArray, List.set_cons_zero, List.set_cons_succ]
              go_simp
              refine (cached_any (HE.out.old (bl_call (bl_call HU1.out HU2.out) HU3.out))).mono ?_; rintro x u4 ⟨A4', c4', rfl, hn4, hb4⟩
              have HU4 := Lib.hid hb4; have HN4 := Lib.hid hn4; clear hb4 hn4
              refine hK.out _ _ ?_ ?_
              · exact HU4.out
              clear hK K
              try simp only [Act.put, List.getElem_toArray, List.getElem_cons_succ, List.getElem_cons_zero, List.setIfInBounds_toArray, List.set_cons_zero, List.set_cons_succ]
              -- STEP 12: Op.call { callee := Callee.value (Operand.func 27), args := #[t98, t100], argTypes := #[32, 32] }
              refine reg_step hR 12 (by kernel_rfl) rfl fun K hK => ?_
              try simp only [Act.put, List.getElem_toArray, List.getElem_cons_succ, List.getElem_cons_zero, List.setIfInBounds_toArray, List.set_cons_zero, List.set_cons_succ]
              go_simp
              refine (ints_eq (HN3.out.bel HU4.out) HN4.out HIL.out).mono ?_; rintro x u5 ⟨rfl, hb5⟩
              have HU5 := Lib.hid hb5; clear hb5
              refine hK.out _ _ ?_ ?_
              · exact HU5.out
              clear hK K
              try simp only [Act.put, List.getElem_toArray, List.getElem_cons_succ, List.getElem_cons_zero, List.setIfInBounds_toArray, List.set_cons_zero, List.set_cons_succ]
              refine reg_take (v := ?_) hR 13 rfl (by kernel_rfl) (by kernel_rfl) (by kernel_rfl) (fun _ _ _ h => h) (by rfl) ?_ ?_
              rotate_left
              · intro W hW; go_simp; try with_reducible rfl
              try simp only [Act.put, List.getElem_toArray, List.getElem_cons_succ, List.getElem_cons_zero, List.setIfInBounds_toArray, List.set_cons_zero, List.set_cons_succ]
              refine reg_take (v := ?_) hR 14 rfl (by kernel_rfl) (by kernel_rfl) (by kernel_rfl) (fun _ _ _ h => h) (by rfl) ?_ ?_
              rotate_left
              · intro W hW; go_simp; try with_reducible rfl
              try simp only [Act.put, List.getElem_toArray, List.getElem_cons_succ, List.getElem_cons_zero, List.setIfInBounds_toArray, List.set_cons_zero, List.set_cons_succ]
              refine reg_take (v := ?_) hR 15 rfl (by kernel_rfl) (by kernel_rfl) (by kernel_rfl) (fun _ _ _ h => h) (by rfl) ?_ ?_
              rotate_left
              · intro W hW; go_simp; try with_reducible rfl
              try simp only [Act.put, List.getElem_toArray, List.getElem_cons_succ, List.getElem_cons_zero, List.setIfInBounds_toArray, List.set_cons_zero, List.set_cons_succ]
              refine reg_take (v := ?_) hR 17 rfl (by kernel_rfl) (by kernel_rfl) (by kernel_rfl) (fun _ _ _ h => h) (by rfl) ?_ ?_
              rotate_left
              · intro W hW; go_simp; try with_reducible rfl
              try simp only [Act.put, List.getElem_toArray, List.getElem_cons_succ, List.getElem_cons_zero, List.setIfInBounds_toArray, List.set_cons_zero, List.set_cons_succ]
              -- STEP 16: Op.call { callee := Callee.value (Operand.func 15), args := #[t104], argTypes := #[22] }
              refine reg_step hR 16 (by kernel_rfl) rfl fun K hK => ?_
              try simp only [Act.put, List.getElem_toArray, List.getElem_cons_succ, List.getElem_cons_zero, List.setIfInBounds_toArray, List.set_cons_zero, List.set_cons_succ]
              go_simp
              refine (size_any (HD.out.old (bl_call (bl_call (bl_call (bl_call HU1.out HU2.out) HU3.out) HU4.out) HU5.out))).mono ?_; rintro x u6 ⟨rfl, rfl⟩
              refine hK.out _ _ ?_ ?_
              · exact hR.refl _
              clear hK K
              try simp only [Act.put, List.getElem_toArray, List.getElem_cons_succ, List.getElem_cons_zero, List.setIfInBounds_toArray, List.set_cons_zero, List.set_cons_succ]
              -- STEP 18: Op.call { callee := Callee.value (Operand.func 15), args := #[t106], argTypes := #[22] }
              refine reg_step hR 18 (by kernel_rfl) rfl fun K hK => ?_
              try simp only [Act.put, List.getElem_toArray, List.getElem_cons_succ, List.getElem_cons_zero, List.setIfInBounds_toArray, List.set_cons_zero, List.set_cons_succ]
              go_simp
              refine (size_any (HE.out.old (bl_call (bl_call (bl_call (bl_call HU1.out HU2.out) HU3.out) HU4.out) HU5.out))).mono ?_; rintro x u7 ⟨rfl, rfl⟩
              refine hK.out _ _ ?_ ?_
              · exact hR.refl _
              clear hK K
              try simp only [Act.put, List.getElem_toArray, List.getElem_cons_succ, List.getElem_cons_zero, List.setIfInBounds_toArray, List.set_cons_zero, List.set_cons_succ]
              refine reg_take (v := ?_) hR 19 rfl (by kernel_rfl) (by kernel_rfl) (by kernel_rfl) (fun _ _ _ h => h) (by rfl) ?_ ?_
              rotate_left
              · intro W hW; go_simp; try with_reducible rfl
              try simp only [Act.put, List.getElem_toArray, List.getElem_cons_succ, List.getElem_cons_zero, List.setIfInBounds_toArray, List.set_cons_zero, List.set_cons_succ]
              refine reg_take (v := ?_) hR 20 rfl (by kernel_rfl) (by kernel_rfl) (by kernel_rfl) (fun _ _ _ h => h) (by rfl) ?_ ?_
              rotate_left
              · intro W hW; go_simp; try with_reducible rfl
              try simp only [Act.put, List.getElem_toArray, List.getElem_cons_succ, List.getElem_cons_zero, List.setIfInBounds_toArray, List.set_cons_zero, List.set_cons_succ]
              refine reg_take (v := ?_) hR 21 rfl (by kernel_rfl) (by kernel_rfl) (by kernel_rfl) (fun _ _ _ h => h) (by rfl) ?_ ?_
              rotate_left
              · intro W hW; go_simp; try with_reducible rfl
              try simp only [Act.put, List.getElem_toArray, List.getElem_cons_succ, List.getElem_cons_zero, List.setIfInBounds_toArray, List.set_cons_zero, List.set_cons_succ]
              refine reg_done (by kernel_rfl) ?_ _

              go_wp2
              go_ret
              exact ⟨rfl, bl_call (bl_call (bl_call (bl_call (bl_call HB.out HU1.out) HU2.out) HU3.out) HU4.out) HU5.out⟩

end Go.Proofs.Ytphifbhgocjhcaa
