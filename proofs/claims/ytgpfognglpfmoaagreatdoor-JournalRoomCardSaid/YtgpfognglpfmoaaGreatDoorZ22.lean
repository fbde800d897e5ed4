/- Texts of this claim, one behind the other: JRh, JCo, JLk, JPl, JSt. -/
import Derived.Test.YtgpfognglpfmoaaGreatDoorZ21
set_option linter.unusedSimpArgs false
set_option linter.unusedVariables false
section
/- A journal: readHead, counting. -/
namespace Go.Proofs.YtgpfognglpfmoaaGreatDoor
set_option maxRecDepth 8192
set_option linter.unusedSimpArgs false
set_option linter.unusedVariables false
open Go.RowKit

/-- The epoch and the area of a head's bytes. -/
def rdE (b : List UInt8) : Nat := leNat (b.take 8)
def rdA (b : List UInt8) : Nat := leNat ((b.drop 8).take 4)
def rdHead (b : List UInt8) : Nat × Nat := if sectN (rdA b) ≠ 0 ∧ b = headB (rdE b) (rdA b) then (rdE b, rdA b) else (0, 0)
theorem rdE_lt (b : List UInt8) : rdE b ≤ 18446744073709551615 := by
  have h1 := leNat_lt (b.take 8)
  have h2 : (b.take 8).length ≤ 8 := List.length_take_le _ _
  have h3 : 2 ^ (8 * (b.take 8).length) ≤ 2 ^ 64 := Nat.pow_le_pow_right (by omega) (by omega)
  unfold rdE
  have h4 : (2 : Nat) ^ 64 = 18446744073709551616 := by decide
  omega
theorem rdA_lt (b : List UInt8) : rdA b ≤ 4294967295 := by
  have h1 := leNat_lt ((b.drop 8).take 4)
  have h2 : ((b.drop 8).take 4).length ≤ 4 := List.length_take_le _ _
  have h3 : 2 ^ (8 * ((b.drop 8).take 4).length) ≤ 2 ^ 32 := Nat.pow_le_pow_right (by omega) (by omega)
  unfold rdA
  have h4 : (2 : Nat) ^ 32 = 4294967296 := by decide
  omega
theorem tk8 (b : List UInt8) (h : b.length = 256) : tk 8 b 0 = (b.take 8, b.drop 8, 0) := by unfold tk; rw [if_pos rfl, if_pos (by omega)]
theorem tk4 (b : List UInt8) (h : b.length = 256) : tk 4 (b.drop 8) 0 = ((b.drop 8).take 4, (b.drop 8).drop 4, 0) := by unfold tk; rw [if_pos rfl, if_pos (by rw [List.length_drop]; omega)]

set_option maxHeartbeats 1600000 in
theorem readHead_any {A : Option Addr} {c : Nat} {b : List UInt8} (w : World) (hr : Rd w w.heap.size A 256 c b) :
    Calls Tryz.prog 83 #[.slice A 256 c] w fun e w' => e = .returned (.tuple #[.int .u64 ((rdHead b).1 : Int), .int .i64 ((rdHead b).2 : Int)]) ∧ Below w.heap.size w w' := by
  have hlen := hr.len
  have HT8 := Lib.hid (tk8 b hlen)
  have HT4 := Lib.hid (tk4 b hlen)
  have HR := Lib.hid hr
  have hE := rdE_lt b
  have hA := rdA_lt b
  have HEE := Lib.hid (show leNat (b.take 8) = rdE b from rfl)
  have HAA := Lib.hid (show leNat ((b.drop 8).take 4) = rdA b from rfl)
  have HY : Hid (sectN (rdA b) ≠ 0 → b = headB (rdE b) (rdA b) → rdHead b = (rdE b, rdA b)) := Lib.hid fun h1 h2 => by unfold rdHead; rw [if_pos ⟨h1, h2⟩]
  have HN1 : Hid (sectN (rdA b) = 0 → rdHead b = (0, 0)) := Lib.hid fun h1 => by unfold rdHead; rw [if_neg (fun h => h.1 h1)]
  have HN2 : Hid (b ≠ headB (rdE b) (rdA b) → rdHead b = (0, 0)) := Lib.hid fun h1 => by unfold rdHead; rw [if_neg (fun h => h1 h.2)]
  have HLEN := Lib.hid hlen
  clear hr hlen
  generalize hEg : rdE b = E at *
  generalize hAg : rdA b = a at *
  clear hEg hAg
  go_enter Tryz.func83, Tryz.ntmps83
  go_wp2_with fail
  refine (Read_any w HR.out (by omega)).mono ?_; rintro e w1 ⟨g, rfl, hg, hRr, hb1⟩
  have HRr := Lib.hid hRr
  have HB1 := Lib.hid hb1
  clear hRr hb1
  go_wp2_with fail
  refine (RWord_any HRr.out 8 (by rw [HLEN.out]; omega)).mono ?_; rintro e w2 ⟨rfl, hR2, ho2⟩
  rw [show wordLen 8 = 8 from rfl, HT8.out] at hR2 ⊢
  rw [show leNat (b.take 8, b.drop 8, (0 : Int)).1 = E from HEE.out]
  have HR2 := Lib.hid hR2
  have HB2 := Lib.hid (HB1.out.trans (ho2.below hg HB1.out.size))
  clear hR2 ho2 HRr HB1
  go_wp2_with fail
  refine (RWord_any HR2.out 4 (by rw [List.length_drop, HLEN.out]; omega)).mono ?_; rintro e w3 ⟨rfl, hR3, ho3⟩
  rw [show wordLen 4 = 4 from rfl, HT4.out]
  rw [show leNat ((b.drop 8).take 4, (b.drop 8).drop 4, (0 : Int)).1 = a from HAA.out]
  have HB3 := Lib.hid (HB2.out.trans (ho3.below hg HB2.out.size))
  clear hR3 ho3 HR2 HB2 HT8 HT4
  have HSC := Lib.hid (Sectors_any (a : Int) w3)
  have hsn : 0 ≤ sectN (a : Int) := Nat.zero_le _
  have HRd3 := Lib.hid ((HR.out.below HB3.out).more HB3.out.size)
  by_cases hz : sectN (a : Int) = 0
  · have HZ := Lib.hid (HN1.out hz)
    rw [hz] at HSC
    clear hz HN1 HN2 HY hsn
    go_wp2_with (go_at_call 17; refine HSC.out.mono ?_; rintro e w' ⟨rfl, rfl⟩)
    go_ret2
    rw [HZ.out]
    exact ⟨rfl, HB3.out⟩
  · have hz2 : ((sectN (a : Int) : Int) == 0) = false := by rw [beq_eq_false_iff_ne]; omega
    have HHD := Lib.hid (head_any E a hE (by omega) w3)
    have HYY := Lib.hid (HY.out hz)
    clear HN1 HY
    generalize sectN (a : Int) = sn at *
    clear hz hsn
    go_wp2_with (first | (go_at_call 17; refine HSC.out.mono ?_; rintro e w' ⟨rfl, rfl⟩) | (go_at_call 112; refine HHD.out.mono ?_; rintro e w4 ⟨R, rfl, hR, hrow, hb4⟩; refine Hid.out ?_))
    refine Lib.hid ?_
    have HRW := Lib.hid hrow
    have HB4 := Lib.hid (bl_call HB3.out hb4)
    have HRd4 := Lib.hid ((HRd3.out.below hb4).more hb4.size)
    have hrd : Rd w4 w4.heap.size (some ⟨R, 0, none⟩) 256 256 (headB E a) := by
      have := hrow.rd
      rwa [headB_length] at this
    have HRh := Lib.hid hrd
    clear hrow hb4 hrd HSC HHD HRd3 HB3
    by_cases he : b = headB E a
    · have HEQ := Lib.hid (Equal_yes w4 HRd4.out HRh.out he)
      have HZ := Lib.hid (HYY.out he)
      clear he HYY HN2
      go_wp2_with (go_at_call 115; refine HEQ.out.mono ?_; rintro e w' ⟨rfl, rfl⟩)
      go_ret2
      rw [HZ.out]
      exact ⟨rfl, HB4.out⟩
    · have HEQ := Lib.hid (Equal_no w4 HRd4.out HRh.out he)
      have HZ := Lib.hid (HN2.out he)
      clear he HYY HN2
      go_wp2_with (go_at_call 115; refine HEQ.out.mono ?_; rintro e w' ⟨rfl, rfl⟩)
      go_ret2
      rw [HZ.out]
      exact ⟨rfl, HB4.out⟩
end Go.Proofs.YtgpfognglpfmoaaGreatDoor
end
section
/- A journal: counting. -/
namespace Go.Proofs.YtgpfognglpfmoaaGreatDoor
set_option maxRecDepth 8192
set_option linter.unusedSimpArgs false
set_option linter.unusedVariables false
open Go.RowKit

/-- The head that counts, of what a sector has and the one before. -/
def cnt1 (h : Nat × Nat) (i : Nat) (old : Nat × Nat) : Nat × Nat := if 0 < h.2 ∧ h.1 % 2 = i ∧ old.1 ≤ h.1 then h else old
def cnts (B : List UInt8) (C : Ca) : Nat → Nat × Nat
  | 0 => (0, 0)
  | i + 1 => cnt1 (rdHead (look B C i)) i (cnts B C i)

section
variable {w : World} {p s m : Nat} {B : List UInt8} {C : Ca}
set_option maxHeartbeats 3200000 in
theorem counting_any (hd : Dk w p s m B C) (h2 : 2 ≤ C.length) (hh : ∀ i, i < 2 → (rdHead (look B C i)).1 ≤ 9223372036854775807) :
    Calls Tryz.prog 44 #[ptr p] w fun e w' => e = .returned (.tuple #[.int .u64 ((cnts B C 2).1 : Int), .int .i64 ((cnts B C 2).2 : Int)]) ∧ Below w.heap.size w w' := by
  have HD := Lib.hid hd
  have HH := Lib.hid hh
  clear hd hh
  go_enter Tryz.func44, Tryz.ntmps44
  go_wp2
  go_loopw [2, 3, 9] (fun e' a' i' wr => ∃ i : Nat, i ≤ 2 ∧ i' = .int .i64 (i : Int) ∧ e' = .int .u64 ((cnts B C i).1 : Int) ∧ a' = .int .i64 ((cnts B C i).2 : Int) ∧ Hid (Below w.heap.size w wr)) (fun _ _ i' _ => 2 - (RowKit.intOf i').toNat)
  case atStart => exact ⟨0, by omega, rfl, rfl, rfl, Lib.hid (bl0 w)⟩
  case round =>
    obtain ⟨i, hi, rfl, rfl, rfl, HB⟩ := hrel
    by_cases hlt : i < 2
    · have HDr := Lib.hid ((HD.out.old HB.out))
      have HL := Lib.hid (HH.out i hlt)
      have HS := Lib.hid (show cnts B C (i + 1) = cnt1 (rdHead (look B C i)) i (cnts B C i) from rfl)
      have HRD := Lib.hid (read_ok HDr.out i (by omega))
      generalize cnts B C i = old at *
      obtain ⟨oe, oa⟩ := old
      go_wp2_with (go_at_call 82; refine HRD.out.mono ?_; rintro e w1 ⟨rfl, hrd, hb1⟩; refine Hid.out ?_)
      refine Lib.hid ?_
      have HB1 := Lib.hid (bl_call HB.out hb1)
      have HRH := Lib.hid (readHead_any w1 hrd)
      clear hrd hb1 HRD HB
      generalize rdHead (look B C i) = h at *
      obtain ⟨he, ha⟩ := h
      have HQ := Lib.hid (headSector_any he HL.out)
      go_wp2_with (go_at_call 83; refine HRH.out.mono ?_; rintro e w2 ⟨rfl, hb2⟩; refine Hid.out ?_)
      refine Lib.hid ?_
      have HB2 := Lib.hid (bl_call HB1.out hb2)
      clear hb2 HRH HB1
      have HEND : ∀ r : Nat × Nat, cnt1 (he, ha) i (oe, oa) = r → Hid (cnts B C (i + 1) = r) := fun r h => Lib.hid (HS.out.trans h)
      unfold cnt1 at HEND
      simp only at HEND HQ HL
      clear HS
      by_cases h1 : 0 < ha
      · by_cases h2 : he % 2 = i
        · by_cases h3 : oe ≤ he
          · have HZ := HEND _ (if_pos ⟨h1, h2, h3⟩)
            clear HEND
            go_wp2_with (go_at_call 84; refine (HQ.out _).mono ?_; rintro e w3 ⟨rfl, rfl⟩)
            go_roundw
            case rel => exact ⟨i + 1, by omega, by go_num, by rw [HZ.out], by rw [HZ.out], HB2⟩
            case measure => simp [RowKit.intOf]; omega
          · have HZ := HEND _ (if_neg (fun h => h3 h.2.2))
            clear HEND
            go_wp2_with (go_at_call 84; refine (HQ.out _).mono ?_; rintro e w3 ⟨rfl, rfl⟩)
            go_roundw
            case rel => exact ⟨i + 1, by omega, by go_num, by rw [HZ.out], by rw [HZ.out], HB2⟩
            case measure => simp [RowKit.intOf]; omega
        · have HZ := HEND _ (if_neg (fun h => h2 h.2.1))
          clear HEND
          go_wp2_with (go_at_call 84; refine (HQ.out _).mono ?_; rintro e w3 ⟨rfl, rfl⟩)
          go_roundw
          case rel => exact ⟨i + 1, by omega, by go_num, by rw [HZ.out], by rw [HZ.out], HB2⟩
          case measure => simp [RowKit.intOf]; omega
      · have HZ := HEND _ (if_neg (fun h => h1 h.1))
        clear HEND
        go_wp2
        go_roundw
        case rel => exact ⟨i + 1, by omega, by go_num, by rw [HZ.out], by rw [HZ.out], HB2⟩
        case measure => simp [RowKit.intOf]; omega
    · obtain rfl : i = 2 := by omega
      go_wp2
      go_ret2
      exact ⟨rfl, HB.out⟩
end
end Go.Proofs.YtgpfognglpfmoaaGreatDoor
end
section
/- A journal: look. -/
namespace Go.Proofs.YtgpfognglpfmoaaGreatDoor
set_option maxRecDepth 8192
set_option linter.unusedSimpArgs false
set_option linter.unusedVariables false
open Go.RowKit Go.Shelf

/-- The bytes of an area that has just these records. -/
def Has (l : List UInt8) (E : Nat) (rs : List (UInt8 × List UInt8)) : Prop := ∃ t, l = recsB (fstC E) rs ++ t ∧ readErr (endR (fstC E) rs) t ≠ 0

/-- The area's bytes, in a row of their own; the log is what it was. -/
def Looked (w : World) (base L E : Nat) (rs : List (UInt8 × List UInt8)) (v : Value) (N : Nat) (l : List UInt8) (e : Ending) (w' : World) : Prop :=
  ∃ R v', e = .returned (.slice (some ⟨R, 0, none⟩) N N) ∧ w.heap.size ≤ R ∧ Row w' R l ∧ v'.ownBlock ≠ some R ∧ Lg w' base L E rs v' ∧ (v'.ownBlock = v.ownBlock ∨ ∃ k, v'.ownBlock = some k ∧ w.heap.size ≤ k) ∧ Kp (may L v) w w'

/-- What stands behind the records, as a slice. -/
theorem rd_rest {w : World} {R N f : Nat} {D t : List UInt8} (h : Row w R D) (hN : D.length = N) (hf : f ≤ N) (ht : D.drop f = t) : Rd w w.heap.size (restAt (some ⟨R, 0, none⟩) N f) (N - f) (N - f) t := by
  have := h.rd
  rw [hN] at this
  have := this.drop_ hf
  rw [ht] at this
  exact this

section
variable {w : World} {J p s m area L syn E base : Nat} {B : List UInt8} {C : Ca} {v : Value} {rs : List (UInt8 × List UInt8)}
set_option maxHeartbeats 3200000 in
theorem look_j (hj : Bk w J (jc p area L syn)) (hl : Lg w base L E rs v) (hd : Dk w p s m B C) (hE : E ≤ 9223372036854775807) (ha1 : 1 ≤ area) (ha : area ≤ 256) (hs : 2 + E % 2 * area + area ≤ C.length)
    (hh : Has (rdS B C (2 + E % 2 * area) area) E rs) (hb : base ≤ w.heap.size) (hJL : J ≠ L) (hvJ : v.ownBlock ≠ some J) :
    Calls Tryz.prog 47 #[pt0 J] w (Looked w base L E rs v (area * 256) (rdS B C (2 + E % 2 * area) area)) := by
  obtain ⟨lr, hbk⟩ := hl.bk
  have HRE := Lib.hid (read_j hj hbk hd hE ha1 ha hs)
  have hlen := rdS_length hd.hC hd.hB (2 + E % 2 * area) area hs
  obtain ⟨t, ht1, ht⟩ := hh
  generalize rdS B C (2 + E % 2 * area) area = D at *
  have hrl : (recsB (fstC E) rs).length ≤ area * 256 := by rw [← hlen, ht1, List.length_append]; omega
  have htk : D.take (recsB (fstC E) rs).length = recsB (fstC E) rs := by rw [ht1, List.take_left]
  have hdp : D.drop (recsB (fstC E) rs).length = t := by rw [ht1, List.drop_left]
  have HTK := Lib.hid htk
  have HDP := Lib.hid hdp
  have HLEN := Lib.hid hlen
  have HT := Lib.hid ht
  have hrb : (recsB (fstC E) rs).length ≤ 1073741824 := by omega
  have hal : area * 256 ≤ 65536 := by omega
  have HJ := Lib.hid hj
  have HL := Lib.hid hl
  have hJ1 : J < w.heap.size := hj.lt
  have cJ : w.cell? ⟨J, 2, none⟩ = some (pt0 L) := hj.cell rfl
  clear hj hl hd hbk ht1 ht htk hdp hlen
  generalize hN : area * 256 = N at *
  have HN := Lib.hid hN
  clear hN
  go_enter Tryz.func47, Tryz.ntmps47
  go_wp2_with fail
  refine HRE.out.mono ?_
  rintro e w1 ⟨R, rfl, hR, hrow, hbl⟩
  have HR1 := Lib.hid hrow
  have HB1 := Lib.hid hbl
  have HL1 := Lib.hid (HL.out.old hbl)
  have HJ1 := Lib.hid (HJ.out.keep hbl)
  have hrd : Rd w1 w1.heap.size (some ⟨R, 0, none⟩) N N D := by
    have := hrow.rd
    rwa [HLEN.out] at this
  have HRd := Lib.hid hrd
  have cJ1 : w1.cell? ⟨J, 2, none⟩ = some (pt0 L) := (HJ.out.keep hbl).cell rfl
  clear hrow hbl hrd HRE
  go_wp2_with fail
  refine (begins_any HL1.out HRd.out hrl HTK.out).mono ?_
  rintro e w2 ⟨rfl, k, hk⟩
  have HR2 : Hid (Row w2 R D) := Lib.hid (by rw [hk]; exact HR1.out)
  have HB2 : Hid (Below w.heap.size w w2) := Lib.hid (by rw [hk]; exact HB1.out.trans ((bl_drewN w1 k).mono HB1.out.size))
  have HL2 : Hid (Lg w2 base L E rs v) := Lib.hid (by rw [hk]; exact HL1.out.old (bl_drewN w1 k))
  have HJ2 : Hid (Bk w2 J (jc p area L syn)) := Lib.hid (by rw [hk]; exact HJ1.out)
  clear hk HR1 HB1 HL1 HJ1 HRd cJ1
  go_wp2
  have hmJ : ¬ may L v J := by
    rintro (e | e)
    · exact hJL e
    · exact hvJ e
  have hmR : ¬ may L v R := by
    rintro (e | e)
    · have := HL.out.lt
      omega
    · have := HL.out.vlt R e
      omega
  refine region_meetQ (fun a0 a' w' => ∃ v2, a' = puts a0 [(18, pt0 J), (19, pt0 J), (20, .pointer (some ⟨J, 2, none⟩)), (21, pt0 L), (22, .slice (some ⟨R, 0, none⟩) N N), (23, pt0 J), (24, pt0 J), (25, .pointer (some ⟨J, 2, none⟩)), (26, pt0 L), (27, .int .i64 ((recsB (fstC E) rs).length : Int)), (28, .slice (restAt (some ⟨R, 0, none⟩) N (recsB (fstC E) rs).length) (N - (recsB (fstC E) rs).length) (N - (recsB (fstC E) rs).length)), (29, .tuple #[])] ∧ Hid (Lg w' base L E rs v2) ∧ Hid (v2.ownBlock = v.ownBlock ∨ ∃ k, v2.ownBlock = some k ∧ w.heap.size ≤ k) ∧ Hid (Kp (may L v) w w') ∧ Hid (Row w' R D) ∧ Hid (v2.ownBlock ≠ some R)) ?_ ?_
  · have hR := Kp.stays (may L v)
    refine reg_start (Kp (may L v)) follows_mixed ?_
    have HJ := Lib.hid HJ2.out.drew
    have HL : Hid (Lg w2.drew base L E rs v) := Lib.hid (HL2.out.old (Below.refl w2.heap.size w2).drew)
    have HA : Hid (Row w2.drew R D) := HR2
    have HB : Hid (Below w.heap.size w w2.drew) := Lib.hid HB2.out.drew
    clear HJ2 HL2 HR2 HB2
    generalize w2.drew = u0 at HJ HL HA HB ⊢
    refine reg_take (v := pt0 J) hR 0 rfl (by kernel_rfl) (by kernel_rfl) (by kernel_rfl) (fun _ _ _ h => by cases h.1) (by rfl) ?_ ?_
    · intro W hW; go_simp; try with_reducible rfl
    try simp only [Act.put, List.getElem_toArray, List.getElem_cons_succ, List.getElem_cons_zero, List.setIfInBounds_toArray, List.set_cons_zero, List.set_cons_succ]
    refine reg_take (v := pt0 J) hR 1 rfl (by kernel_rfl) (by kernel_rfl) (by kernel_rfl) (fun _ _ _ h => by cases h.1) (by rfl) ?_ ?_
    · intro W hW; go_simp; try with_reducible rfl
    try simp only [Act.put, List.getElem_toArray, List.getElem_cons_succ, List.getElem_cons_zero, List.setIfInBounds_toArray, List.set_cons_zero, List.set_cons_succ]
    refine reg_take (v := .pointer (some ⟨J, 2, none⟩)) hR 2 rfl (by kernel_rfl) (by kernel_rfl) (by kernel_rfl) (fun _ _ _ h => by cases h.1) (by rfl) ?_ ?_
    · intro W hW; go_simp; try with_reducible rfl
    try simp only [Act.put, List.getElem_toArray, List.getElem_cons_succ, List.getElem_cons_zero, List.setIfInBounds_toArray, List.set_cons_zero, List.set_cons_succ]
    refine reg_take (v := pt0 L) hR 3 rfl (by kernel_rfl) (by kernel_rfl) (by kernel_rfl) (fun _ _ _ h => by cases h.1) (by rfl) ?_ ?_
    · intro W hW; exact exec_load_cell 81 _ rfl Tryz.isAgg81 rfl ((HJ.out.kp hW hmJ).cell rfl)
    try simp only [Act.put, List.getElem_toArray, List.getElem_cons_succ, List.getElem_cons_zero, List.setIfInBounds_toArray, List.set_cons_zero, List.set_cons_succ]
    refine reg_take (v := .slice (some ⟨R, 0, none⟩) N N) hR 4 rfl (by kernel_rfl) (by kernel_rfl) (by kernel_rfl) (fun _ _ _ h => by cases h.1) (by rfl) ?_ ?_
    · intro W hW; go_simp; try with_reducible rfl
    try simp only [Act.put, List.getElem_toArray, List.getElem_cons_succ, List.getElem_cons_zero, List.setIfInBounds_toArray, List.set_cons_zero, List.set_cons_succ]
    refine reg_take (v := pt0 J) hR 5 rfl (by kernel_rfl) (by kernel_rfl) (by kernel_rfl) (fun _ _ _ h => by cases h.1) (by rfl) ?_ ?_
    · intro W hW; go_simp; try with_reducible rfl
    try simp only [Act.put, List.getElem_toArray, List.getElem_cons_succ, List.getElem_cons_zero, List.setIfInBounds_toArray, List.set_cons_zero, List.set_cons_succ]
    refine reg_take (v := pt0 J) hR 6 rfl (by kernel_rfl) (by kernel_rfl) (by kernel_rfl) (fun _ _ _ h => by cases h.1) (by rfl) ?_ ?_
    · intro W hW; go_simp; try with_reducible rfl
    try simp only [Act.put, List.getElem_toArray, List.getElem_cons_succ, List.getElem_cons_zero, List.setIfInBounds_toArray, List.set_cons_zero, List.set_cons_succ]
    refine reg_take (v := .pointer (some ⟨J, 2, none⟩)) hR 7 rfl (by kernel_rfl) (by kernel_rfl) (by kernel_rfl) (fun _ _ _ h => by cases h.1) (by rfl) ?_ ?_
    · intro W hW; go_simp; try with_reducible rfl
    try simp only [Act.put, List.getElem_toArray, List.getElem_cons_succ, List.getElem_cons_zero, List.setIfInBounds_toArray, List.set_cons_zero, List.set_cons_succ]
    refine reg_take (v := pt0 L) hR 8 rfl (by kernel_rfl) (by kernel_rfl) (by kernel_rfl) (fun _ _ _ h => by cases h.1) (by rfl) ?_ ?_
    · intro W hW; exact exec_load_cell 81 _ rfl Tryz.isAgg81 rfl ((HJ.out.kp hW hmJ).cell rfl)
    try simp only [Act.put, List.getElem_toArray, List.getElem_cons_succ, List.getElem_cons_zero, List.setIfInBounds_toArray, List.set_cons_zero, List.set_cons_succ]
    refine reg_step hR 9 (by kernel_rfl) rfl fun K hK => ?_
    try simp only [Act.put, List.getElem_toArray, List.getElem_cons_succ, List.getElem_cons_zero, List.setIfInBounds_toArray, List.set_cons_zero, List.set_cons_succ]
    rw [if_pos (by rfl)]
    go_simp
    refine (end_any HL.out hrb).mono ?_; rintro e u1 ⟨rfl, kk, hkk⟩
    have hb : Below u0.heap.size u0 u1 := by rw [hkk]; exact bl_drewN _ _
    clear hkk
    refine hK.out _ _ (show Kp (may L v) _ _ from Kp.of_old hb) ?_
    clear hK K
    have HL1 := Lib.hid (HL.out.old hb)
    have HA1 := Lib.hid (HA.out.of (hb.block _ HA.out.lt))
    have HJ := Lib.hid (HJ.out.keep hb)
    have HB1 := Lib.hid (HB.out.trans (hb.mono HB.out.size))
    clear hb
    try simp only [Act.put, List.getElem_toArray, List.getElem_cons_succ, List.getElem_cons_zero, List.setIfInBounds_toArray, List.set_cons_zero, List.set_cons_succ]
    refine reg_take (v := .slice (restAt (some ⟨R, 0, none⟩) N (recsB (fstC E) rs).length) (N - (recsB (fstC E) rs).length) (N - (recsB (fstC E) rs).length)) hR 10 rfl (by kernel_rfl) (by kernel_rfl) (by kernel_rfl) (fun _ _ _ h => by cases h.1) (by rfl) ?_ ?_
    · intro W hW; exact exec_slice31_lo _ _ rfl rfl rfl hrl rfl
    try simp only [Act.put, List.getElem_toArray, List.getElem_cons_succ, List.getElem_cons_zero, List.setIfInBounds_toArray, List.set_cons_zero, List.set_cons_succ]
    refine reg_step hR 11 (by kernel_rfl) rfl fun K hK => ?_
    try simp only [Act.put, List.getElem_toArray, List.getElem_cons_succ, List.getElem_cons_zero, List.setIfInBounds_toArray, List.set_cons_zero, List.set_cons_succ]
    rw [if_pos (by rfl)]
    go_simp
    refine (find_none HL1.out (rd_rest HA1.out HLEN.out hrl HDP.out) (by omega) HT.out hrb (by have := HB1.out.size; omega)).mono ?_; rintro e u2 ⟨rfl, v2, hl2, hv2, hk2⟩
    refine hK.out _ _ hk2 ?_
    clear hK K
    try simp only [Act.put, List.getElem_toArray, List.getElem_cons_succ, List.getElem_cons_zero, List.setIfInBounds_toArray, List.set_cons_zero, List.set_cons_succ]
    refine reg_done (by kernel_rfl) ?_ _
    refine ⟨rfl, v2, ?_, Lib.hid hl2, Lib.hid (hv2.imp id fun ⟨k, e, h⟩ => ⟨k, e, by have := HB1.out.size; omega⟩), Lib.hid ((Kp.of_old (may := may L v) HB1.out).via hk2 (fun j _ e => e)), Lib.hid (HA1.out.of (hk2.block _ HA1.out.lt hmR)), Lib.hid (fun e => by rcases hv2 with h | ⟨k, h, hk⟩; exact hmR (.inr (h ▸ e)); (rw [h] at e; injection e with e; have := HA1.out.lt; omega))⟩
    simp only [puts, List.foldl_cons, List.foldl_nil, Act.put, List.getElem_toArray, List.getElem_cons_succ, List.getElem_cons_zero, List.setIfInBounds_toArray, List.set_cons_zero, List.set_cons_succ]
  · rintro a' w4 ⟨v2, rfl, HL4, HV4, HK4, HR4, HX4⟩
    simp only [puts, List.foldl_cons, List.foldl_nil, Act.put, List.getElem_toArray, List.getElem_cons_succ, List.getElem_cons_zero, List.setIfInBounds_toArray, List.set_cons_zero, List.set_cons_succ]
    go_wp2
    go_ret
    exact ⟨R, v2, rfl, hR, HR4.out, HX4.out, HL4.out, HV4.out, HK4.out⟩
end
end Go.Proofs.YtgpfognglpfmoaaGreatDoor
end
section
/- A journal in plain words: what sectors are read behind writes, flushes, crashes; noughts are no record. -/
namespace Go.Proofs.YtgpfognglpfmoaaGreatDoor
set_option linter.unusedSimpArgs false
set_option linter.unusedVariables false
set_option maxRecDepth 8192
open Go.RowKit

theorem sect_putS {B x : List UInt8} {i j n : Nat} (hx : x.length = 256) (hB : B.length = 256 * n) (hi : i < n) (hj : j < n) : sect (putS B i x) j = if j = i then x else sect B j := by
  have ht : (B.take (256 * i)).length = 256 * i := by rw [List.length_take]; omega
  by_cases h : j = i
  · subst h
    rw [if_pos rfl, sect, putS, List.append_assoc, List.drop_append, ht, List.drop_eq_nil_of_le (by omega), List.nil_append, Nat.sub_self, List.drop_zero, List.take_append, hx, List.take_of_length_le (by omega), Nat.sub_self, List.take_zero, List.append_nil]
  · rw [if_neg h, sect, sect, putS]
    apply List.ext_getElem?
    intro k
    rw [List.getElem?_take, List.getElem?_take]
    by_cases hk : k < 256
    · rw [if_pos hk, if_pos hk, List.getElem?_drop, List.getElem?_drop, List.getElem?_append, List.getElem?_append]
      by_cases hl : j < i
      · rw [if_pos (by rw [List.length_append, ht, hx]; omega), if_pos (by rw [ht]; omega), List.getElem?_take, if_pos (by omega)]
      · rw [if_neg (by rw [List.length_append, ht, hx]; omega), List.getElem?_drop, List.length_append, ht, hx]
        congr 1
        omega
    · rw [if_neg hk, if_neg hk]
theorem settle_sect {C : Ca} (hC : ∀ x, some x ∈ C → x.length = 256) {n j : Nat} (hj : j < n) : ∀ (l : List Nat) (B : List UInt8), B.length = 256 * n → (∀ i ∈ l, i < n) → sect (settle C l B) j = if j ∈ l then valAt C j else sect B j
  | [], B, _, _ => by simp [settle]
  | i :: r, B, hB, hl => by
    have hi : i < n := hl i List.mem_cons_self
    have hv := valAt_len hC i
    rw [settle, settle_sect hC hj r (putS B i (valAt C i)) (by rw [putS_len hv (by omega), hB]) (fun k hk => hl k (List.mem_cons_of_mem _ hk)), sect_putS hv hB hi hj]
    by_cases h1 : j ∈ r
    · rw [if_pos h1, if_pos (List.mem_cons_of_mem _ h1)]
    · rw [if_neg h1]
      by_cases h2 : j = i
      · subst h2
        rw [if_pos rfl, if_pos List.mem_cons_self]
      · rw [if_neg h2, if_neg (by simp [h1, h2])]
theorem noC_getD (n j : Nat) : (noC n).getD j none = none := by
  rw [noC, List.getD_eq_getElem?_getD, List.getElem?_replicate]
  split <;> rfl
theorem look_noC (B : List UInt8) (n j : Nat) : look B (noC n) j = sect B j := by unfold look; rw [noC_getD]; rfl
/-- Behind a crash: of each sector what was cached, where it was kept, else what it was. -/
theorem look_crash {B : List UInt8} {C : Ca} (hC : ∀ x, some x ∈ C → x.length = 256) (hB : B.length = 256 * C.length) (k : List Bool) {j : Nat} (hj : j < C.length) :
    look (settle C (chosen (idx 0 C) k) B) (noC C.length) j = if j ∈ chosen (idx 0 C) k then valAt C j else sect B j := by
  rw [look_noC, settle_sect hC hj _ B hB (fun i hi => by have := idx_lt C 0 i (chosen_sub _ _ i hi); omega)]
/-- A flush changes nothing that is read. -/
theorem look_flush {B : List UInt8} {C : Ca} (hC : ∀ x, some x ∈ C → x.length = 256) (hB : B.length = 256 * C.length) {j : Nat} (hj : j < C.length) :
    look (settle C (idx 0 C) B) (noC C.length) j = look B C j := by
  rw [look_noC, settle_sect hC hj _ B hB (fun i hi => by have := idx_lt C 0 i hi; omega)]
  have hm := idx_mem C 0 j
  rw [Nat.zero_add] at hm
  unfold look valAt
  cases h : C.getD j none with
  | none => rw [if_neg (fun h' => by obtain ⟨x, e⟩ := hm.1 h'; rw [h] at e; cases e)]; rfl
  | some x => rw [if_pos (hm.2 ⟨x, h⟩)]; rfl
theorem look_set {B x : List UInt8} {C : Ca} {i : Nat} (hi : i < C.length) (j : Nat) : look B (C.set i (some x)) j = if j = i then x else look B C j := by
  unfold look
  rw [List.getD_eq_getElem?_getD, List.getD_eq_getElem?_getD, List.getElem?_set]
  by_cases h : i = j
  · subst h
    rw [if_pos rfl, if_pos hi, if_pos rfl]
    rfl
  · rw [if_neg h, if_neg (fun e => h e.symm)]
theorem set_ok {x : List UInt8} {C : Ca} (hC : ∀ x, some x ∈ C → x.length = 256) (hx : x.length = 256) (i : Nat) : ∀ y, some y ∈ C.set i (some x) → y.length = 256 := by
  intro y hy
  rcases List.mem_or_eq_of_mem_set hy with h | h
  · exact hC y h
  · cases h; exact hx

/-- Sectors of bytes are written, from sector a on. -/
def wr (C : Ca) (a : Nat) (b : List UInt8) : Nat → Ca
  | 0 => C
  | k + 1 => (wr C a b k).set (a + k) (some (sect b k))
theorem wr_length (C : Ca) (a : Nat) (b : List UInt8) : ∀ k, (wr C a b k).length = C.length
  | 0 => rfl
  | k + 1 => by rw [wr, List.length_set, wr_length C a b k]
theorem wr_ok {C : Ca} (hC : ∀ x, some x ∈ C → x.length = 256) (a : Nat) (b : List UInt8) : ∀ k, k * 256 ≤ b.length → ∀ y, some y ∈ wr C a b k → y.length = 256
  | 0, _ => hC
  | k + 1, h => by
    rw [wr]
    exact set_ok (wr_ok hC a b k (by omega)) (sect_len (by omega)) _
theorem look_wr {B : List UInt8} {C : Ca} {a : Nat} {b : List UInt8} (j : Nat) : ∀ k, a + k ≤ C.length → look B (wr C a b k) j = if a ≤ j ∧ j < a + k then sect b (j - a) else look B C j
  | 0, _ => by rw [wr, if_neg (by omega)]
  | k + 1, h => by
    rw [wr, look_set (by rw [wr_length]; omega), look_wr j k (by omega)]
    by_cases h1 : j = a + k
    · rw [if_pos h1, if_pos (by omega)]
      congr 1
      omega
    · rw [if_neg h1]
      by_cases h2 : a ≤ j ∧ j < a + k
      · rw [if_pos h2, if_pos (by omega)]
      · rw [if_neg h2, if_neg (by omega)]

theorem sect_cut (l : List UInt8) (k : Nat) (h : (k + 1) * 256 ≤ l.length) : l.take (k * 256) ++ sect l k = l.take ((k + 1) * 256) := by
  rw [sect, Nat.mul_comm 256 k, ← List.take_add]
  congr 1
  omega
/-- What is read of an area, when each of its sectors is known. -/
theorem rdS_of {B D : List UInt8} {C : Ca} {f a : Nat} (hD : D.length = a * 256) (h : ∀ k, k < a → look B C (f + k) = sect D k) : rdS B C f a = D := by
  have : ∀ k, k ≤ a → rdS B C f k = D.take (k * 256) := by
    intro k
    induction k with
    | zero => intro _; simp [rdS]
    | succ k ih =>
      intro hk
      rw [rdS, ih (by omega), h k (by omega), sect_cut D k (by rw [hD]; exact Nat.mul_le_mul_right _ hk)]
  rw [this a (Nat.le_refl a), List.take_of_length_le (by omega)]
theorem rdS_ext {B B' : List UInt8} {C C' : Ca} {f : Nat} : ∀ a, (∀ k, k < a → look B C (f + k) = look B' C' (f + k)) → rdS B C f a = rdS B' C' f a
  | 0, _ => rfl
  | a + 1, h => by rw [rdS, rdS, rdS_ext a (fun k hk => h k (by omega)), h a (by omega)]
theorem sect_rdS {B : List UInt8} {C : Ca} (hC : ∀ x, some x ∈ C → x.length = 256) (hB : B.length = 256 * C.length) (f k : Nat) : ∀ a, f + a ≤ C.length → k < a → sect (rdS B C f a) k = look B C (f + k)
  | 0, _, hk => absurd hk (by omega)
  | a + 1, h, hk => by
    have hl := rdS_length hC hB f a (by omega)
    have hx : (look B C (f + a)).length = 256 := look_len hC (by omega)
    rw [rdS, sect]
    by_cases h1 : k < a
    · rw [List.drop_append_of_le_length (by omega), List.take_append_of_le_length (by rw [List.length_drop]; omega)]
      exact sect_rdS hC hB f k a (by omega) h1
    · obtain rfl : k = a := by omega
      rw [List.drop_append, hl, List.drop_eq_nil_of_le (by omega), List.nil_append, show 256 * k - k * 256 = 0 by omega, List.drop_zero, List.take_of_length_le (by omega)]

theorem noughts_err (S : List UInt8) (n : Nat) : readErr S (List.replicate n 0) ≠ 0 := by
  cases n with
  | zero => exact read_nil S
  | succ n => simp [readErr, parse, List.replicate_succ]
/-- Records, with noughts behind them: there are just these. -/
theorem Has_pad (E N : Nat) (rs : List (UInt8 × List UInt8)) : Has (pad N (recsB (fstC E) rs)) E rs := ⟨_, rfl, noughts_err _ _⟩
end Go.Proofs.YtgpfognglpfmoaaGreatDoor
end
section
/- A journal: Records, Epoch, Synced. -/
namespace Go.Proofs.YtgpfognglpfmoaaGreatDoor
set_option maxRecDepth 8192
set_option linter.unusedSimpArgs false
set_option linter.unusedVariables false
open Go.RowKit

section
variable {w : World} {J p s m area L syn E : Nat} {B : List UInt8} {C : Ca} {v : Value} {lr n : Int} {ch : List UInt8}
theorem epoch_j (hj : Bk w J (jc p area L syn)) (hl : Bk w L (lg (E : Int) v lr n ch)) : Calls Tryz.prog 16 #[pt0 J] w fun e w' => e = .returned (.int .u64 (E : Int)) ∧ w' = w := by
  have HM := Lib.hid (made_j hj)
  have c2 : w.cell? ⟨J, 2, none⟩ = some (pt0 L) := hj.cell rfl
  have c3 : w.cell? ⟨L, 0, none⟩ = some (.int .u64 (E : Int)) := hl.cell rfl
  clear hj hl
  go_enter Tryz.func16, Tryz.ntmps16
  go_wp2_with (go_at_call 45; refine HM.out.mono ?_; rintro e w' ⟨rfl, rfl⟩)
  go_ret
  exact ⟨rfl, rfl⟩
theorem synced_j (hj : Bk w J (jc p area L syn)) : Calls Tryz.prog 11 #[pt0 J] w fun e w' => e = .returned (.int .i64 (syn : Int)) ∧ w' = w := by
  have HM := Lib.hid (made_j hj)
  have c2 : w.cell? ⟨J, 3, none⟩ = some (.int .i64 (syn : Int)) := hj.cell rfl
  clear hj
  go_enter Tryz.func11, Tryz.ntmps11
  go_wp2_with (go_at_call 45; refine HM.out.mono ?_; rintro e w' ⟨rfl, rfl⟩)
  go_ret
  exact ⟨rfl, rfl⟩

/-- A list of records that a call made. -/
def RsMade (w : World) (rs : List (UInt8 × List UInt8)) (e : Ending) (w' : World) : Prop :=
  ∃ A n c l, e = .returned (.slice A n c) ∧ l.map Rv.r = rs ∧ Rs w' w'.heap.size A n c l ∧ RsNew w.heap.size A l ∧ Below w.heap.size w w'

set_option maxHeartbeats 1600000 in
theorem Records_ex (hj : Bk w J (jc p area L syn)) (hl : Bk w L (lg (E : Int) v lr n ch)) (hd : Dk w p s m B C) (hE : E ≤ 9223372036854775807) (ha1 : 1 ≤ area) (ha : area ≤ 256) (hs : 2 + E % 2 * area + area ≤ C.length) :
    Calls Tryz.prog 14 #[pt0 J] w fun e w' => ∃ rs tail, rdS B C (2 + E % 2 * area) area = recsB (fstC E) rs ++ tail ∧ Vrs rs ∧ readErr (endR (fstC E) rs) tail ≠ 0 ∧ RsMade w rs e w' := by
  have HM := Lib.hid (made_j hj)
  have HF := Lib.hid (First_any (E : Int) w (by omega) (by omega))
  have HRE := Lib.hid (fun (W : World) (hb : Below w.heap.size w W) => read_j (hj.keep hb) (hl.keep hb) (hd.old hb) hE ha1 ha hs)
  have HN := Lib.hid (rdS_length hd.hC hd.hB (2 + E % 2 * area) area hs)
  generalize rdS B C (2 + E % 2 * area) area = D at *
  have hal : area * 256 ≤ 65536 := by omega
  have c2 : w.cell? ⟨J, 2, none⟩ = some (pt0 L) := hj.cell rfl
  have c3 : w.cell? ⟨L, 0, none⟩ = some (.int .u64 (E : Int)) := hl.cell rfl
  rw [show OwordB ((E : Int).toNat) 8 = OwordB E 8 from rfl, show sumS (OwordB E 8) = fstC E from rfl] at HF
  clear hj hl hd
  generalize hK : area * 256 = N at *
  clear hK
  have HS0 := Lib.hid (fstC_length E)
  generalize fstC E = S at *
  go_enter Tryz.func14, Tryz.ntmps14
  go_wp2_with (go_at_call 45; refine HM.out.mono ?_; rintro e w' ⟨rfl, hw⟩; subst w')
  clear HM
  refine HF.out.mono ?_
  rintro e w1 ⟨rfl, hb1⟩
  have HB1 := Lib.hid hb1
  clear hb1 HF
  go_wp2_with fail
  refine (HRE.out _ HB1.out).mono ?_
  rintro e w2 ⟨R, rfl, hR, hrow, hb2⟩
  have HB2 := Lib.hid (HB1.out.trans (hb2.mono HB1.out.size))
  have hrd : Rd w2 w2.heap.size (some ⟨R, 0, none⟩) N N D := by
    have := hrow.rd
    rwa [HN.out] at this
  have HAll := Lib.hid (All_ex w2 HS0.out hrd (by omega))
  clear hrd hrow hb2 hR HRE HB1 HN
  go_wp2_with fail
  refine HAll.out.mono ?_
  rintro e w3 ⟨rs, tail, hD, hv, ht, A1, n1, c1, l1, rfl, hl1, hrs, hnew, hb3⟩
  have hS8 : (cs8 (endR S rs)).length = 32 := by rw [cs8_length, endR_length _ HS0.out]
  have HS8 := Lib.hid hS8
  have HZ := Lib.hid (Bk.new w3 z36 59)
  have HB3 := Lib.hid (HB2.out.trans (hb3.mono HB2.out.size))
  have hb4 : Below w3.heap.size w3 ((w3.alloc (.cells z36.toArray 59)).setRow w3.heap.size (cs8 (endR S rs)).toArray) := bl_setRow (bl_alloc (Below.refl w3.heap.size w3) _) (Nat.le_refl _) _
  have HEND : Hid (RsMade w rs (.returned (.slice A1 n1 c1)) ((w3.alloc (.cells z36.toArray 59)).setRow w3.heap.size (cs8 (endR S rs)).toArray)) := Lib.hid ⟨A1, n1, c1, l1, rfl, hl1, (hrs.below hb4).more hb4.size, ⟨fun ad h => by have := hnew.1 ad h; have := HB2.out.size; omega, fun x hx ad h => by have := hnew.2 x hx ad h; have := HB2.out.size; omega⟩, HB3.out.trans (hb4.mono HB3.out.size)⟩
  have HD := Lib.hid hD
  have HV := Lib.hid hv
  have HT := Lib.hid ht
  clear hb3 hb4 hD hv ht hl1 hrs hnew HAll hS8
  generalize hgS : endR S rs = S2 at *
  have HgS := Lib.hid hgS
  clear hgS
  go_wp2_with (first | (refine wpList_alloc_z rfl 59 rfl z36 zero36 ?_) | (refine wpList_store_bk rfl 59 _ _ rfl w3.heap.size rfl (cs8 S2) z36 rfl HZ.out (by rw [HS8.out]; exact info36) (by rw [HS8.out]; exact len_z36) (cs8_all _) ?_))
  go_ret
  exact ⟨rs, tail, HD.out, HV.out, by rw [HgS.out]; exact HT.out, HEND.out⟩
end
end Go.Proofs.YtgpfognglpfmoaaGreatDoor
end
