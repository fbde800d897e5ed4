/- Texts of this claim, one behind the other: JOp, JCc. -/
import Derived.Test.YtgpfognglpfmoaaGreatDoorZ26
import Derived.Test.YtgpfognglpfmoaaGreatDoorZ21
import Derived.Lib.AppendZeros
set_option linter.unusedSimpArgs false
set_option linter.unusedVariables false
section
/- A journal: Open. -/
namespace Go.Proofs.YtgpfognglpfmoaaGreatDoor
set_option maxRecDepth 8192
set_option linter.unusedSimpArgs false
set_option linter.unusedVariables false
open Go.RowKit

theorem recsB_len_any (C C' : List UInt8) (rs : List (UInt8 × List UInt8)) : (recsB C rs).length = (recsB C' rs).length := by
  induction rs generalizing C C' with
  | nil => rfl
  | cons r t ih => simp only [recsB, List.length_append, recB_length]; rw [ih]

section
variable {w : World} {p s m area E : Nat} {B : List UInt8} {C : Ca}
set_option maxHeartbeats 800000 in
theorem Open_bad (hd : Dk w p s m B C) (h2 : 2 ≤ C.length) (hh : ∀ i, i < 2 → (rdHead (look B C i)).1 ≤ 9223372036854775807) (hc : (cnts B C 2).2 = 0) :
    Calls Tryz.prog 9 #[ptr p] w fun e w' => e = .returned (.tuple #[.pointer none, .int .i64 4]) ∧ Below w.heap.size w w' := by
  have HSZ := Lib.hid (size_any hd)
  have HCO := Lib.hid (counting_any hd h2 hh)
  rw [hc] at HCO
  have h0 := hd.h0
  clear hd hh hc
  generalize (cnts B C 2).1 = e0 at *
  generalize C.length = cl at *
  have hz1 : ((cl : Int) == 0) = false := by rw [beq_eq_false_iff_ne]; omega
  go_enter Tryz.func9, Tryz.ntmps9
  go_wp2_with (go_at_call 40; refine HSZ.out.mono ?_; rintro e w' ⟨rfl, hw⟩; subst w')
  refine HCO.out.mono ?_
  rintro e w1 ⟨rfl, hb⟩
  have HB := Lib.hid hb
  clear hb HCO
  go_wp2
  go_ret2
  exact ⟨rfl, HB.out⟩
set_option maxHeartbeats 3200000 in
theorem Open_v (hd : Dk w p s m B C) (hh : ∀ i, i < 2 → (rdHead (look B C i)).1 ≤ 9223372036854775807) (hc : cnts B C 2 = (E, area)) (hE : E ≤ 4294967294) (h1 : 1 ≤ area) (h2 : area ≤ 256) (hs : 2 + 2 * area ≤ C.length) :
    Calls Tryz.prog 9 #[ptr p] w fun e w' => ∃ J L v rs tail, e = .returned (.tuple #[pt0 J, .int .i64 0]) ∧ rdS B C (2 + E % 2 * area) area = recsB (fstC E) rs ++ tail ∧ Vrs rs ∧ readErr (endR (fstC E) rs) tail ≠ 0 ∧
      Jd w' J p s m L v area (E + 1) rs rs.length (begB B C (E + 1) area rs) (noC C.length) ∧ w.heap.size ≤ J ∧ w.heap.size ≤ L ∧ (∀ k, v.ownBlock = some k → w.heap.size ≤ k) ∧ Kp (fun k => k = s ∨ k = m) w w' := by
  have HSZ := Lib.hid (size_any hd)
  have HCO := Lib.hid (counting_any hd (by omega) hh)
  rw [hc] at HCO
  have HSE := Lib.hid (fun (W : World) => Sectors_any (area : Int) W)
  have hsn := sectN_ok (a := (area : Int)) (by omega) (by omega)
  have hC16 := hd.h1
  obtain ⟨n0, hn0⟩ : ∃ n0, n0 = sectN (area : Int) := ⟨_, rfl⟩
  rw [← hn0] at HSE hsn
  have hn1 : 1 ≤ n0 := by omega
  have hnl : n0 ≤ C.length := by omega
  have HD := Lib.hid hd
  have HCL := Lib.hid hs
  have HFS : Hid (2 + E % 2 * area + area ≤ C.length) := Lib.hid (by have h2 : E % 2 * area ≤ 1 * area := Nat.mul_le_mul_right _ (by omega); omega)
  have HLT := Lib.hid (show p < w.heap.size ∧ s < w.heap.size ∧ m < w.heap.size from ⟨hd.plt, hd.slt, hd.mlt⟩)
  clear hd hn0 hsn hs hc hh
  obtain ⟨cl, hcl⟩ : ∃ cl, cl = C.length := ⟨_, rfl⟩
  have HCC := Lib.hid hcl
  rw [← hcl] at HSZ hnl hC16
  clear hcl
  have hz1 : ((cl : Int) == 0) = false := by rw [beq_eq_false_iff_ne]; omega
  have hz2 : ((area : Int) == 0) = false := by rw [beq_eq_false_iff_ne]; omega
  have hz3 : ¬ ((cl : Int) < (n0 : Int)) := by omega
  go_enter Tryz.func9, Tryz.ntmps9
  go_wp2_with (go_at_call 40; refine HSZ.out.mono ?_; rintro e w' ⟨rfl, hw⟩; subst w')
  refine HCO.out.mono ?_
  rintro e w1 ⟨rfl, hb1⟩
  have HB1 := Lib.hid hb1
  have HD1 := Lib.hid (HD.out.old hb1)
  have HSZ1 := Lib.hid (size_any (HD.out.old hb1))
  rw [← HCC.out] at HSZ1
  clear hb1 HCO HSZ
  simp only
  go_wp2_with (first | (go_at_call 40; refine HSZ1.out.mono ?_; rintro e w' ⟨rfl, hw⟩; subst w') | (go_at_call 17; refine (HSE.out _).mono ?_; rintro e w' ⟨rfl, hw⟩; subst w'))
  refine (newLog_any E (by omega) w1).mono ?_
  rintro e w2 ⟨L0, rfl, hL0, hlg0, hb2⟩
  obtain ⟨lr, hbk0⟩ := hlg0.bk
  have hw1 := HB1.out.size
  have hw2 := hb2.size
  have hb3 := bl_alloc (bl0 w2) (.cells #[ptr p, .int .i64 (area : Int), pt0 L0, .int .i64 0] 83)
  have hs3 : (w2.alloc (.cells #[ptr p, .int .i64 (area : Int), pt0 L0, .int .i64 0] 83)).heap.size = w2.heap.size + 1 := by simp
  have HL3 := Lib.hid (hbk0.keep hb3)
  have HJ3 := Lib.hid (show Bk (w2.alloc (.cells #[ptr p, .int .i64 (area : Int), pt0 L0, .int .i64 0] 83)) w2.heap.size (jc p area L0 0) from Bk.new w2 [ptr p, .int .i64 (area : Int), pt0 L0, .int .i64 0] 83)
  have HD3 := Lib.hid ((HD1.out.old hb2).old hb3)
  have HB3 := Lib.hid (bl_call (bl_call HB1.out hb2) hb3)
  have HS3 := Lib.hid hs3
  have hJw : w.heap.size ≤ w2.heap.size := by omega
  clear hlg0 hbk0 hb2 hb3 HD1 HSZ1 hL0
  go_wp2_with fail
  generalize w2.alloc (.cells #[ptr p, .int .i64 (area : Int), pt0 L0, .int .i64 0] 83) = w3 at *
  refine (Records_ex HJ3.out HL3.out HD3.out (by omega) h1 h2 HFS.out).mono ?_
  rintro e w4 ⟨rs, tail, hrd, hvs, hre, A, n, c, l, rfl, hl, hrs, hnew, hb4⟩
  have HRD := Lib.hid hrd
  have HVS := Lib.hid hvs
  have HRE := Lib.hid hre
  have HLR := Lib.hid hl
  have hB4 := bl_call HB3.out hb4
  have HB4 := Lib.hid hB4
  have hrl : (recsB (fstC E) rs).length ≤ area * 256 := by
    have h := congrArg List.length hrd
    rw [rdS_length HD.out.hC HD.out.hB _ _ HFS.out, List.length_append] at h
    omega
  have hn : n ≤ 1048576 := by
    have h3 := recs_len2 (fstC E) rs
    rw [← hl, List.length_map, hrs.1] at h3
    rw [hl] at h3
    omega
  have HSW := Lib.hid (Switch_v (HJ3.out.keep hb4) (HL3.out.keep hb4) (HD3.out.old hb4) hrs hn (by rw [hl]; exact hvs) hE h1 h2 HCL.out (by rw [hl, recsB_len_any _ (fstC E)]; exact hrl) (by have := HLT.out; omega))
  have HNL : Hid (n = rs.length) := Lib.hid (by rw [← hl, List.length_map, hrs.1])
  rw [hl] at HSW
  have h4s := hb4.size
  have HRL := Lib.hid hrl
  clear hrd hvs hre hl hB4 hrs hnew hb4 hrl
  go_wp2_with fail
  refine HSW.out.mono ?_
  rintro e w5 ⟨L, v, rfl, hj5, hl5, hd5, hL5, hv5, hk5⟩
  have HJ5 := Lib.hid hj5
  have HL5 := Lib.hid hl5
  have HD5 := Lib.hid hd5
  have HK5 := Lib.hid hk5
  have HV5 := Lib.hid hv5
  clear hj5 hl5 hd5 hk5 HSW hv5
  go_wp2
  go_ret2
  have hlt := HLT.out
  have hwb := HB4.out.size
  have hs3 := HS3.out
  refine ⟨w2.heap.size, L, v, rs, tail, rfl, HRD.out, HVS.out, HRE.out, ?_, hJw, by omega, fun k e => by have := HV5.out k e; omega, ?_⟩
  · refine jd_beg HD.out.hC HD.out.hB (by have := HJ5.out; rw [HNL.out] at this; exact this) HL5.out HD5.out (by omega) h1 h2 HCL.out (by rw [recsB_len_any _ (fstC E)]; exact HRL.out) HVS.out ⟨by omega, by omega, by omega⟩ (fun k hk => ⟨by omega, fun e => by have := HV5.out k e; omega⟩)
  · exact (Kp.of_old HB4.out).via HK5.out (fun j hj e => by rcases e with e | e; omega; exact e)
end
end Go.Proofs.YtgpfognglpfmoaaGreatDoor
end
section
/- slices.Grow of nothing, slices.Concat of rows of bytes. -/
namespace Go.Proofs.YtgpfognglpfmoaaGreatDoor
set_option maxRecDepth 8192
set_option linter.unusedSimpArgs false
set_option linter.unusedVariables false
open Go.RowKit

theorem zcells (n : Nat) : (Builtin.zeroCells (Value.int .u8 0).cells n).toList = cs8 (List.replicate n 0) := by
  apply List.ext_getElem?
  intro j
  simp only [Builtin.zeroCells, Value.cells, cs8, Array.toList_map, List.map_replicate, Array.toList_range]
  by_cases hj : j < n
  · simp [hj, B8, Nat.mod_one]
  · simp [hj]

set_option maxHeartbeats 1600000 in
theorem Grow_nil (k : Nat) (w : World) (h1 : 1 ≤ k) (hk : k ≤ 1073741824) :
    Calls Tryz.prog 94 #[.slice none 0 0, .int .i64 (k : Int)] w fun e w' => ∃ cap, e = .returned (.slice (some ⟨w.heap.size, 0, none⟩) 0 cap) ∧ Ow w' w.heap.size (.slice (some ⟨w.heap.size, 0, none⟩) 0 cap) [] ∧ Below w.heap.size w w' := by
  obtain ⟨i, hi, hz0, hz1, hz2⟩ := info_parts info_u8
  have z25 : ∀ w, (Go.sizeOf 5).run Tryz.prog w = .ok 1 w := fun w => by simp [Go.sizeOf, typeInfo, hi, hz1]
  have hw1 : IntKind.i64.wrap (k : Int) = k := by rw [IntKind.wrap_i64]; omega
  have hrz : ∀ ty, (Builtin.append_ #[31, 3] ty #[.slice none 0 0, .int .i64 (k : Int)]).run Tryz.prog w = _ := fun ty => Lib.run_append_nil_zeros (P := Tryz.prog) w 31 3 ty 5 i (.int .u8 0) .i64 .i64 Tryz.underlying31 Tryz.underlying3 hi hz0 k h1 (by omega) (by omega) (by rw [hz2]; omega)
  have hge := grownCap_ge w k 0 5
  have hcm : grownCap w k 0 5 ≤ maxLen := grownCap_le_maxLen w k 0 5 (by simp only [maxLen]; omega)
  have hG63 : grownCap w k 0 5 ≤ 9223372036854775807 := by simpa [maxLen] using hcm
  generalize hG : grownCap w k 0 5 = G at *
  have hneg : ¬ ((k : Int) < 0) := by omega
  have hpos : (k : Int) > 0 := by omega
  have HEND : Hid (Ow (w.drew.alloc (.cells (Builtin.zeroCells (Value.int .u8 0).cells k ++ Builtin.zeroCells (Value.int .u8 0).cells (G - k)) 5)) w.heap.size (.slice (some ⟨w.heap.size, 0, none⟩) 0 G) []) := Lib.hid (by
    refine ⟨rfl, .inr ⟨w.heap.size, _, _, rfl, Nat.le_refl _, heap_alloc_new w.drew _, Nat.zero_le _, hcm, ?_, ?_⟩⟩
    · rw [← Array.length_toList, Array.toList_append, zcells, zcells, List.length_append, cs8_length, cs8_length, List.length_replicate, List.length_replicate]
      omega
    · simp [cs8])
  have HB : Hid (Below w.heap.size w (w.drew.alloc (.cells (Builtin.zeroCells (Value.int .u8 0).cells k ++ Builtin.zeroCells (Value.int .u8 0).cells (G - k)) 5))) := Lib.hid ((Below.refl w.heap.size w).drew.alloc (Nat.le_refl _) _)
  clear hG hge hcm
  go_enter Tryz.func94, Tryz.ntmps94
  go_wp2_with (at_builtin; refine Lib.wpList_append_run _ rfl _ _ _ _ rfl _ _ rfl rfl _ _ (hrz _) ?_)
  all_goals (go_ret; exact ⟨_, rfl, HEND.out, HB.out⟩)
set_option maxHeartbeats 1600000 in
theorem Concat_any {B : Option Addr} {m c : Nat} {L : List (List UInt8)} (w : World) (hL : Rl w w.heap.size B m L) (hm : m ≤ 1073741824) (hT : L.flatten.length ≤ 1073741824) (h1 : 1 ≤ L.flatten.length) :
    Calls Tryz.prog 53 #[.slice B m c] w fun e w' => ∃ v, e = .returned v ∧ Ow w' w.heap.size v L.flatten ∧ Below w.heap.size w w' := by
  have HL := Lib.hid hL
  clear hL
  go_enter Tryz.func53, Tryz.ntmps53
  go_wp2
  go_loopw [3, 11] (fun v3 v11 wr => ∃ (t z : Nat), t ≤ m ∧ v11 = .int .i64 (t : Int) ∧ v3 = .int .i64 (z : Int) ∧ z ≤ 1073741824 ∧ Hid (z = (L.take t).flatten.length) ∧ Hid (Below w.heap.size w wr)) (fun _ v11 _ => m - (intOf v11).toNat)
  case atStart => exact ⟨0, 0, by omega, rfl, rfl, by omega, Lib.hid rfl, Lib.hid (bl0 w)⟩
  case round =>
    obtain ⟨t, z, ht, rfl, rfl, hz, HZ, HB⟩ := hrel
    by_cases hlt : t < m
    · obtain ⟨ad, A, n, c', rfl, hadl, hcell, hrd, hAl⟩ := (HL.out.below HB.out).2 t (L[t]'(by rw [HL.out.1]; exact hlt)) (List.getElem?_eq_getElem _)
      have hfl := take_flat L t (by rw [HL.out.1]; exact hlt)
      have hxl := hrd.len
      have hle : (L.take (t + 1)).flatten.length ≤ 1073741824 := Nat.le_trans (flat_le L (t + 1)) hT
      have hsum : (L.take (t + 1)).flatten.length = z + n := by rw [hfl, List.length_append, hxl, HZ.out]
      have HSUM := Lib.hid hsum
      rw [hsum] at hle
      clear hsum hxl hfl hrd hAl
      go_wp2
      go_roundw
      case rel => exact ⟨t + 1, z + n, by omega, by go_num, by go_num, by omega, Lib.hid HSUM.out.symm, HB⟩
      case measure => simp [intOf]; omega
    · obtain rfl : t = m := by omega
      have hfl : (L.take t).flatten = L.flatten := by rw [List.take_of_length_le (by rw [HL.out.1]; exact Nat.le_refl _)]
      rw [hfl] at HZ
      have HT := Lib.hid hT
      have hz1 : 1 ≤ z := by rw [HZ.out]; exact h1
      have HG := Lib.hid (Grow_nil z wr hz1 hz)
      clear hT h1 hfl
      go_wp2_with fail
      refine HG.out.mono ?_
      rintro e w2 ⟨cap, rfl, ho, hb⟩
      have HO := Lib.hid ho
      have HW := Lib.hid (HB.out.trans (hb.mono HB.out.size))
      have HSZ := Lib.hid HB.out.size
      clear ho hb HG HB
      generalize hq : wr.heap.size = q at *
      go_wp2
      go_loopw [6, 27] (fun v6 v27 wx => ∃ (k : Nat), k ≤ t ∧ v27 = .int .i64 (k : Int) ∧ Hid (Ow wx w.heap.size v6 (L.take k).flatten) ∧ Hid (Below w.heap.size w wx)) (fun _ v27 _ => t - (intOf v27).toNat)
      case atStart => exact ⟨0, by omega, rfl, Lib.hid (HO.out.lower HSZ.out), HW⟩
      case round =>
        clear HO HW
        obtain ⟨k, hk, rfl, HO, HB⟩ := hrel
        by_cases hkt : k < t
        · obtain ⟨ad, A, n, c', rfl, hadl, hcell, hrd, hAl⟩ := (HL.out.below HB.out).2 k (L[k]'(by rw [HL.out.1]; exact hkt)) (List.getElem?_eq_getElem _)
          have HFL := Lib.hid (take_flat L k (by rw [HL.out.1]; exact hkt))
          have hle : (L.take k).flatten.length + n ≤ 1073741824 := by
            have h2 := Nat.le_trans (flat_le L (k + 1)) HT.out
            rw [HFL.out, List.length_append, hrd.len] at h2
            exact h2
          have hHL := HL.out.1
          generalize L[k]'(by rw [hHL]; exact hkt) = x at hrd HFL
          have HRD := Lib.hid hrd
          have hbs := HB.out.size
          clear hrd hAl hHL
          go_wp2_with (at_builtin; refine wpList_app (xs := (L.take k).flatten) (base := w.heap.size) rfl _ _ rfl rfl HO.out rfl HRD.out (by omega) hbs ?_; intro v7 w7 ho7 hg7 hv7; refine Hid.out ?_)
          refine Lib.hid ?_
          have HB7 : Hid (Below w.heap.size w w7) := Lib.hid (HB.out.trans ⟨hg7.os, hg7.tape, hg7.output, hg7.size, fun i hi => hg7.block i (by omega) (fun e => by have := (World.ownsRow.lt HO.out i e.symm).1; omega)⟩)
          rw [← HFL.out] at ho7
          have HO7 := Lib.hid ho7
          clear ho7 hg7 hv7 HO HB HRD hcell
          go_wp2
          go_roundw
          case rel => exact ⟨k + 1, by omega, by go_num, HO7, HB7⟩
          case measure => simp [intOf]; omega
        · obtain rfl : k = t := by omega
          have hfl : (L.take k).flatten = L.flatten := by rw [List.take_of_length_le (by rw [HL.out.1]; exact Nat.le_refl _)]
          rw [hfl] at HO
          go_wp2
          go_ret
          exact ⟨_, rfl, HO.out, HB.out⟩
end Go.Proofs.YtgpfognglpfmoaaGreatDoor
end
