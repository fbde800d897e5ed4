package field

import (
	"math/bits"

	"headwater/api"
)

const (
	wordBits = 51
	wordMask = 1<<wordBits - 1
	// short is how much p is below 2^255.
	short = 19
)

// five is a number as five words of 51 bits, the low word first. The lowest may be a little above 51 bits; all together stay below 2^255 + 2^64.
// All is done in place and written out word by word: arrays handed over by value, and loops over so few, take more than twice the time.
type five [5]uint64

// spread takes a number's words. Word i of 64 bits stands 13 i bits further on than word i of 51 bits.
func (a *five) spread(n *api.Num) {
	low0 := word(n[0:])
	high1, low1 := bits.Mul64(word(n[8:]), 1<<13)
	high2, low2 := bits.Mul64(word(n[16:]), 1<<26)
	high3, low3 := bits.Mul64(word(n[24:]), 1<<39)
	last := above(high3, low3)
	a[0] = low0&wordMask + short*(last>>wordBits)
	a[1] = low0>>wordBits | low1&wordMask
	a[2] = above(high1, low1) | low2&wordMask
	a[3] = above(high2, low2) | low3&wordMask
	a[4] = last & wordMask
}

// join puts the canonical number that the words stand for. Word i of 51 bits stands 51, 38, 25, 12 bits further on than word i - 1 of 64 bits.
func (a *five) join(n *api.Num) {
	a.lower()
	high1, low1 := bits.Mul64(a[1], 1<<51)
	high2, low2 := bits.Mul64(a[2], 1<<38)
	high3, low3 := bits.Mul64(a[3], 1<<25)
	putWord(n[0:], a[0]|low1)
	putWord(n[8:], high1|low2)
	putWord(n[16:], high2|low3)
	putWord(n[24:], high3|a[4]<<12)
}

// lower makes the words those of the canonical number, which is another one just where 19 more go over the highest word.
func (a *five) lower() {
	over := (a[0] + short) >> wordBits
	over = (a[1] + over) >> wordBits
	over = (a[2] + over) >> wordBits
	over = (a[3] + over) >> wordBits
	over = (a[4] + over) >> wordBits
	a[0] += short * over
	a.carry()
}

// carry makes all words 51 bits, and answers what goes over the highest one.
func (a *five) carry() uint64 {
	a[1] += a[0] >> wordBits
	a[2] += a[1] >> wordBits
	a[3] += a[2] >> wordBits
	a[4] += a[3] >> wordBits
	over := a[4] >> wordBits
	a[0] &= wordMask
	a[1] &= wordMask
	a[2] &= wordMask
	a[3] &= wordMask
	a[4] &= wordMask
	return over
}

func (a *five) add(b *five) {
	a[0] += b[0]
	a[1] += b[1]
	a[2] += b[2]
	a[3] += b[3]
	a[4] += b[4]
	a[0] += short * a.carry()
}

// sub adds twice p ahead of taking away, so that no word goes below 0.
func (a *five) sub(b *five) {
	a[0] += 2*(wordMask+1-short) - b[0]
	a[1] += 2*wordMask - b[1]
	a[2] += 2*wordMask - b[2]
	a[3] += 2*wordMask - b[3]
	a[4] += 2*wordMask - b[4]
	a[0] += short * a.carry()
}

// mul adds the products of words that come to stand at one word. One that would stand at the sixth or further on is 19 times as much five words ahead.
func (a *five) mul(b *five) {
	a1, a2, a3, a4 := short*a[1], short*a[2], short*a[3], short*a[4]
	r0 := wide{}.and(a[0], b[0]).and(a1, b[4]).and(a2, b[3]).and(a3, b[2]).and(a4, b[1])
	r1 := wide{}.and(a[0], b[1]).and(a[1], b[0]).and(a2, b[4]).and(a3, b[3]).and(a4, b[2])
	r2 := wide{}.and(a[0], b[2]).and(a[1], b[1]).and(a[2], b[0]).and(a3, b[4]).and(a4, b[3])
	r3 := wide{}.and(a[0], b[3]).and(a[1], b[2]).and(a[2], b[1]).and(a[3], b[0]).and(a4, b[4])
	r4 := wide{}.and(a[0], b[4]).and(a[1], b[3]).and(a[2], b[2]).and(a[3], b[1]).and(a[4], b[0])
	a[0] = r0.low&wordMask + short*above(r4.high, r4.low)
	a[1] = r1.low&wordMask + above(r0.high, r0.low)
	a[2] = r2.low&wordMask + above(r1.high, r1.low)
	a[3] = r3.low&wordMask + above(r2.high, r2.low)
	a[4] = r4.low&wordMask + above(r3.high, r3.low)
	a[0] += short * a.carry()
}

// wide is a number of two words of 64 bits.
type wide struct {
	high, low uint64
}

// and answers w and the product of a and b.
func (w wide) and(a, b uint64) wide {
	high, low := bits.Mul64(a, b)
	low, over := bits.Add64(w.low, low, 0)
	return wide{w.high + high + over, low}
}

// above answers what stands above the lowest 51 bits.
func above(high, low uint64) uint64 { return high<<(64-wordBits) | low>>wordBits }

// word reads a word of 64 bits, the low byte first.
func word(b []byte) uint64 {
	return uint64(b[0]) | uint64(b[1])<<8 | uint64(b[2])<<16 | uint64(b[3])<<24 |
		uint64(b[4])<<32 | uint64(b[5])<<40 | uint64(b[6])<<48 | uint64(b[7])<<56
}

func putWord(b []byte, n uint64) {
	b[0], b[1], b[2], b[3] = byte(n), byte(n>>8), byte(n>>16), byte(n>>24)
	b[4], b[5], b[6], b[7] = byte(n>>32), byte(n>>40), byte(n>>48), byte(n>>56)
}
