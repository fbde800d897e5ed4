// Package octet is layer 1: numbers and blocks as bytes, and a reader that remembers its first error.
package octet

import (
	"math/bits"

	"headwater/api"
)

// The most bytes that a number and a word have.
const (
	maxNumber = 9
	maxWord   = 8
)

// Reader goes over bytes from the first one on. The zero Reader was made by nobody.
type Reader struct {
	made bool
	rest []byte
	err  api.Errno
}

// Number answers b and the bytes of the number n.
func Number(b []byte, n uint64) []byte {
	return putNumber(room(b, numberSize(n)), n)
}

// Block answers b and the bytes of the block p.
func Block(b, p []byte) []byte {
	n := uint64(len(p))
	return append(putNumber(room(b, numberSize(n)+len(p)), n), p...)
}

// Word answers b and the low bytes of n, so many as size says, the low one first.
func Word(b []byte, n uint64, size int) []byte {
	size = wordSize(size)
	out := room(b, size)
	for i := range size {
		out = append(out, byte(n>>(8*i)))
	}
	return out
}

// Read makes a reader over b, which it keeps.
func Read(b []byte) *Reader {
	return &Reader{made: true, rest: b[:len(b):len(b)]}
}

// Number reads a number.
func (r *Reader) Number() uint64 {
	if r.Err() != api.OK {
		return 0
	}
	start := r.rest
	p := r.take(sizeTold(start))
	n := numberOf(p)
	if numberSize(n) < len(p) {
		r.err, r.rest = api.ErrBad, start
		return 0
	}
	return n
}

// Block reads a block.
func (r *Reader) Block() []byte {
	if r.Err() != api.OK {
		return nil
	}
	start := r.rest
	p := r.take(r.Number())
	if r.err != api.OK {
		// The block's length may have been good: the reader goes back ahead of it.
		r.rest = start
		return nil
	}
	return room(p, 0)
}

// Word reads a word of so many bytes.
func (r *Reader) Word(size int) uint64 {
	n := uint64(0)
	for i, c := range r.take(uint64(wordSize(size))) {
		n |= uint64(c) << (8 * i)
	}
	return n
}

// Take reads n bytes.
func (r *Reader) Take(n int) []byte {
	return room(r.take(uint64(max(n, 0))), 0)
}

// Digest reads a digest.
func (r *Reader) Digest() api.Digest {
	var d api.Digest
	copy(d[:], r.take(uint64(len(d))))
	return d
}

// End answers the first error, or ErrBad if bytes are left.
func (r *Reader) End() api.Errno {
	if err := r.Err(); err != api.OK {
		return err
	}
	if len(r.rest) > 0 {
		return api.ErrBad
	}
	return api.OK
}

// Err answers the first error.
func (r *Reader) Err() api.Errno {
	if r == nil || !r.made {
		return api.ErrNil
	}
	return r.err
}

// Left answers how many bytes are left.
func (r *Reader) Left() int {
	if r.Err() == api.ErrNil {
		return 0
	}
	return len(r.rest)
}

// take steps over n bytes and answers them, all or none. They are the reader's memory yet: who hands them out copies them.
func (r *Reader) take(n uint64) []byte {
	if r.Err() != api.OK {
		return nil
	}
	if n > uint64(len(r.rest)) {
		r.err = api.ErrMore
		return nil
	}
	p := r.rest[:n]
	r.rest = r.rest[n:]
	return p
}

// room copies b to new memory, so that what is appended never stands in b's spare room.
func room(b []byte, more int) []byte {
	return append(make([]byte, 0, len(b)+more), b...)
}

func putNumber(b []byte, n uint64) []byte {
	size := numberSize(n)
	first := lead(size)
	for i := size - 1; i >= 0; i-- {
		b = append(b, first|byte(n>>(8*i)))
		first = 0
	}
	return b
}

// numberOf reads the bytes of a whole number; of no bytes it is 0.
func numberOf(p []byte) uint64 {
	n := uint64(0)
	drop := lead(len(p))
	for _, c := range p {
		n = n<<8 | uint64(c&^drop)
		drop = 0
	}
	return n
}

func numberSize(n uint64) int {
	return min(max((bits.Len64(n)+6)/7, 1), maxNumber)
}

// sizeTold answers how many bytes the number ahead has by its first byte; where there is none, one is missing.
func sizeTold(p []byte) uint64 {
	if len(p) == 0 {
		return 1
	}
	return uint64(bits.LeadingZeros8(^p[0]) + 1)
}

// lead answers the ones that a number of so many bytes begins with.
func lead(size int) byte {
	return ^(byte(0xff) >> max(size-1, 0))
}

func wordSize(size int) int {
	return min(max(size, 1), maxWord)
}
