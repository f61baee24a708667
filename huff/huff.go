// Package huff is layer 1, the Huffman code of header texts: see shared/doc/01-huff.md.
package huff

import "herald/api"

const (
	symbols = 257 // the bytes and the end
	end     = 256
	longest = 30 // bits of a code
)

// code is a symbol's code: the lower length bits of bits.
type code struct {
	bits   uint32
	length uint8
}

// firsts has the first code of each length. It is worked out at the package's
// start-up, since every bit that is read asks it.
var firsts = firstCodes()

// firstCodes goes one length beyond the longest, so that the next length's
// first code tells where the codes of every length end.
func firstCodes() [longest + 2]uint32 {
	var first [longest + 2]uint32
	for _, n := range lengths() {
		first[n+1]++
	}
	for n := 1; n < len(first); n++ {
		first[n] = (first[n-1] + first[n]) << 1
	}
	return first
}

// lengths is a function, since the language allows no package table of that size.
func lengths() [symbols]uint8 {
	return [symbols]uint8{
		13, 23, 28, 28, 28, 28, 28, 28, 28, 24, 30, 28, 28, 30, 28, 28,
		28, 28, 28, 28, 28, 28, 30, 28, 28, 28, 28, 28, 28, 28, 28, 28,
		6, 10, 10, 12, 13, 6, 8, 11, 10, 10, 8, 11, 8, 6, 6, 6,
		5, 5, 5, 6, 6, 6, 6, 6, 6, 6, 7, 8, 15, 6, 12, 10,
		13, 6, 7, 7, 7, 7, 7, 7, 7, 7, 7, 7, 7, 7, 7, 7,
		7, 7, 7, 7, 7, 7, 7, 7, 8, 7, 8, 13, 19, 13, 14, 6,
		15, 5, 6, 5, 6, 5, 6, 6, 6, 5, 7, 7, 6, 6, 6, 5,
		6, 7, 6, 5, 5, 6, 7, 7, 7, 7, 7, 15, 11, 14, 13, 28,
		20, 22, 20, 20, 22, 22, 22, 23, 22, 23, 23, 23, 23, 23, 24, 23,
		24, 24, 22, 23, 24, 23, 23, 23, 23, 21, 22, 23, 22, 23, 23, 24,
		22, 21, 20, 22, 22, 23, 23, 21, 23, 22, 22, 24, 21, 22, 23, 23,
		21, 21, 22, 21, 23, 22, 23, 23, 20, 22, 22, 22, 23, 22, 22, 23,
		26, 26, 20, 19, 22, 23, 22, 25, 26, 26, 26, 27, 27, 26, 24, 25,
		19, 21, 26, 27, 27, 26, 27, 24, 21, 21, 26, 26, 28, 27, 27, 27,
		20, 24, 20, 21, 22, 21, 21, 23, 22, 22, 25, 25, 24, 24, 26, 23,
		26, 27, 26, 26, 27, 27, 27, 27, 27, 28, 27, 27, 27, 27, 27, 26,
		30,
	}
}

// codes has each symbol's code.
func codes() [symbols]code {
	var all [symbols]code
	var used [longest + 1]uint32
	for symbol, n := range lengths() {
		all[symbol] = code{firsts[n] + used[n], n}
		used[n]++
	}
	return all
}

// isCode tells whether bits are a code of n bits, if no fewer of them are one.
func isCode(bits uint32, n int) bool { return bits < firsts[n+1]>>1 }

// starts tells for each length how many codes are shorter.
func starts() [longest + 1]uint32 {
	var start [longest + 1]uint32
	for n := range longest {
		start[n+1] = start[n] + firsts[n+1]>>1 - firsts[n]
	}
	return start
}

// inOrder has the symbols in the order of their codes.
func inOrder() [symbols]uint16 {
	var order [symbols]uint16
	next := starts()
	for symbol, n := range lengths() {
		order[next[n]] = uint16(symbol)
		next[n]++
	}
	return order
}

// Encode tells the codes of a text's bytes, one behind the other.
func Encode(s string) string {
	all := codes()
	out := make([]byte, 0, Len(s))
	var bits uint64 // its lower waiting bits are not told yet
	waiting := 0
	for i := range len(s) {
		c := all[s[i]]
		bits = bits<<c.length | uint64(c.bits)
		waiting += int(c.length)
		for waiting >= 8 {
			waiting -= 8
			out = append(out, byte(bits>>waiting))
		}
	}
	if waiting > 0 {
		out = append(out, byte(bits<<(8-waiting))|0xff>>waiting)
	}
	return string(out)
}

// Len tells how many bytes Encode's answer has.
func Len(s string) int {
	all := lengths()
	var bits int64
	for i := range len(s) {
		bits += int64(all[s[i]])
	}
	return int((bits + 7) / 8)
}

// Decode tells the text whose codes these are.
func Decode(b string) (string, api.Errno) {
	start, order := starts(), inOrder()
	out := make([]byte, 0, len(b))
	var bits uint32 // behind the last whole code
	n := 0
	for i := range len(b) {
		for shift := 7; shift >= 0; shift-- {
			bits = bits<<1 | uint32(b[i]>>shift&1)
			n++
			if !isCode(bits, n) {
				continue
			}
			symbol := order[start[n]+bits-firsts[n]]
			if symbol == end {
				return "", api.ErrHuff
			}
			out = append(out, byte(symbol))
			bits, n = 0, 0
		}
	}
	if n > 7 || bits != 1<<n-1 {
		return "", api.ErrHuff
	}
	return string(out), api.OK
}
