package text_test

import (
	"math/big"

	"herald/api"
	"herald/huff"
	"herald/text"
)

// The model takes huff's code for granted (huff's own tests hold it against a
// list of the codes), and works the lengths out by itself, by division and with
// whole numbers of any size, so that it shares no step with the package.

// modelLength tells the bytes of a length n behind the upper bits.
func modelLength(upper, n int) string {
	if n < 127 {
		return string([]byte{byte(upper + n)})
	}
	b := []byte{byte(upper + 127)}
	for n -= 127; n >= 128; n /= 128 {
		b = append(b, byte(128+n%128))
	}
	return string(append(b, byte(n)))
}

func modelPlain(s string) string { return modelLength(0, len(s)) + s }

func modelCoded(s string) string {
	c := huff.Encode(s)
	return modelLength(128, len(c)) + c
}

// modelPut is asked of legal arguments alone.
func modelPut(s string, how int) string {
	plain, coded := modelPlain(s), modelCoded(s)
	if how == text.Plain || how == text.Shorter && len(plain) <= len(coded) {
		return plain
	}
	return coded
}

// modelCount tells the length that b begins with, and its number of bytes.
func modelCount(b string) (*big.Int, int, api.Errno) {
	if b == "" {
		return nil, 0, api.ErrShort
	}
	sum := big.NewInt(int64(b[0] % 128))
	if b[0]%128 < 127 {
		return sum, 1, api.OK
	}
	weight := big.NewInt(1)
	for i := 1; i <= 5; i++ {
		if i == len(b) {
			return nil, 0, api.ErrShort
		}
		group := big.NewInt(int64(b[i] % 128))
		sum.Add(sum, group.Mul(group, weight))
		weight.Mul(weight, big.NewInt(128))
		if b[i] < 128 && sum.Cmp(big.NewInt(2147483647)) > 0 {
			return nil, 0, api.ErrInt
		}
		if b[i] < 128 {
			return sum, i + 1, api.OK
		}
	}
	return nil, 0, api.ErrInt
}

func modelTake(b string, most int) (string, int, api.Errno) {
	count, n, e := modelCount(b)
	if e != api.OK {
		return "", 0, e
	}
	rest := b[n:]
	if count.Cmp(big.NewInt(int64(len(rest)))) > 0 {
		return "", 0, api.ErrShort
	}
	s := rest[:count.Int64()]
	n += len(s)
	if b[0] >= 128 {
		if s, e = huff.Decode(s); e != api.OK {
			return "", 0, e
		}
	}
	if most < 0 || most < len(s) {
		return "", 0, api.ErrLong
	}
	return s, n, api.OK
}
