package pint_test

import (
	"fmt"
	"strconv"
	"strings"

	"herald/api"
)

// The model does what the chapter's words say on texts of noughts and ones, as
// slowly as it likes, so that it shares no shift and no mask with the package.

const greatest = 2147483647

// bitsOf tells a byte's eight bits.
func bitsOf(c byte) string { return fmt.Sprintf("%08b", c) }

// numberOf tells what a text of noughts and ones says; none of them says 0.
func numberOf(bits string) int64 {
	v, err := strconv.ParseInt("0"+bits, 2, 64)
	if err != nil {
		panic(err)
	}
	return v
}

// modelPut is asked of legal arguments alone.
func modelPut(prefix, first int, v int64) string {
	upper := bitsOf(byte(first))[:8-prefix]
	full := numberOf(strings.Repeat("1", prefix))
	if v < full {
		return string([]byte{byte(numberOf(upper + fmt.Sprintf("%0*b", prefix, v)))})
	}
	out := []byte{byte(numberOf(upper + strings.Repeat("1", prefix)))}
	rest := strconv.FormatInt(v-full, 2)
	for len(rest) > 7 {
		out = append(out, byte(numberOf("1"+rest[len(rest)-7:])))
		rest = rest[:len(rest)-7]
	}
	return string(append(out, byte(numberOf(rest))))
}

// modelTake is asked of legal prefixes alone.
func modelTake(prefix int, b string) (int64, int, api.Errno) {
	if len(b) == 0 {
		return 0, 0, api.ErrShort
	}
	low := bitsOf(b[0])[8-prefix:]
	if strings.Contains(low, "0") {
		return numberOf(low), 1, api.OK
	}
	groups := ""
	for i := 1; i <= 5; i++ {
		if len(b) <= i {
			return 0, 0, api.ErrShort
		}
		c := bitsOf(b[i])
		groups = c[1:] + groups
		if c[0] == '0' {
			v := numberOf(low) + numberOf(groups)
			if v > greatest {
				return 0, 0, api.ErrInt
			}
			return v, i + 1, api.OK
		}
	}
	return 0, 0, api.ErrInt
}
