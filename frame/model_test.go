package frame_test

import (
	"encoding/hex"
	"fmt"
	"slices"
	"strconv"
	"strings"

	"herald/api"
)

// The models write and read digits of base sixteen, two a byte. What a payload
// is made of they have as a text of parts, a letter each:
//
//	n how many bytes of padding   p a priority   l Last   c Code
//	s Params   d Data   e Data of eight bytes   z the padding

const (
	highest31 = 2147483647
	highest32 = 4294967295
	longest   = 65536
)

// flagsOf is the row of the chapter's table.
func flagsOf(kind int) []int {
	rows := [][]int{{1, 8}, {1, 4, 8, 32}, {}, {}, {1}, {4, 8}, {1}, {}, {}, {4}}
	if kind < len(rows) {
		return rows[kind]
	}
	return []int{1, 2, 4, 8, 16, 32, 64, 128}
}

// knownFlags drops those that the type hasn't.
func knownFlags(kind, flags int) int {
	sum := 0
	for _, x := range flagsOf(kind) {
		sum += flags & x
	}
	return sum
}

// streamsOf: those of a stream, of the connection, and of either.
func streamsOf(kind int) string {
	if kind > 9 {
		return "either"
	}
	return strings.Fields("stream stream stream stream connection stream connection connection either stream")[kind]
}

func streamRight(kind int, stream int64) bool {
	return streamsOf(kind) == "either" || (streamsOf(kind) == "connection") == (stream == 0)
}

// partsOf is asked for flags that the type has alone.
func partsOf(kind, flags int) string {
	if kind > 9 {
		return "d"
	}
	parts := strings.Fields("d pd p c s ld e lcd l d")[kind]
	if kind == 1 && flags&32 == 0 {
		parts = "d"
	}
	if kind == 4 && flags&1 == 1 {
		parts = ""
	}
	if slices.Contains(flagsOf(kind), 8) && flags&8 == 8 {
		parts = "n" + parts + "z"
	}
	return parts
}

func inside(n, from, to int64) bool { return from <= n && n <= to }

func paramsRight(list []api.Param) bool {
	for _, p := range list {
		if !inside(int64(p.ID), 0, 65535) || !inside(p.Value, 0, highest32) {
			return false
		}
	}
	return true
}

func modelRight(f api.Frame) bool {
	if !inside(int64(f.Type), 0, 255) || !inside(int64(f.Flags), 0, 255) || knownFlags(f.Type, f.Flags) != f.Flags {
		return false
	}
	if !inside(f.Stream, 0, highest31) || !streamRight(f.Type, f.Stream) {
		return false
	}
	has := func(part string) bool { return strings.Contains(partsOf(f.Type, f.Flags), part) }
	wrong := []bool{
		has("n") && !inside(int64(f.Pad), 0, 255),
		!has("n") && f.Pad != 0,
		has("p") && (!inside(f.Dep, 0, highest31) || !inside(int64(f.Weight), 1, 256)),
		!has("p") && (f.Dep != 0 || f.Excl || f.Weight != 0),
		has("c") && !inside(f.Code, 0, highest32),
		!has("c") && f.Code != 0,
		has("l") && !inside(f.Last, 0, highest31),
		!has("l") && f.Last != 0,
		has("s") && !paramsRight(f.Params),
		!has("s") && len(f.Params) > 0,
		has("e") && len(f.Data) != 8,
		!has("e") && !has("d") && f.Data != "",
	}
	return !slices.Contains(wrong, true)
}

// bytesOf reads digits of base sixteen, with or without gaps.
func bytesOf(digits string) string {
	b, err := hex.DecodeString(strings.ReplaceAll(digits, " ", ""))
	if err != nil {
		panic(err)
	}
	return string(b)
}

func digitsOfPart(part rune, f api.Frame) string {
	switch part {
	case 'n':
		return fmt.Sprintf("%02x", f.Pad)
	case 'p':
		excl := int64(0)
		if f.Excl {
			excl = 2147483648
		}
		return fmt.Sprintf("%08x%02x", f.Dep+excl, f.Weight-1)
	case 'l':
		return fmt.Sprintf("%08x", f.Last)
	case 'c':
		return fmt.Sprintf("%08x", f.Code)
	case 's':
		var all strings.Builder
		for _, p := range f.Params {
			fmt.Fprintf(&all, "%04x%08x", p.ID, p.Value)
		}
		return all.String()
	case 'z':
		return strings.Repeat("00", f.Pad)
	}
	return fmt.Sprintf("%x", f.Data)
}

func modelWrite(f api.Frame) (string, api.Errno) {
	if !modelRight(f) {
		return "", api.ErrFrame
	}
	payload := ""
	for _, part := range partsOf(f.Type, f.Flags) {
		payload += digitsOfPart(part, f)
	}
	if len(payload) > 2*longest {
		return "", api.ErrLong
	}
	return bytesOf(fmt.Sprintf("%06x%02x%02x%08x", len(payload)/2, f.Type, f.Flags, f.Stream) + payload), api.OK
}

// numberAt is that of so many bytes.
func numberAt(b string, at, size int) int64 {
	n, err := strconv.ParseInt(fmt.Sprintf("%x", b[at:at+size]), 16, 64)
	if err != nil {
		panic(err)
	}
	return n
}

// aheadOf is how many bytes stand ahead of Data.
func aheadOf(parts string) int {
	return strings.Count(parts, "n") + 5*strings.Count(parts, "p") + 4*strings.Count(parts, "l") + 4*strings.Count(parts, "c")
}

func lengthRight(parts string, length int) bool {
	switch {
	case strings.Contains(parts, "s"):
		return length/6*6 == length
	case strings.Contains(parts, "e"):
		return length == 8
	case strings.Contains(parts, "d"):
		return length >= aheadOf(parts)
	}
	return length == aheadOf(parts)
}

func modelRead(b string, most int64) (api.Frame, int, api.Fault) {
	none, ofConnection := api.Frame{}, func(code int64) api.Fault { return api.Fault{Code: code} }
	if len(b) < 9 {
		return none, 0, api.Fault{}
	}
	length, kind, stream := int(numberAt(b, 0, 3)), int(b[3]), numberAt(b, 5, 4)%2147483648
	flags := knownFlags(kind, int(b[4]))
	parts := partsOf(kind, flags)
	if int64(length) > sorted3(16384, most, 65536) {
		return none, 0, ofConnection(6)
	}
	if len(b) < 9+length {
		return none, 0, api.Fault{}
	}
	if !streamRight(kind, stream) {
		return none, 0, ofConnection(1)
	}
	if !lengthRight(parts, length) && kind == 2 {
		return none, 9 + length, api.Fault{Code: 6, Stream: stream}
	}
	if !lengthRight(parts, length) {
		return none, 0, ofConnection(6)
	}
	payload := b[9 : 9+length]
	if strings.Contains(parts, "n") && int(payload[0]) > length-aheadOf(parts) {
		return none, 0, ofConnection(1)
	}
	f := api.Frame{Type: kind, Flags: flags, Stream: stream}
	for _, part := range parts {
		payload = payload[modelTake(&f, part, payload):]
	}
	return f, 9 + length, api.Fault{}
}

// sorted3 is the one in the middle.
func sorted3(a, b, c int64) int64 {
	list := []int64{a, b, c}
	slices.Sort(list)
	return list[1]
}

// modelTake lays one part into f and tells how many bytes it has.
func modelTake(f *api.Frame, part rune, b string) int {
	switch part {
	case 'n':
		f.Pad = int(b[0])
		return 1
	case 'p':
		f.Dep, f.Excl, f.Weight = numberAt(b, 0, 4)%2147483648, b[0] >= 128, int(b[4])+1
		return 5
	case 'l':
		f.Last = numberAt(b, 0, 4) % 2147483648
		return 4
	case 'c':
		f.Code = numberAt(b, 0, 4)
		return 4
	case 's':
		for i := 0; i < len(b); i += 6 {
			f.Params = append(f.Params, api.Param{ID: int(numberAt(b, i, 2)), Value: numberAt(b, i+2, 4)})
		}
		return len(b)
	case 'z':
		return f.Pad
	}
	f.Data = b[:len(b)-f.Pad]
	return len(f.Data)
}
