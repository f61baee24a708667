package frame_test

import (
	"math"
	"slices"
	"strings"
	"testing"

	"herald/api"
	"herald/frame"
)

// TestWriteRows has each type's bytes by hand.
func TestWriteRows(t *testing.T) {
	for _, x := range []struct {
		f      api.Frame
		digits string
	}{
		{api.Frame{Stream: 1}, "000000 00 00 00000001"},
		{api.Frame{Flags: 9, Stream: 2147483647, Pad: 1}, "000002 00 09 7fffffff 01 00"},
		{api.Frame{Type: 1, Flags: 5, Stream: 1, Data: "abc"}, "000003 01 05 00000001 616263"},
		{api.Frame{Type: 1, Flags: 45, Stream: 1, Data: "a", Pad: 3, Dep: 2147483647, Weight: 256}, "00000a 01 2d 00000001 03 7fffffff ff 61 000000"},
		{api.Frame{Type: 2, Stream: 5, Dep: 5, Weight: 1}, "000005 02 00 00000005 00000005 00"},
		{api.Frame{Type: 2, Stream: 5, Excl: true, Weight: 256}, "000005 02 00 00000005 80000000 ff"},
		{api.Frame{Type: 3, Stream: 2, Code: 4294967295}, "000004 03 00 00000002 ffffffff"},
		{api.Frame{Type: 4}, "000000 04 00 00000000"},
		{api.Frame{Type: 4, Params: []api.Param{{ID: 65535, Value: 4294967295}, {}, {ID: 258, Value: 16909060}}}, "000012 04 00 00000000 ffff ffffffff 0000 00000000 0102 01020304"},
		{api.Frame{Type: 5, Flags: 12, Stream: 1, Last: 2, Data: "b", Pad: 1}, "000007 05 0c 00000001 01 00000002 62 00"},
		{api.Frame{Type: 6, Data: "12345678"}, "000008 06 00 00000000 3132333435363738"},
		{api.Frame{Type: 6, Flags: 1, Data: "12345678"}, "000008 06 01 00000000 3132333435363738"},
		{api.Frame{Type: 7}, "000008 07 00 00000000 00000000 00000000"},
		{api.Frame{Type: 7, Last: 2147483647, Code: 11, Data: "no"}, "00000a 07 00 00000000 7fffffff 0000000b 6e6f"},
		{api.Frame{Type: 8}, "000004 08 00 00000000 00000000"},
		{api.Frame{Type: 8, Stream: 3, Last: 16909060}, "000004 08 00 00000003 01020304"},
		{api.Frame{Type: 9, Stream: 3, Data: "x"}, "000001 09 00 00000003 78"},
		{api.Frame{Type: 9, Flags: 4, Stream: 3}, "000000 09 04 00000003"},
		{api.Frame{Type: 10, Flags: 8, Data: "abc"}, "000003 0a 08 00000000 616263"},
		{api.Frame{Type: 255, Flags: 255, Stream: 16909060}, "000000 ff ff 01020304"},
	} {
		wantBytes(t, x.f, bytesOf(x.digits))
		wantFrame(t, bytesOf(x.digits)+"\xff", 0, x.f, len(bytesOf(x.digits)))
	}
}

// The numbers of a frame: how one is laid in, its ends, and the parts of the
// types that have it.
var numbers = []struct {
	name     string
	lay      func(f *api.Frame, n int64)
	from, to int64
	part     string
}{
	{"Pad", func(f *api.Frame, n int64) { f.Pad = int(n) }, 0, 255, "n"},
	{"Dep", func(f *api.Frame, n int64) { f.Dep = n }, 0, 2147483647, "p"},
	{"Weight", func(f *api.Frame, n int64) { f.Weight = int(n) }, 1, 256, "p"},
	{"Code", func(f *api.Frame, n int64) { f.Code = n }, 0, 4294967295, "c"},
	{"Last", func(f *api.Frame, n int64) { f.Last = n }, 0, 2147483647, "l"},
	{"ID", func(f *api.Frame, n int64) { f.Params = []api.Param{{ID: 9}, {ID: int(n)}} }, 0, 65535, "s"},
	{"Value", func(f *api.Frame, n int64) { f.Params = []api.Param{{Value: n}, {Value: 9}} }, 0, 4294967295, "s"},
	{"Stream", func(f *api.Frame, n int64) { f.Stream = n }, 0, 2147483647, ""},
}

func TestWriteNumbers(t *testing.T) {
	for _, k := range knownKinds() {
		for _, x := range numbers {
			if !strings.Contains(partsOf(k.Type, k.Flags), x.part) || x.name == "Stream" && streamsOf(k.Type) != "either" {
				continue
			}
			for _, base := range []api.Frame{plainFrame(k.Type, k.Flags), fullFrame(k.Type, k.Flags)} {
				for _, n := range []int64{x.from, x.from + 1, x.to - 1, x.to} {
					x.lay(&base, n)
					wantWrite(t, base)
					wantBack(t, base, 0, "behind")
				}
				for _, n := range []int64{x.from - 1, x.to + 1, -x.to, -1, x.to + 256, x.to + 1<<32, 1 << 31 << 1, 1 << 40, math.MaxInt64, math.MinInt64} {
					x.lay(&base, n)
					wantRefused(t, base, api.ErrFrame)
				}
			}
		}
	}
}

func TestWriteStreams(t *testing.T) {
	for kind := range 256 {
		f := plainFrame(kind, 0)
		for _, x := range []struct {
			stream int64
			right  bool
		}{
			{0, !slices.Contains([]int{0, 1, 2, 3, 5, 9}, kind)},
			{1, !slices.Contains([]int{4, 6, 7}, kind)},
			{2147483647, !slices.Contains([]int{4, 6, 7}, kind)},
			{-1, false}, {2147483648, false}, {2147483649, false}, {1 << 32, false}, {1<<32 + 1, false}, {math.MaxInt64, false}, {math.MinInt64, false},
		} {
			f.Stream = x.stream
			if x.right {
				wantWrite(t, f)
				wantBack(t, f, 0, "")
			} else {
				wantRefused(t, f, api.ErrFrame)
			}
		}
	}
}

func TestWriteTypes(t *testing.T) {
	for kind := 10; kind <= 255; kind++ {
		wantBytes(t, api.Frame{Type: kind, Stream: 1, Data: "x"}, "\x00\x00\x01"+string([]byte{byte(kind)})+"\x00\x00\x00\x00\x01x")
	}
	for _, kind := range []int{-1, -2, -255, -256, 256, 257, 259, 264, 266, 511, 512, 1 << 32, math.MaxInt, math.MinInt} {
		for _, stream := range []int64{0, 1} {
			for _, flags := range []int{0, 1, 8, 255} {
				wantRefused(t, api.Frame{Type: kind, Flags: flags, Stream: stream}, api.ErrFrame)
				wantRefused(t, api.Frame{Type: kind, Flags: flags, Stream: stream, Data: "12345678"}, api.ErrFrame)
				wantRefused(t, api.Frame{Type: kind, Flags: flags, Stream: stream, Weight: 1}, api.ErrFrame)
			}
		}
	}
}

// TestWriteFlags: each type with all flags; those that it hasn't are refused,
// whatever else the frame has.
func TestWriteFlags(t *testing.T) {
	has := []int{9, 45, 0, 0, 1, 12, 1, 0, 0, 4, 255, 255}
	for kind, all := range has {
		for flags := range 256 {
			if flags&^all == 0 {
				wantWrite(t, plainFrame(kind, flags))
				wantWrite(t, fullFrame(kind, flags))
				wantBack(t, fullFrame(kind, flags), 0, "")
				continue
			}
			for _, f := range []api.Frame{plainFrame(kind, flags&all), fullFrame(kind, flags&all)} {
				f.Flags = flags
				wantRefused(t, f, api.ErrFrame)
				f.Pad = 2
				wantRefused(t, f, api.ErrFrame)
			}
		}
		for _, flags := range []int{-1, -8, 256, 256 + 1, 256 + 8, 512, 1 << 32, math.MaxInt, math.MinInt, math.MinInt + 1} {
			for _, f := range []api.Frame{plainFrame(kind, 0), fullFrame(kind, all)} {
				f.Flags = flags
				wantRefused(t, f, api.ErrFrame)
			}
		}
	}
}

// TestWriteForeign: a field that the type (with its flags) hasn't is zero.
func TestWriteForeign(t *testing.T) {
	fields := []struct {
		lay   func(f *api.Frame)
		parts string // of a frame that may have it
	}{
		{func(f *api.Frame) { f.Data = "x" }, "de"},
		{func(f *api.Frame) { f.Data = "12345678" }, "de"},
		{func(f *api.Frame) { f.Pad = 1 }, "n"},
		{func(f *api.Frame) { f.Dep = 1 }, "p"},
		{func(f *api.Frame) { f.Excl = true }, "p"},
		{func(f *api.Frame) { f.Weight = 1 }, "p"},
		{func(f *api.Frame) { f.Weight = 16 }, "p"},
		{func(f *api.Frame) { f.Code = 1 }, "c"},
		{func(f *api.Frame) { f.Last = 1 }, "l"},
		{func(f *api.Frame) { f.Params = []api.Param{{}} }, "s"},
		{func(f *api.Frame) { f.Params = []api.Param{{ID: 1, Value: 1}} }, "s"},
		{func(f *api.Frame) { f.Pad = -1 }, ""},
		{func(f *api.Frame) { f.Pad = 256 }, ""},
		{func(f *api.Frame) { f.Dep = 1 << 32 }, ""},
		{func(f *api.Frame) { f.Weight = -1 }, ""},
		{func(f *api.Frame) { f.Weight = 257 }, ""},
		{func(f *api.Frame) { f.Code = 1 << 32 }, ""},
		{func(f *api.Frame) { f.Last = 1 << 31 }, ""},
		{func(f *api.Frame) { f.Params = []api.Param{{ID: 65536}} }, ""},
		{func(f *api.Frame) { f.Params = []api.Param{{ID: -1}} }, ""},
		{func(f *api.Frame) { f.Params = []api.Param{{Value: 1 << 32}} }, ""},
	}
	for _, k := range knownKinds() {
		for _, x := range fields {
			if strings.ContainsAny(partsOf(k.Type, k.Flags), x.parts) {
				continue
			}
			for _, f := range []api.Frame{plainFrame(k.Type, k.Flags), fullFrame(k.Type, k.Flags)} {
				x.lay(&f)
				wantRefused(t, f, api.ErrFrame)
			}
		}
	}
}

func TestWritePing(t *testing.T) {
	for _, flags := range []int{0, 1} {
		for n := range 20 {
			f := api.Frame{Type: 6, Flags: flags, Data: strings.Repeat("p", n)}
			if n == 8 {
				wantBytes(t, f, "\x00\x00\x08\x06"+string([]byte{byte(flags)})+"\x00\x00\x00\x00pppppppp")
			} else {
				wantRefused(t, f, api.ErrFrame)
			}
		}
	}
}

func TestWriteSettings(t *testing.T) {
	wantRefused(t, api.Frame{Type: 4, Flags: 1, Params: []api.Param{{}}}, api.ErrFrame)
	wantRefused(t, api.Frame{Type: 4, Flags: 1, Params: make([]api.Param, 20000)}, api.ErrFrame)
	wantBytes(t, api.Frame{Type: 4, Flags: 1, Params: []api.Param{}}, "\x00\x00\x00\x04\x01\x00\x00\x00\x00")
	wantBytes(t, api.Frame{Type: 4, Params: []api.Param{}}, "\x00\x00\x00\x04\x00\x00\x00\x00\x00")
	for at := range 5 { // a wrong one of several
		for _, wrong := range []api.Param{{ID: -1}, {ID: 65536}, {Value: -1}, {Value: 1 << 32}} {
			params := slices.Repeat([]api.Param{{ID: 3, Value: 7}}, 5)
			params[at] = wrong
			wantRefused(t, api.Frame{Type: 4, Params: params}, api.ErrFrame)
		}
	}
	most := api.Frame{Type: 4, Params: slices.Repeat([]api.Param{{ID: 258, Value: 4294967295}}, 10922)}
	wantWrite(t, most)
	wantBack(t, most, 65536, "x")
	most.Params = append(most.Params, api.Param{})
	wantRefused(t, most, api.ErrLong)
	most.Params[10922].ID = -1
	wantRefused(t, most, api.ErrFrame)
}

// TestWriteLong: each type that can be long, with all that stands beside Data.
func TestWriteLong(t *testing.T) {
	for _, x := range []struct {
		f      api.Frame
		beside int // bytes of the payload that aren't Data
	}{
		{api.Frame{Stream: 1}, 0},
		{api.Frame{Stream: 1, Flags: 8}, 1},
		{api.Frame{Stream: 1, Flags: 8, Pad: 1}, 2},
		{api.Frame{Stream: 1, Flags: 9, Pad: 255}, 256},
		{api.Frame{Type: 1, Stream: 1}, 0},
		{api.Frame{Type: 1, Stream: 1, Flags: 8, Pad: 255}, 256},
		{api.Frame{Type: 1, Stream: 1, Flags: 32, Weight: 1}, 5},
		{api.Frame{Type: 1, Stream: 1, Flags: 40, Weight: 1, Pad: 10}, 16},
		{api.Frame{Type: 5, Stream: 1}, 4},
		{api.Frame{Type: 5, Stream: 1, Flags: 8, Pad: 20}, 25},
		{api.Frame{Type: 7}, 8},
		{api.Frame{Type: 9, Stream: 1}, 0},
		{api.Frame{Type: 10, Flags: 255}, 0},
		{api.Frame{Type: 255}, 0},
	} {
		x.f.Data = strings.Repeat("x", 65536-x.beside)
		wantWrite(t, x.f)
		wantBack(t, x.f, 65536, "behind")
		if b, _ := frame.Write(x.f); len(b) != 65545 || !strings.HasPrefix(b, "\x01\x00\x00") {
			t.Errorf("P6.1: Write(%s) has %d bytes, %.3x first", shown(x.f), len(b), b)
		}
		x.f.Data += "x"
		wantRefused(t, x.f, api.ErrLong)
		x.f.Data = strings.Repeat("x", 1<<24+3) // more than the three bytes of a length can tell
		wantRefused(t, x.f, api.ErrLong)
		x.f.Stream = -1
		wantRefused(t, x.f, api.ErrFrame)
	}
	wantRefused(t, api.Frame{Type: 6, Data: strings.Repeat("x", 70000)}, api.ErrFrame)
	wantRefused(t, api.Frame{Type: 3, Stream: 1, Data: strings.Repeat("x", 70000)}, api.ErrFrame)
	wantRefused(t, api.Frame{Data: strings.Repeat("x", 70000)}, api.ErrFrame)
}
