package trace_test

import (
	"fmt"
	"slices"
	"testing"

	"herald/api"
)

// rightFrames has one of each type, and some with other flags.
func rightFrames() []api.Frame {
	return []api.Frame{
		bytes(1, 0, 1), bytes(1, ends, 0), head(1, whole), head(1, ends|whole), head(1, 0), orders(1), resets(1), acks(), list(), list(param(4, 7)), promises(1, 2), pings("12345678"), pongs("12345678"),
		leaves(), gives(0, 1), gives(1, 1), more(1, whole), {Type: 10}, {Type: 255, Flags: 255, Stream: 9, Data: "x"},
	}
}

// TestFirstEntries: the first that is sent, and the first that is got, are SETTINGS
// without Ack, and nothing else.
func TestFirstEntries(t *testing.T) {
	for _, f := range rightFrames() {
		code := int64(protocol)
		if isList(f) {
			code = 0
		}
		for _, client := range []bool{true, false} {
			wantBoth(t, client, code, s(f))
			// The other way's SETTINGS don't count for this one.
			wantBoth(t, client, code, g(list()), s(f))
			wantBoth(t, client, code, g(list()), g(pings("12345678")), g(list()), g(gives(0, 9)), s(f))
		}
	}
	for _, client := range []bool{true, false} {
		wantTaken(t, client, s(list()), g(list()))
		wantTaken(t, client, g(list()), s(list()), s(acks()), g(acks()))
		wantAt(t, client, 1, protocol, s(list()), g(acks()))
		wantAt(t, client, 0, protocol, g(acks()))
	}
}

// wrongFrames has for each reason frames that may not be written.
func wrongFrames() []api.Frame {
	var l []api.Frame
	for _, kind := range []int{-1, 256, 1 << 40} {
		l = append(l, api.Frame{Type: kind, Stream: 1})
	}
	for _, stream := range []int64{-1, 1 << 31, 1 << 40} {
		for kind := range 12 {
			f := api.Frame{Type: kind, Stream: stream}
			if kind == ping {
				f.Data = "12345678"
			}
			l = append(l, f)
		}
	}
	for _, f := range rightFrames() {
		if f.Type < 10 {
			f.Flags |= 64
			l = append(l, f)
		}
	}
	for _, kind := range []int{data, headers, priority, reset, promise, continuation} {
		l = append(l, api.Frame{Type: kind, Weight: kind / 2 % 2})
	}
	for _, f := range []api.Frame{list(), acks(), pings("12345678"), leaves()} {
		f.Stream = 1
		l = append(l, f)
	}
	one := func(f api.Frame, change func(*api.Frame)) {
		change(&f)
		l = append(l, f)
	}
	one(bytes(1, 0, 1), func(f *api.Frame) { f.Pad = 1 })
	one(bytes(1, padded, 1), func(f *api.Frame) { f.Pad = 256 })
	one(bytes(1, padded, 1), func(f *api.Frame) { f.Pad = -1 })
	one(head(1, whole), func(f *api.Frame) { f.Weight = 1 })
	one(head(1, whole), func(f *api.Frame) { f.Excl = true })
	one(head(1, whole|32), func(f *api.Frame) { f.Weight = 0 })
	one(head(1, whole|32), func(f *api.Frame) { f.Weight = 257 })
	one(orders(1), func(f *api.Frame) { f.Dep = -1 })
	one(orders(1), func(f *api.Frame) { f.Data = "x" })
	one(resets(1), func(f *api.Frame) { f.Code = 1 << 32 })
	one(resets(1), func(f *api.Frame) { f.Code = -1 })
	one(leaves(), func(f *api.Frame) { f.Last = -1 })
	one(promises(1, 2), func(f *api.Frame) { f.Last = 1 << 31 })
	one(gives(0, 1), func(f *api.Frame) { f.Last = 1 << 31 })
	one(gives(0, 1), func(f *api.Frame) { f.Last = -1 })
	one(gives(0, 1), func(f *api.Frame) { f.Code = 1 })
	one(acks(), func(f *api.Frame) { f.Params = []api.Param{{ID: 4, Value: 5}} })
	one(list(), func(f *api.Frame) { f.Params = []api.Param{{ID: -1, Value: 5}} })
	one(list(), func(f *api.Frame) { f.Params = []api.Param{{ID: 65536, Value: 5}} })
	one(list(), func(f *api.Frame) { f.Params = []api.Param{{ID: 4, Value: -1}} })
	one(list(), func(f *api.Frame) { f.Params = []api.Param{{ID: 4, Value: 1 << 32}} })
	one(list(), func(f *api.Frame) { f.Data = "x" })
	one(pings("1234567"), func(f *api.Frame) {})
	one(pings("123456789"), func(f *api.Frame) {})
	one(pings(""), func(f *api.Frame) {})
	one(more(1, whole), func(f *api.Frame) { f.Last = 2 })
	one(api.Frame{Type: 10}, func(f *api.Frame) { f.Flags = 256 })
	one(api.Frame{Type: 10}, func(f *api.Frame) { f.Flags = -1 })
	one(api.Frame{Type: 10}, func(f *api.Frame) { f.Pad = 1 })
	return l
}

// TestWrongFrames: what may not be written is ProtocolError, wherever it stands.
func TestWrongFrames(t *testing.T) {
	for i, f := range wrongFrames() {
		for _, client := range []bool{true, false} {
			for _, l := range [][]api.Entry{nil, met(), met(g(leaves()))} {
				for _, sent := range []bool{true, false} {
					all := append(slices.Clone(l), went(sent, f))
					if at, j := modelCheck(all, client); at != len(l) || j.why != "ErrFrame" {
						t.Fatalf("frame %d, %s, is refused for another reason: %s", i, shownEntry(s(f)), j.why)
					}
					wantLast(t, client, protocol, all...)
				}
			}
		}
	}
}

// sized is a frame of each type whose payload may be so long, and the streams that it
// needs ahead of it, at the end that sends it.
type sized struct {
	client bool
	ahead  []api.Entry
	step   int // by which it may be longer
	make   func(n int) api.Frame
}

func allSized() []sized {
	asked := []api.Entry{s(head(1, whole))}
	got := []api.Entry{g(head(1, whole))}
	lists := func(n int) api.Frame { // so many bytes, of six each
		f := list()
		for range n / 6 {
			f.Params = append(f.Params, param(77, 1))
		}
		return f
	}
	withPad := func(f api.Frame, n, pad, flags int) api.Frame {
		f = of(f, n)
		f.Flags |= flags
		f.Pad = pad
		return f
	}
	return []sized{
		{true, asked, 1, func(n int) api.Frame { return bytes(1, 0, n) }},
		{true, asked, 1, func(n int) api.Frame { return withPad(bytes(1, 0, 0), n-101, 100, padded) }},
		{true, nil, 1, func(n int) api.Frame { return of(head(1, whole), n) }},
		{true, nil, 1, func(n int) api.Frame { return withPad(head(1, whole), n-256, 255, padded) }},
		{true, nil, 1, func(n int) api.Frame {
			f := withPad(head(1, whole), n-5, 0, 32)
			f.Weight = 1
			return f
		}},
		{true, []api.Entry{s(head(1, 0))}, 1, func(n int) api.Frame { return of(more(1, whole), n) }},
		{true, nil, 6, lists},
		{true, nil, 1, func(n int) api.Frame { return of(leaves(), n-8) }},
		{true, nil, 1, func(n int) api.Frame { return of(api.Frame{Type: 10}, n) }},
		{false, got, 1, func(n int) api.Frame { return of(promises(1, 2), n-4) }},
		{false, got, 1, func(n int) api.Frame { return withPad(promises(1, 2), n-4-9, 8, padded) }},
		{false, nil, 1, func(n int) api.Frame { return of(api.Frame{Type: 255, Flags: 8, Stream: 3}, n) }},
	}
}

// TestSizes: payloads at and just above the size in force, of every type that has
// some, ahead of and behind the acknowledgement that changes it.
func TestSizes(t *testing.T) {
	for i, x := range allSized() {
		// The end to which it goes says 20000, then less.
		l := []api.Entry{s(list()), g(list(param(5, 20000))), s(acks()), g(acks())}
		try := func(what string, l []api.Entry, most int) {
			t.Helper()
			n := most / x.step * x.step
			t.Run(fmt.Sprint(i, " ", what), func(t *testing.T) {
				wantBoth(t, x.client, 0, append(slices.Concat(l, x.ahead), s(x.make(n)))...)
				wantBoth(t, x.client, sizing, append(slices.Concat(l, x.ahead), s(x.make(n+x.step)))...)
			})
		}
		try("at first", l[:2], 16384)
		try("acknowledged", l[:3], 20000)
		lower := append(slices.Clone(l), g(list(param(5, 16384))))
		try("lowered, not acknowledged", lower, 20000)
		try("lowered", append(lower, s(acks())), 16384)
		two := append(slices.Clone(l), g(list(param(5, 17000))), g(list(param(5, 18000))), s(acks()))
		try("one of two", two, 17000)
		try("both", append(two, s(acks())), 18000)
		// What the sender says of itself is the other way's.
		try("the other way's", []api.Entry{s(list(param(5, 30000))), g(list()), s(acks()), g(acks())}, 16384)
		try("twice in a list", []api.Entry{s(list()), g(list(param(5, 30000), param(5, 19000))), s(acks())}, 19000)
	}
}

// TestGreatestFrame: whatever is allowed, above 65536 bytes nothing may be written.
func TestGreatestFrame(t *testing.T) {
	for _, most := range []int64{65536, 65537, 16777215} {
		l := []api.Entry{s(list()), g(list(param(5, most))), s(acks())}
		for _, client := range []bool{true, false} {
			wantBoth(t, client, 0, append(l, s(of(api.Frame{Type: 10}, 65536)))...)
			wantBoth(t, client, sizing, append(l, s(of(api.Frame{Type: 10}, 65537)))...)
			wantBoth(t, client, sizing, append(l, s(of(api.Frame{Type: 10}, 70000)))...)
		}
	}
	l := []api.Entry{s(list()), g(list(param(5, 65535))), s(acks())}
	wantBoth(t, true, 0, append(l, s(of(api.Frame{Type: 10}, 65535)))...)
	wantBoth(t, true, sizing, append(l, s(of(api.Frame{Type: 10}, 65536)))...)
}
