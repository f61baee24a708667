package block_test

import (
	"fmt"
	"reflect"
	"strings"

	"herald/api"
	"herald/block"
)

// The model of a joiner keeps every frame that was ever pushed, and finds its answer
// by going through all of them anew, in the chapter's words. That of Split lays the
// block's bytes into frames one by one.

const (
	mostBlock  = 131072
	leastSize  = 16384
	mostSize   = 65536
	argError   = api.Errno(1)
	longError  = api.Errno(3)
	endHeaders = 4
	padded     = 8
	priority   = 32
	least      = -1 << 63
	greatest   = 1<<63 - 1
)

var (
	none          = api.Fault{}
	protocolError = api.Fault{Code: 1}
	tooMuch       = api.Fault{Code: 11}
)

// told is all that one Push answers, and what Busy says behind it.
type told struct {
	whole bool
	head  api.Frame
	block string
	fault api.Fault
	busy  bool
}

func push(j *block.Joiner, f api.Frame) told {
	var x told
	x.whole, x.head, x.block, x.fault = j.Push(f)
	x.busy = j.Busy()
	return x
}

type model struct{ pushed []api.Frame }

func (m *model) push(f api.Frame) told {
	m.pushed = append(m.pushed, deepCopy(f))
	rest := m.pushed
	for len(rest) > 0 {
		switch rest[0].Type {
		case 9:
			return told{fault: protocolError}
		case 1, 5:
			n, x := firstBlock(rest)
			if n == len(rest) || !x.whole {
				return x
			}
			rest = rest[n:]
		default:
			rest = rest[1:]
		}
	}
	return told{}
}

// firstBlock is of frames that begin with a head frame: how many of them are the block's, and what the last of these is told.
func firstBlock(frames []api.Frame) (int, told) {
	head, sum := frames[0], ""
	for i, f := range frames {
		if i > 0 && (f.Type != 9 || f.Stream != head.Stream) {
			return i + 1, told{fault: protocolError}
		}
		sum += f.Data
		if len(sum) > mostBlock {
			return i + 1, told{fault: tooMuch}
		}
		if has(f.Flags, endHeaders) {
			head.Data, head.Flags = "", with(head.Flags, endHeaders)
			return i + 1, told{whole: true, head: head, block: sum}
		}
	}
	return len(frames), told{busy: true}
}

// has goes by a flag's place among the bits, at negative numbers too.
func has(flags, flag int) bool { return uint64(flags)/uint64(flag)%2 == 1 }

func with(flags, flag int) int {
	if has(flags, flag) {
		return flags
	}
	return flags + flag
}

func without(flags, flag int) int {
	if has(flags, flag) {
		return flags - flag
	}
	return flags
}

// room is the chapter's: how many bytes of a block a head frame can carry.
func room(head api.Frame, size int64) int64 {
	for _, less := range []struct {
		holds bool
		by    int64
	}{
		{has(head.Flags, padded), 1 + int64(head.Pad)},
		{head.Type == 1 && has(head.Flags, priority), 5},
		{head.Type == 5, 4},
	} {
		if less.holds {
			size -= less.by
		}
	}
	return size
}

func modelSplit(head api.Frame, text string, size int64) ([]api.Frame, api.Errno) {
	for _, wrong := range []bool{
		head.Type != 1 && head.Type != 5, len(head.Data) > 0, head.Stream <= 0,
		head.Pad < 0 || head.Pad > 255, head.Pad != 0 && !has(head.Flags, padded),
		size < leastSize || size > mostSize,
	} {
		if wrong {
			return nil, argError
		}
	}
	if len(text) > mostBlock {
		return nil, longError
	}
	first := deepCopy(head)
	first.Flags = without(first.Flags, endHeaders)
	frames, left, from := []api.Frame{first}, room(head, size), 0
	for at := range len(text) {
		if left == 0 {
			frames[len(frames)-1].Data = text[from:at]
			frames, left, from = append(frames, api.Frame{Type: 9, Stream: head.Stream}), size, at
		}
		left--
	}
	last := &frames[len(frames)-1]
	last.Data, last.Flags = text[from:], with(last.Flags, endHeaders)
	return frames, 0
}

func deepCopy(f api.Frame) api.Frame {
	f.Params = append([]api.Param(nil), f.Params...)
	return f
}

// sameFrame takes an empty list of Params for none.
func sameFrame(a, b api.Frame) bool { return reflect.DeepEqual(deepCopy(a), deepCopy(b)) }

func same(a, b told) bool {
	return a.whole == b.whole && sameFrame(a.head, b.head) && a.block == b.block && a.fault == b.fault && a.busy == b.busy
}

func sameFrames(a, b []api.Frame) bool {
	if len(a) != len(b) {
		return false
	}
	for i := range a {
		if !sameFrame(a[i], b[i]) {
			return false
		}
	}
	return true
}

// Frames, texts and answers as a failed test shows them.

func shownText(s string) string {
	if len(s) > 24 {
		return fmt.Sprintf("%q.. (%d bytes)", s[:8], len(s))
	}
	return fmt.Sprintf("%q", s)
}

func shown(f api.Frame) string {
	text := shownText(f.Data)
	f.Data = ""
	return fmt.Sprintf("%d+%d of %d with %s, %+v", f.Type, f.Flags, f.Stream, text, f)
}

func shownAll(frames []api.Frame) string {
	var lines []string
	for _, f := range frames {
		lines = append(lines, fmt.Sprintf("%d+%d of %d pad %d with %s", f.Type, f.Flags, f.Stream, f.Pad, shownText(f.Data)))
	}
	return "[" + strings.Join(lines, "; ") + "]"
}

func (x told) String() string {
	return fmt.Sprintf("(%v, %s, %s, %v; busy %v)", x.whole, shown(x.head), shownText(x.block), x.fault, x.busy)
}

// Short names of the chapter's examples.

func headers(flags int, data string) api.Frame {
	return api.Frame{Type: 1, Flags: flags, Stream: 1, Data: data}
}

func promise(flags int, data string) api.Frame {
	return api.Frame{Type: 5, Flags: flags, Stream: 1, Last: 2, Data: data}
}

func continuation(flags int, data string) api.Frame {
	return api.Frame{Type: 9, Flags: flags, Stream: 1, Data: data}
}

func of(stream int64, f api.Frame) api.Frame {
	f.Stream = stream
	return f
}

func padTo(pad int, f api.Frame) api.Frame {
	f.Pad = pad
	return f
}

// bytesOf are n bytes that don't repeat soon, so that a piece that stands elsewhere shows.
func bytesOf(n int) string {
	b := make([]byte, n)
	x := uint32(1)
	for i := range b {
		x = x*1664525 + 1013904223
		b[i] = byte(x >> 24)
	}
	return string(b)
}
