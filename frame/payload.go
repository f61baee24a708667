package frame

import (
	"strings"

	"herald/api"
)

const (
	prioritySize = 5
	paramSize    = 6
	pingSize     = 8
	exclusive    = 1 << 31 // the bit of a priority that is Excl
)

// payload is what stands between the bytes of a frame's padding: which lengths
// it may have, and how it is written and read. Take is given a length that fits.
type payload struct {
	fits func(n int) bool
	put  func(b []byte, f api.Frame) []byte
	take func(f *api.Frame, b string)
}

// payloadOf goes by the type, and by the flags that say what stands there.
func payloadOf(f api.Frame) payload {
	switch f.Type {
	case api.FrameHeaders:
		if f.Flags&api.Priority != 0 {
			return payload{atLeast(prioritySize), putHeaders, takeHeaders}
		}
	case api.FramePriority:
		return payload{exactly(prioritySize), putPriority, takePriority}
	case api.FrameReset:
		return payload{exactly(4), putCode, takeCode}
	case api.FrameSettings:
		if f.Flags&api.Ack != 0 {
			return payload{exactly(0), putParams, takeParams}
		}
		return payload{timesOf(paramSize), putParams, takeParams}
	case api.FramePromise:
		return payload{atLeast(4), putPromise, takePromise}
	case api.FramePing:
		return payload{exactly(pingSize), putData, takeData}
	case api.FrameGoAway:
		return payload{atLeast(8), putGoAway, takeGoAway}
	case api.FrameWindow:
		return payload{exactly(4), putLast, takeLast}
	}
	return payload{atLeast(0), putData, takeData}
}

func exactly(size int) func(int) bool { return func(n int) bool { return n == size } }

func atLeast(size int) func(int) bool { return func(n int) bool { return n >= size } }

func timesOf(size int) func(int) bool { return func(n int) bool { return n%size == 0 } }

func putData(b []byte, f api.Frame) []byte { return append(b, f.Data...) }

// takeData copies, so that a frame keeps no hold of the bytes it was read from.
func takeData(f *api.Frame, b string) { f.Data = strings.Clone(b) }

func putPriority(b []byte, f api.Frame) []byte {
	dep := f.Dep & lastStream
	if f.Excl {
		dep |= exclusive
	}
	return append(putNumber(b, dep, 4), byte(f.Weight-1))
}

func takePriority(f *api.Frame, b string) {
	dep := number(b[:4])
	f.Dep, f.Excl = dep&lastStream, dep&exclusive != 0
	f.Weight = int(b[4]) + 1
}

func putHeaders(b []byte, f api.Frame) []byte { return putData(putPriority(b, f), f) }

func takeHeaders(f *api.Frame, b string) {
	takePriority(f, b[:prioritySize])
	takeData(f, b[prioritySize:])
}

func putCode(b []byte, f api.Frame) []byte { return putNumber(b, f.Code, 4) }

func takeCode(f *api.Frame, b string) { f.Code = number(b) }

func putLast(b []byte, f api.Frame) []byte { return putNumber(b, f.Last&lastStream, 4) }

func takeLast(f *api.Frame, b string) { f.Last = number(b) & lastStream }

func putPromise(b []byte, f api.Frame) []byte { return putData(putLast(b, f), f) }

func takePromise(f *api.Frame, b string) {
	takeLast(f, b[:4])
	takeData(f, b[4:])
}

func putGoAway(b []byte, f api.Frame) []byte { return putData(putCode(putLast(b, f), f), f) }

func takeGoAway(f *api.Frame, b string) {
	takeLast(f, b[:4])
	takeCode(f, b[4:8])
	takeData(f, b[8:])
}

func putParams(b []byte, f api.Frame) []byte {
	for _, p := range f.Params {
		b = putNumber(putNumber(b, int64(p.ID), 2), p.Value, 4)
	}
	return b
}

func takeParams(f *api.Frame, b string) {
	for ; b != ""; b = b[paramSize:] {
		f.Params = append(f.Params, api.Param{ID: int(number(b[:2])), Value: number(b[2:paramSize])})
	}
}

// putNumber lays the lowest bytes of v behind b, the highest of them first.
func putNumber(b []byte, v int64, size int) []byte {
	for i := range size {
		b = append(b, byte(v>>(8*(size-1-i))))
	}
	return b
}

func number(b string) int64 {
	v := int64(0)
	for i := range len(b) {
		v = v<<8 | int64(b[i])
	}
	return v
}
