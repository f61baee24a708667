package run

import (
	"strconv"

	"herald/api"
)

const (
	lineEnd = "\n"

	okWord = "ok"
	noWord = "no"
)

// gatherer gathers lines, a command's behind those of the ones ahead.
type gatherer interface {
	// begin says that the lines of the next command follow.
	begin()
	// take takes one of its lines; false: there is no room for them, and no more
	// of them are to be handed in.
	take(line string) bool
}

// told is all lines so far.
type told struct {
	bytes []byte
	ahead int // so many of them were told ahead of the command
}

func (t *told) begin() { t.ahead = len(t.bytes) }

func (t *told) take(line string) bool {
	hasRoom := len(t.bytes)+len(line)+len(lineEnd) <= api.MaxTold
	if !hasRoom {
		t.bytes, line = t.bytes[:t.ahead], refused(api.ErrLong)
	}
	t.bytes = append(append(t.bytes, line...), lineEnd...)
	return hasRoom
}

func refused(e api.Errno) string { return noWord + " " + strconv.Itoa(int(e)) }
